/- First, wrong and with over the landed code. -/
import Derived.Test.YtkjdjicchmfljaaZRef
namespace Go.Proofs.Ytkjdjicchmfljaa
open Go.RowKit Zs

/-- What is wrong with a setting by itself. -/
def wrg (x v : Int) : Nat :=
  if x = 2 then (if v < 0 ∨ 1 < v then 1 else 0) else if x = 4 then (if 2147483647 < v then 3 else 0) else if x = 5 then (if v < 16384 ∨ 16777215 < v then 1 else 0) else 0
/-- Behind one good setting. -/
def wth (s : St) (x v : Int) : St :=
  if x = 1 then { s with table := cap v } else if x = 2 then { s with push := v } else if x = 3 then { s with streams := cap v }
  else if x = 4 then { s with window := v } else if x = 5 then { s with frame := v } else if x = 6 then { s with list := cap v } else s
theorem one_wrg (s : St) (x v : Int) (h : wrg x v ≠ 0) : one s (x, v) = (zeroSt, wrg x v) := by
  unfold wrg at h ⊢
  unfold one
  simp only []
  by_cases h2 : x = 2
  · subst h2
    simp only [if_true] at h ⊢
    by_cases hv : v < 0 ∨ 1 < v
    · simp [hv]
    · simp [hv] at h
  by_cases h4 : x = 4
  · subst h4
    by_cases hv : 2147483647 < v
    · simp [hv]
    · simp [hv] at h
  by_cases h5 : x = 5
  · subst h5
    by_cases hv : v < 16384 ∨ 16777215 < v
    · simp [hv]
    · simp [hv] at h
  simp [h2, h4, h5] at h
theorem one_wth (s : St) (x v : Int) (h : wrg x v = 0) : one s (x, v) = (wth s x v, 0) := by
  unfold wrg at h
  unfold one wth
  simp only []
  by_cases h1 : x = 1
  · simp [h1]
  by_cases h2 : x = 2
  · subst h2
    by_cases hv : v < 0 ∨ 1 < v
    · simp [hv] at h
    · simp [hv]
  by_cases h3 : x = 3
  · simp [h3]
  by_cases h4 : x = 4
  · subst h4
    by_cases hv : 2147483647 < v
    · simp [hv] at h
    · simp [hv]
  by_cases h5 : x = 5
  · subst h5
    by_cases hv : v < 16384 ∨ 16777215 < v
    · simp [hv] at h
    · simp [hv]
  by_cases h6 : x = 6
  · simp [h6]
  simp [h1, h2, h3, h4, h5, h6]
theorem zfirst_f (w : World) : Calls Try.prog 10 #[] w (SPost w firstSt) := by
  go_enter Try.func10, Try.ntmps10
  go_wp2
  refine bodyPost_ret (v := stv firstSt) (by simp [results, Try.results10, go_sem, stv, firstSt]) rfl ?_
  exact ⟨rfl, (Below.refl _ _).alloc (Nat.le_refl _) _⟩
def NPostZ (w : World) (n : Nat) (e : Ending) (w' : World) : Prop := e = .returned (.int .i64 (n : Int)) ∧ Below w.heap.size w w'
/-- A setting laid as a block. -/
theorem box2 (w : World) (x v : Int) : (w.alloc (.cells #[.int .i64 x, .int .i64 v] 33)).heap[w.heap.size]? = some (.cells #[.int .i64 x, .int .i64 v] 33 (0, 0)) ∧ Below w.heap.size w (w.alloc (.cells #[.int .i64 x, .int .i64 v] 33)) := ⟨heap_alloc_new w _, (Below.refl _ _).alloc (Nat.le_refl _) _⟩
set_option maxRecDepth 100000 in
set_option maxHeartbeats 4000000 in
theorem wrong_2a (x : Int) (w : World) (h2 : x = 2) : Calls Try.prog 12 #[.agg #[.int .i64 x, .int .i64 0]] w (NPostZ w 0) := by
  have k2 : (x == 2) = true := by rw [h2]; rfl
  obtain ⟨hk, hb⟩ := box2 w x 0
  obtain ⟨w1, hw1⟩ : ∃ z, z = w.alloc (.cells #[.int .i64 x, .int .i64 0] 33) := ⟨_, rfl⟩
  obtain ⟨g, hg⟩ : ∃ g, g = w.heap.size := ⟨_, rfl⟩
  rw [← hw1, ← hg] at hk
  rw [← hw1] at hb
  have HG := Lib.hid hg
  have HB := Lib.hid hb
  have HW := Lib.hid hw1
  have d0 : w1.cell? ⟨g, 0, none⟩ = some (.int .i64 x) := cell_of_row _ g 0 _ 33 _ hk
  have d1 : w1.cell? ⟨g, 1, none⟩ = some (.int .i64 0) := cell_of_row _ g 1 _ 33 _ hk
  clear hk hb hw1 hg h2
  go_enter Try.func12, Try.ntmps12
  go_upto_region 1 with fail
  rw [← HW.out, ← HG.out]
  go_wp2
  go_ret
  exact ⟨rfl, HB.out⟩
set_option maxRecDepth 100000 in
set_option maxHeartbeats 4000000 in
theorem wrong_2b (x : Int) (w : World) (h2 : x = 2) : Calls Try.prog 12 #[.agg #[.int .i64 x, .int .i64 1]] w (NPostZ w 0) := by
  have k2 : (x == 2) = true := by rw [h2]; rfl
  obtain ⟨hk, hb⟩ := box2 w x 1
  obtain ⟨w1, hw1⟩ : ∃ z, z = w.alloc (.cells #[.int .i64 x, .int .i64 1] 33) := ⟨_, rfl⟩
  obtain ⟨g, hg⟩ : ∃ g, g = w.heap.size := ⟨_, rfl⟩
  rw [← hw1, ← hg] at hk
  rw [← hw1] at hb
  have HG := Lib.hid hg
  have HB := Lib.hid hb
  have HW := Lib.hid hw1
  have d0 : w1.cell? ⟨g, 0, none⟩ = some (.int .i64 x) := cell_of_row _ g 0 _ 33 _ hk
  have d1 : w1.cell? ⟨g, 1, none⟩ = some (.int .i64 1) := cell_of_row _ g 1 _ 33 _ hk
  clear hk hb hw1 hg h2
  go_enter Try.func12, Try.ntmps12
  go_upto_region 1 with fail
  rw [← HW.out, ← HG.out]
  go_wp2
  go_ret
  exact ⟨rfl, HB.out⟩
set_option maxRecDepth 100000 in
set_option maxHeartbeats 4000000 in
theorem wrong_2c (x v : Int) (w : World) (h2 : x = 2) (hv : v < 0 ∨ 1 < v) : Calls Try.prog 12 #[.agg #[.int .i64 x, .int .i64 v]] w (NPostZ w 1) := by
  have k2 : (x == 2) = true := by rw [h2]; rfl
  have v0 : (v == 0) = false := by rw [beq_eq_false_iff_ne]; omega
  have n0 : (v != 0) = true := by rw [bne_iff_ne]; omega
  have u0 : ¬ v = 0 := by omega
  have v1 : (v == 1) = false := by rw [beq_eq_false_iff_ne]; omega
  have n1 : (v != 1) = true := by rw [bne_iff_ne]; omega
  have u1 : ¬ v = 1 := by omega
  obtain ⟨hk, hb⟩ := box2 w x v
  obtain ⟨w1, hw1⟩ : ∃ z, z = w.alloc (.cells #[.int .i64 x, .int .i64 v] 33) := ⟨_, rfl⟩
  obtain ⟨g, hg⟩ : ∃ g, g = w.heap.size := ⟨_, rfl⟩
  rw [← hw1, ← hg] at hk
  rw [← hw1] at hb
  have HG := Lib.hid hg
  have HB := Lib.hid hb
  have HW := Lib.hid hw1
  have d0 : w1.cell? ⟨g, 0, none⟩ = some (.int .i64 x) := cell_of_row _ g 0 _ 33 _ hk
  have d1 : w1.cell? ⟨g, 1, none⟩ = some (.int .i64 v) := cell_of_row _ g 1 _ 33 _ hk
  clear hk hb hw1 hg h2 hv
  go_enter Try.func12, Try.ntmps12
  go_upto_region 1 with fail
  rw [← HW.out, ← HG.out]
  go_wp2
  go_ret
  exact ⟨rfl, HB.out⟩
set_option maxRecDepth 100000 in
set_option maxHeartbeats 4000000 in
theorem wrong_4a (x v : Int) (w : World) (h4 : x = 4) (hv : 2147483647 < v) : Calls Try.prog 12 #[.agg #[.int .i64 x, .int .i64 v]] w (NPostZ w 3) := by
  have k2 : (x == 2) = false := by rw [beq_eq_false_iff_ne]; omega
  have k4 : (x == 4) = true := by rw [h4]; rfl
  obtain ⟨hk, hb⟩ := box2 w x v
  obtain ⟨w1, hw1⟩ : ∃ z, z = w.alloc (.cells #[.int .i64 x, .int .i64 v] 33) := ⟨_, rfl⟩
  obtain ⟨g, hg⟩ : ∃ g, g = w.heap.size := ⟨_, rfl⟩
  rw [← hw1, ← hg] at hk
  rw [← hw1] at hb
  have HG := Lib.hid hg
  have HB := Lib.hid hb
  have HW := Lib.hid hw1
  have d0 : w1.cell? ⟨g, 0, none⟩ = some (.int .i64 x) := cell_of_row _ g 0 _ 33 _ hk
  have d1 : w1.cell? ⟨g, 1, none⟩ = some (.int .i64 v) := cell_of_row _ g 1 _ 33 _ hk
  clear hk hb hw1 hg h4
  go_enter Try.func12, Try.ntmps12
  go_upto_region 1 with fail
  rw [← HW.out, ← HG.out]
  go_wp2
  go_ret
  exact ⟨rfl, HB.out⟩
set_option maxRecDepth 100000 in
set_option maxHeartbeats 4000000 in
theorem wrong_4b (x v : Int) (w : World) (h4 : x = 4) (hv : ¬ 2147483647 < v) : Calls Try.prog 12 #[.agg #[.int .i64 x, .int .i64 v]] w (NPostZ w 0) := by
  have k2 : (x == 2) = false := by rw [beq_eq_false_iff_ne]; omega
  have k4 : (x == 4) = true := by rw [h4]; rfl
  obtain ⟨hk, hb⟩ := box2 w x v
  obtain ⟨w1, hw1⟩ : ∃ z, z = w.alloc (.cells #[.int .i64 x, .int .i64 v] 33) := ⟨_, rfl⟩
  obtain ⟨g, hg⟩ : ∃ g, g = w.heap.size := ⟨_, rfl⟩
  rw [← hw1, ← hg] at hk
  rw [← hw1] at hb
  have HG := Lib.hid hg
  have HB := Lib.hid hb
  have HW := Lib.hid hw1
  have d0 : w1.cell? ⟨g, 0, none⟩ = some (.int .i64 x) := cell_of_row _ g 0 _ 33 _ hk
  have d1 : w1.cell? ⟨g, 1, none⟩ = some (.int .i64 v) := cell_of_row _ g 1 _ 33 _ hk
  clear hk hb hw1 hg h4
  go_enter Try.func12, Try.ntmps12
  go_upto_region 1 with fail
  rw [← HW.out, ← HG.out]
  go_wp2
  go_ret
  exact ⟨rfl, HB.out⟩
set_option maxRecDepth 100000 in
set_option maxHeartbeats 4000000 in
theorem wrong_5a (x v : Int) (w : World) (h5 : x = 5) (hv : v < 16384) : Calls Try.prog 12 #[.agg #[.int .i64 x, .int .i64 v]] w (NPostZ w 1) := by
  have k2 : (x == 2) = false := by rw [beq_eq_false_iff_ne]; omega
  have k4 : (x == 4) = false := by rw [beq_eq_false_iff_ne]; omega
  have k5 : (x == 5) = true := by rw [h5]; rfl
  obtain ⟨hk, hb⟩ := box2 w x v
  obtain ⟨w1, hw1⟩ : ∃ z, z = w.alloc (.cells #[.int .i64 x, .int .i64 v] 33) := ⟨_, rfl⟩
  obtain ⟨g, hg⟩ : ∃ g, g = w.heap.size := ⟨_, rfl⟩
  rw [← hw1, ← hg] at hk
  rw [← hw1] at hb
  have HG := Lib.hid hg
  have HB := Lib.hid hb
  have HW := Lib.hid hw1
  have d0 : w1.cell? ⟨g, 0, none⟩ = some (.int .i64 x) := cell_of_row _ g 0 _ 33 _ hk
  have d1 : w1.cell? ⟨g, 1, none⟩ = some (.int .i64 v) := cell_of_row _ g 1 _ 33 _ hk
  clear hk hb hw1 hg h5
  go_enter Try.func12, Try.ntmps12
  go_upto_region 1 with fail
  rw [← HW.out, ← HG.out]
  go_wp2
  go_ret
  exact ⟨rfl, HB.out⟩
set_option maxRecDepth 100000 in
set_option maxHeartbeats 4000000 in
theorem wrong_5b (x v : Int) (w : World) (h5 : x = 5) (hv : ¬ v < 16384) (hu : 16777215 < v) : Calls Try.prog 12 #[.agg #[.int .i64 x, .int .i64 v]] w (NPostZ w 1) := by
  have k2 : (x == 2) = false := by rw [beq_eq_false_iff_ne]; omega
  have k4 : (x == 4) = false := by rw [beq_eq_false_iff_ne]; omega
  have k5 : (x == 5) = true := by rw [h5]; rfl
  obtain ⟨hk, hb⟩ := box2 w x v
  obtain ⟨w1, hw1⟩ : ∃ z, z = w.alloc (.cells #[.int .i64 x, .int .i64 v] 33) := ⟨_, rfl⟩
  obtain ⟨g, hg⟩ : ∃ g, g = w.heap.size := ⟨_, rfl⟩
  rw [← hw1, ← hg] at hk
  rw [← hw1] at hb
  have HG := Lib.hid hg
  have HB := Lib.hid hb
  have HW := Lib.hid hw1
  have d0 : w1.cell? ⟨g, 0, none⟩ = some (.int .i64 x) := cell_of_row _ g 0 _ 33 _ hk
  have d1 : w1.cell? ⟨g, 1, none⟩ = some (.int .i64 v) := cell_of_row _ g 1 _ 33 _ hk
  clear hk hb hw1 hg h5
  go_enter Try.func12, Try.ntmps12
  go_upto_region 1 with fail
  rw [← HW.out, ← HG.out]
  go_wp2
  go_ret
  exact ⟨rfl, HB.out⟩
set_option maxRecDepth 100000 in
set_option maxHeartbeats 4000000 in
theorem wrong_5c (x v : Int) (w : World) (h5 : x = 5) (hv : ¬ v < 16384) (hu : ¬ 16777215 < v) : Calls Try.prog 12 #[.agg #[.int .i64 x, .int .i64 v]] w (NPostZ w 0) := by
  have k2 : (x == 2) = false := by rw [beq_eq_false_iff_ne]; omega
  have k4 : (x == 4) = false := by rw [beq_eq_false_iff_ne]; omega
  have k5 : (x == 5) = true := by rw [h5]; rfl
  obtain ⟨hk, hb⟩ := box2 w x v
  obtain ⟨w1, hw1⟩ : ∃ z, z = w.alloc (.cells #[.int .i64 x, .int .i64 v] 33) := ⟨_, rfl⟩
  obtain ⟨g, hg⟩ : ∃ g, g = w.heap.size := ⟨_, rfl⟩
  rw [← hw1, ← hg] at hk
  rw [← hw1] at hb
  have HG := Lib.hid hg
  have HB := Lib.hid hb
  have HW := Lib.hid hw1
  have d0 : w1.cell? ⟨g, 0, none⟩ = some (.int .i64 x) := cell_of_row _ g 0 _ 33 _ hk
  have d1 : w1.cell? ⟨g, 1, none⟩ = some (.int .i64 v) := cell_of_row _ g 1 _ 33 _ hk
  clear hk hb hw1 hg h5
  go_enter Try.func12, Try.ntmps12
  go_upto_region 1 with fail
  rw [← HW.out, ← HG.out]
  go_wp2
  go_ret
  exact ⟨rfl, HB.out⟩
set_option maxRecDepth 100000 in
set_option maxHeartbeats 4000000 in
theorem wrong_x (x v : Int) (w : World) (h2 : x ≠ 2) (h4 : x ≠ 4) (h5 : x ≠ 5) : Calls Try.prog 12 #[.agg #[.int .i64 x, .int .i64 v]] w (NPostZ w 0) := by
  have k2 : (x == 2) = false := by rw [beq_eq_false_iff_ne]; exact h2
  have k4 : (x == 4) = false := by rw [beq_eq_false_iff_ne]; exact h4
  have k5 : (x == 5) = false := by rw [beq_eq_false_iff_ne]; exact h5
  obtain ⟨hk, hb⟩ := box2 w x v
  obtain ⟨w1, hw1⟩ : ∃ z, z = w.alloc (.cells #[.int .i64 x, .int .i64 v] 33) := ⟨_, rfl⟩
  obtain ⟨g, hg⟩ : ∃ g, g = w.heap.size := ⟨_, rfl⟩
  rw [← hw1, ← hg] at hk
  rw [← hw1] at hb
  have HG := Lib.hid hg
  have HB := Lib.hid hb
  have HW := Lib.hid hw1
  have d0 : w1.cell? ⟨g, 0, none⟩ = some (.int .i64 x) := cell_of_row _ g 0 _ 33 _ hk
  have d1 : w1.cell? ⟨g, 1, none⟩ = some (.int .i64 v) := cell_of_row _ g 1 _ 33 _ hk
  clear hk hb hw1 hg h2 h4 h5
  go_enter Try.func12, Try.ntmps12
  go_upto_region 1 with fail
  rw [← HW.out, ← HG.out]
  go_wp2
  go_ret
  exact ⟨rfl, HB.out⟩
theorem wrong_f (x v : Int) (w : World) : Calls Try.prog 12 #[.agg #[.int .i64 x, .int .i64 v]] w (NPostZ w (wrg x v)) := by
  unfold wrg
  by_cases h2 : x = 2
  · rw [if_pos h2]
    by_cases hv : v < 0 ∨ 1 < v
    · rw [if_pos hv]; exact wrong_2c x v w h2 hv
    · rw [if_neg hv]
      by_cases h0 : v = 0
      · subst h0; exact wrong_2a x w h2
      · obtain rfl : v = 1 := by omega
        exact wrong_2b x w h2
  rw [if_neg h2]
  by_cases h4 : x = 4
  · rw [if_pos h4]
    by_cases hv : 2147483647 < v
    · rw [if_pos hv]; exact wrong_4a x v w h4 hv
    · rw [if_neg hv]; exact wrong_4b x v w h4 hv
  rw [if_neg h4]
  by_cases h5 : x = 5
  · rw [if_pos h5]
    by_cases hv : v < 16384
    · rw [if_pos (.inl hv)]; exact wrong_5a x v w h5 hv
    · by_cases hu : 16777215 < v
      · rw [if_pos (.inr hu)]; exact wrong_5b x v w h5 hv hu
      · rw [if_neg (by omega)]; exact wrong_5c x v w h5 hv hu
  rw [if_neg h5]
  exact wrong_x x v w h2 h4 h5
def W3 (W : World) (g : Nat) (cs : Array Value) (x v : Int) : Prop := W.heap[g]? = some (.cells cs 23 (0, 0)) ∧ W.heap[g + 1]? = some (.cells #[.int .i64 x, .int .i64 v] 33 (0, 0)) ∧ W.heap[g + 1 + 1]? = some (.cells #[.int .i64 0, .int .i64 0, .int .i64 0, .int .i64 0, .int .i64 0, .int .i64 0] 23 (0, 0))
theorem w3_of (w : World) (cs : Array Value) (x v : Int) : W3 (((w.alloc (.cells cs 23)).alloc (.cells #[.int .i64 x, .int .i64 v] 33)).alloc (.cells #[.int .i64 0, .int .i64 0, .int .i64 0, .int .i64 0, .int .i64 0, .int .i64 0] 23)) w.heap.size cs x v ∧ Below w.heap.size w (((w.alloc (.cells cs 23)).alloc (.cells #[.int .i64 x, .int .i64 v] 33)).alloc (.cells #[.int .i64 0, .int .i64 0, .int .i64 0, .int .i64 0, .int .i64 0, .int .i64 0] 23)) := by
  obtain ⟨w1, h1⟩ : ∃ x, x = w.alloc (.cells cs 23) := ⟨_, rfl⟩
  obtain ⟨w2, h2⟩ : ∃ y, y = w1.alloc (.cells #[.int .i64 x, .int .i64 v] 33) := ⟨_, rfl⟩
  have s1 : w1.heap.size = w.heap.size + 1 := by rw [h1]; simp
  have s2 : w2.heap.size = w.heap.size + 1 + 1 := by rw [h2]; simp [s1]
  have q1 : w1.heap[w.heap.size]? = some (.cells cs 23 (0, 0)) := by rw [h1]; exact heap_alloc_new w _
  have q2 : w2.heap[w.heap.size + 1]? = some (.cells #[.int .i64 x, .int .i64 v] 33 (0, 0)) := by rw [h2, ← s1]; exact heap_alloc_new w1 _
  have b1 : Below w.heap.size w w1 := by rw [h1]; exact (Below.refl _ _).alloc (Nat.le_refl _) _
  have b2 : Below w1.heap.size w1 w2 := by rw [h2]; exact (Below.refl _ _).alloc (Nat.le_refl _) _
  have b3 : Below w2.heap.size w2 (w2.alloc (.cells #[.int .i64 0, .int .i64 0, .int .i64 0, .int .i64 0, .int .i64 0, .int .i64 0] 23)) := (Below.refl _ _).alloc (Nat.le_refl _) _
  rw [← h1, ← h2]
  exact ⟨⟨(b3.block _ (by omega)).trans ((b2.block _ (by omega)).trans q1), (b3.block _ (by omega)).trans q2, by rw [← s2]; exact heap_alloc_new w2 _⟩, (b1.trans (b2.mono (by omega))).trans (b3.mono (by omega))⟩
set_option maxRecDepth 100000 in
set_option maxHeartbeats 4000000 in
theorem with_1 (s : St) (x v m : Int) (w : World) (hx : x = 1) (om : (if 2147483647 < v then 2147483647 else v) = m) : Calls Try.prog 13 #[.agg #[.int .i64 s.table, .int .i64 s.push, .int .i64 s.streams, .int .i64 s.window, .int .i64 s.frame, .int .i64 s.list], .agg #[.int .i64 x, .int .i64 v]] w (SPost w { s with table := m }) := by
  have k1 : (x == 1) = true := by rw [hx]; rfl
  obtain ⟨T0, hb⟩ := w3_of w (stc s) x v
  obtain ⟨w1, hw1⟩ : ∃ z, z = (((w.alloc (.cells #[.int .i64 s.table, .int .i64 s.push, .int .i64 s.streams, .int .i64 s.window, .int .i64 s.frame, .int .i64 s.list] 23)).alloc (.cells #[.int .i64 x, .int .i64 v] 33)).alloc (.cells #[.int .i64 0, .int .i64 0, .int .i64 0, .int .i64 0, .int .i64 0, .int .i64 0] 23)) := ⟨_, rfl⟩
  obtain ⟨g, hg⟩ : ∃ g, g = w.heap.size := ⟨_, rfl⟩
  simp only [stc] at T0 hb
  rw [← hw1, ← hg] at T0
  rw [← hw1] at hb
  have HG := Lib.hid hg
  have HB := Lib.hid hb
  have HW := Lib.hid hw1
  have p0 : w1.cell? ⟨g, 0, none⟩ = some (.int .i64 s.table) := cell_of_row _ g 0 _ 23 _ T0.1
  have p1 : w1.cell? ⟨g, 1, none⟩ = some (.int .i64 s.push) := cell_of_row _ g 1 _ 23 _ T0.1
  have p2 : w1.cell? ⟨g, 2, none⟩ = some (.int .i64 s.streams) := cell_of_row _ g 2 _ 23 _ T0.1
  have p3 : w1.cell? ⟨g, 3, none⟩ = some (.int .i64 s.window) := cell_of_row _ g 3 _ 23 _ T0.1
  have p4 : w1.cell? ⟨g, 4, none⟩ = some (.int .i64 s.frame) := cell_of_row _ g 4 _ 23 _ T0.1
  have p5 : w1.cell? ⟨g, 5, none⟩ = some (.int .i64 s.list) := cell_of_row _ g 5 _ 23 _ T0.1
  have z0 : w1.frozen? ⟨g, 0, none⟩ = false := frozen_of_row _ g 0 _ 23 T0.1
  have d0 : w1.cell? ⟨g + 1, 0, none⟩ = some (.int .i64 x) := cell_of_row _ (g + 1) 0 _ 33 _ T0.2.1
  have d1 : w1.cell? ⟨g + 1, 1, none⟩ = some (.int .i64 v) := cell_of_row _ (g + 1) 1 _ 33 _ T0.2.1
  have r0 : w1.cell? ⟨g + 1 + 1, 0, none⟩ = some (.int .i64 0) := cell_of_row _ (g + 1 + 1) 0 _ 23 _ T0.2.2
  have f0 : w1.frozen? ⟨g + 1 + 1, 0, none⟩ = false := frozen_of_row _ (g + 1 + 1) 0 _ 23 T0.2.2
  have r1 : w1.cell? ⟨g + 1 + 1, 1, none⟩ = some (.int .i64 0) := cell_of_row _ (g + 1 + 1) 1 _ 23 _ T0.2.2
  have f1 : w1.frozen? ⟨g + 1 + 1, 1, none⟩ = false := frozen_of_row _ (g + 1 + 1) 1 _ 23 T0.2.2
  have r2 : w1.cell? ⟨g + 1 + 1, 2, none⟩ = some (.int .i64 0) := cell_of_row _ (g + 1 + 1) 2 _ 23 _ T0.2.2
  have f2 : w1.frozen? ⟨g + 1 + 1, 2, none⟩ = false := frozen_of_row _ (g + 1 + 1) 2 _ 23 T0.2.2
  have r3 : w1.cell? ⟨g + 1 + 1, 3, none⟩ = some (.int .i64 0) := cell_of_row _ (g + 1 + 1) 3 _ 23 _ T0.2.2
  have f3 : w1.frozen? ⟨g + 1 + 1, 3, none⟩ = false := frozen_of_row _ (g + 1 + 1) 3 _ 23 T0.2.2
  have r4 : w1.cell? ⟨g + 1 + 1, 4, none⟩ = some (.int .i64 0) := cell_of_row _ (g + 1 + 1) 4 _ 23 _ T0.2.2
  have f4 : w1.frozen? ⟨g + 1 + 1, 4, none⟩ = false := frozen_of_row _ (g + 1 + 1) 4 _ 23 T0.2.2
  have r5 : w1.cell? ⟨g + 1 + 1, 5, none⟩ = some (.int .i64 0) := cell_of_row _ (g + 1 + 1) 5 _ 23 _ T0.2.2
  have f5 : w1.frozen? ⟨g + 1 + 1, 5, none⟩ = false := frozen_of_row _ (g + 1 + 1) 5 _ 23 T0.2.2
  have HN : Hid (SPost w { s with table := m } (.returned (.agg #[.int .i64 m, .int .i64 s.push, .int .i64 s.streams, .int .i64 s.window, .int .i64 s.frame, .int .i64 s.list])) (((((((w1.setCell ⟨g, 0, none⟩ (.int .i64 m)).setCell ⟨g + 1 + 1, 0, none⟩ (.int .i64 m)).setCell ⟨g + 1 + 1, 1, none⟩ (.int .i64 s.push)).setCell ⟨g + 1 + 1, 2, none⟩ (.int .i64 s.streams)).setCell ⟨g + 1 + 1, 3, none⟩ (.int .i64 s.window)).setCell ⟨g + 1 + 1, 4, none⟩ (.int .i64 s.frame)).setCell ⟨g + 1 + 1, 5, none⟩ (.int .i64 s.list))) := Lib.hid ⟨rfl, by
    have h2 : w.heap.size ≤ g + 1 + 1 := by have := HG.out; omega
    have hb2 := (HB.out.setCell (p := ⟨g, 0, none⟩) (show w.heap.size ≤ g by have := HG.out; omega) (.int .i64 m))
    repeat' (first | (with_reducible exact hb2) | (with_reducible refine Below.setCell ?_ ?_ _) | (with_reducible exact h2))⟩
  clear T0 hb hw1 hg hx
  go_enter Try.func13, Try.ntmps13
  go_upto_region 1 with fail
  rw [← HW.out, ← HG.out]
  go_wp2
  refine bodyPost_ret (v := .agg #[.int .i64 m, .int .i64 s.push, .int .i64 s.streams, .int .i64 s.window, .int .i64 s.frame, .int .i64 s.list]) (by simp [results, Try.results13, go_sem, r0, r1, r2, r3, r4, r5]) rfl HN.out
set_option maxRecDepth 100000 in
set_option maxHeartbeats 4000000 in
theorem with_2 (s : St) (x v : Int) (w : World) (hx : x = 2) : Calls Try.prog 13 #[.agg #[.int .i64 s.table, .int .i64 s.push, .int .i64 s.streams, .int .i64 s.window, .int .i64 s.frame, .int .i64 s.list], .agg #[.int .i64 x, .int .i64 v]] w (SPost w { s with push := v }) := by
  have k1 : (x == 1) = false := by rw [beq_eq_false_iff_ne]; omega
  have k2 : (x == 2) = true := by rw [hx]; rfl
  obtain ⟨T0, hb⟩ := w3_of w (stc s) x v
  obtain ⟨w1, hw1⟩ : ∃ z, z = (((w.alloc (.cells #[.int .i64 s.table, .int .i64 s.push, .int .i64 s.streams, .int .i64 s.window, .int .i64 s.frame, .int .i64 s.list] 23)).alloc (.cells #[.int .i64 x, .int .i64 v] 33)).alloc (.cells #[.int .i64 0, .int .i64 0, .int .i64 0, .int .i64 0, .int .i64 0, .int .i64 0] 23)) := ⟨_, rfl⟩
  obtain ⟨g, hg⟩ : ∃ g, g = w.heap.size := ⟨_, rfl⟩
  simp only [stc] at T0 hb
  rw [← hw1, ← hg] at T0
  rw [← hw1] at hb
  have HG := Lib.hid hg
  have HB := Lib.hid hb
  have HW := Lib.hid hw1
  have p0 : w1.cell? ⟨g, 0, none⟩ = some (.int .i64 s.table) := cell_of_row _ g 0 _ 23 _ T0.1
  have p1 : w1.cell? ⟨g, 1, none⟩ = some (.int .i64 s.push) := cell_of_row _ g 1 _ 23 _ T0.1
  have p2 : w1.cell? ⟨g, 2, none⟩ = some (.int .i64 s.streams) := cell_of_row _ g 2 _ 23 _ T0.1
  have p3 : w1.cell? ⟨g, 3, none⟩ = some (.int .i64 s.window) := cell_of_row _ g 3 _ 23 _ T0.1
  have p4 : w1.cell? ⟨g, 4, none⟩ = some (.int .i64 s.frame) := cell_of_row _ g 4 _ 23 _ T0.1
  have p5 : w1.cell? ⟨g, 5, none⟩ = some (.int .i64 s.list) := cell_of_row _ g 5 _ 23 _ T0.1
  have z1 : w1.frozen? ⟨g, 1, none⟩ = false := frozen_of_row _ g 1 _ 23 T0.1
  have d0 : w1.cell? ⟨g + 1, 0, none⟩ = some (.int .i64 x) := cell_of_row _ (g + 1) 0 _ 33 _ T0.2.1
  have d1 : w1.cell? ⟨g + 1, 1, none⟩ = some (.int .i64 v) := cell_of_row _ (g + 1) 1 _ 33 _ T0.2.1
  have r0 : w1.cell? ⟨g + 1 + 1, 0, none⟩ = some (.int .i64 0) := cell_of_row _ (g + 1 + 1) 0 _ 23 _ T0.2.2
  have f0 : w1.frozen? ⟨g + 1 + 1, 0, none⟩ = false := frozen_of_row _ (g + 1 + 1) 0 _ 23 T0.2.2
  have r1 : w1.cell? ⟨g + 1 + 1, 1, none⟩ = some (.int .i64 0) := cell_of_row _ (g + 1 + 1) 1 _ 23 _ T0.2.2
  have f1 : w1.frozen? ⟨g + 1 + 1, 1, none⟩ = false := frozen_of_row _ (g + 1 + 1) 1 _ 23 T0.2.2
  have r2 : w1.cell? ⟨g + 1 + 1, 2, none⟩ = some (.int .i64 0) := cell_of_row _ (g + 1 + 1) 2 _ 23 _ T0.2.2
  have f2 : w1.frozen? ⟨g + 1 + 1, 2, none⟩ = false := frozen_of_row _ (g + 1 + 1) 2 _ 23 T0.2.2
  have r3 : w1.cell? ⟨g + 1 + 1, 3, none⟩ = some (.int .i64 0) := cell_of_row _ (g + 1 + 1) 3 _ 23 _ T0.2.2
  have f3 : w1.frozen? ⟨g + 1 + 1, 3, none⟩ = false := frozen_of_row _ (g + 1 + 1) 3 _ 23 T0.2.2
  have r4 : w1.cell? ⟨g + 1 + 1, 4, none⟩ = some (.int .i64 0) := cell_of_row _ (g + 1 + 1) 4 _ 23 _ T0.2.2
  have f4 : w1.frozen? ⟨g + 1 + 1, 4, none⟩ = false := frozen_of_row _ (g + 1 + 1) 4 _ 23 T0.2.2
  have r5 : w1.cell? ⟨g + 1 + 1, 5, none⟩ = some (.int .i64 0) := cell_of_row _ (g + 1 + 1) 5 _ 23 _ T0.2.2
  have f5 : w1.frozen? ⟨g + 1 + 1, 5, none⟩ = false := frozen_of_row _ (g + 1 + 1) 5 _ 23 T0.2.2
  have HN : Hid (SPost w { s with push := v } (.returned (.agg #[.int .i64 s.table, .int .i64 v, .int .i64 s.streams, .int .i64 s.window, .int .i64 s.frame, .int .i64 s.list])) (((((((w1.setCell ⟨g, 1, none⟩ (.int .i64 v)).setCell ⟨g + 1 + 1, 0, none⟩ (.int .i64 s.table)).setCell ⟨g + 1 + 1, 1, none⟩ (.int .i64 v)).setCell ⟨g + 1 + 1, 2, none⟩ (.int .i64 s.streams)).setCell ⟨g + 1 + 1, 3, none⟩ (.int .i64 s.window)).setCell ⟨g + 1 + 1, 4, none⟩ (.int .i64 s.frame)).setCell ⟨g + 1 + 1, 5, none⟩ (.int .i64 s.list))) := Lib.hid ⟨rfl, by
    have h2 : w.heap.size ≤ g + 1 + 1 := by have := HG.out; omega
    have hb2 := (HB.out.setCell (p := ⟨g, 1, none⟩) (show w.heap.size ≤ g by have := HG.out; omega) (.int .i64 v))
    repeat' (first | (with_reducible exact hb2) | (with_reducible refine Below.setCell ?_ ?_ _) | (with_reducible exact h2))⟩
  clear T0 hb hw1 hg hx
  go_enter Try.func13, Try.ntmps13
  go_upto_region 1 with fail
  rw [← HW.out, ← HG.out]
  go_wp2
  refine bodyPost_ret (v := .agg #[.int .i64 s.table, .int .i64 v, .int .i64 s.streams, .int .i64 s.window, .int .i64 s.frame, .int .i64 s.list]) (by simp [results, Try.results13, go_sem, r0, r1, r2, r3, r4, r5]) rfl HN.out
set_option maxRecDepth 100000 in
set_option maxHeartbeats 4000000 in
theorem with_3 (s : St) (x v m : Int) (w : World) (hx : x = 3) (om : (if 2147483647 < v then 2147483647 else v) = m) : Calls Try.prog 13 #[.agg #[.int .i64 s.table, .int .i64 s.push, .int .i64 s.streams, .int .i64 s.window, .int .i64 s.frame, .int .i64 s.list], .agg #[.int .i64 x, .int .i64 v]] w (SPost w { s with streams := m }) := by
  have k1 : (x == 1) = false := by rw [beq_eq_false_iff_ne]; omega
  have k2 : (x == 2) = false := by rw [beq_eq_false_iff_ne]; omega
  have k3 : (x == 3) = true := by rw [hx]; rfl
  obtain ⟨T0, hb⟩ := w3_of w (stc s) x v
  obtain ⟨w1, hw1⟩ : ∃ z, z = (((w.alloc (.cells #[.int .i64 s.table, .int .i64 s.push, .int .i64 s.streams, .int .i64 s.window, .int .i64 s.frame, .int .i64 s.list] 23)).alloc (.cells #[.int .i64 x, .int .i64 v] 33)).alloc (.cells #[.int .i64 0, .int .i64 0, .int .i64 0, .int .i64 0, .int .i64 0, .int .i64 0] 23)) := ⟨_, rfl⟩
  obtain ⟨g, hg⟩ : ∃ g, g = w.heap.size := ⟨_, rfl⟩
  simp only [stc] at T0 hb
  rw [← hw1, ← hg] at T0
  rw [← hw1] at hb
  have HG := Lib.hid hg
  have HB := Lib.hid hb
  have HW := Lib.hid hw1
  have p0 : w1.cell? ⟨g, 0, none⟩ = some (.int .i64 s.table) := cell_of_row _ g 0 _ 23 _ T0.1
  have p1 : w1.cell? ⟨g, 1, none⟩ = some (.int .i64 s.push) := cell_of_row _ g 1 _ 23 _ T0.1
  have p2 : w1.cell? ⟨g, 2, none⟩ = some (.int .i64 s.streams) := cell_of_row _ g 2 _ 23 _ T0.1
  have p3 : w1.cell? ⟨g, 3, none⟩ = some (.int .i64 s.window) := cell_of_row _ g 3 _ 23 _ T0.1
  have p4 : w1.cell? ⟨g, 4, none⟩ = some (.int .i64 s.frame) := cell_of_row _ g 4 _ 23 _ T0.1
  have p5 : w1.cell? ⟨g, 5, none⟩ = some (.int .i64 s.list) := cell_of_row _ g 5 _ 23 _ T0.1
  have z2 : w1.frozen? ⟨g, 2, none⟩ = false := frozen_of_row _ g 2 _ 23 T0.1
  have d0 : w1.cell? ⟨g + 1, 0, none⟩ = some (.int .i64 x) := cell_of_row _ (g + 1) 0 _ 33 _ T0.2.1
  have d1 : w1.cell? ⟨g + 1, 1, none⟩ = some (.int .i64 v) := cell_of_row _ (g + 1) 1 _ 33 _ T0.2.1
  have r0 : w1.cell? ⟨g + 1 + 1, 0, none⟩ = some (.int .i64 0) := cell_of_row _ (g + 1 + 1) 0 _ 23 _ T0.2.2
  have f0 : w1.frozen? ⟨g + 1 + 1, 0, none⟩ = false := frozen_of_row _ (g + 1 + 1) 0 _ 23 T0.2.2
  have r1 : w1.cell? ⟨g + 1 + 1, 1, none⟩ = some (.int .i64 0) := cell_of_row _ (g + 1 + 1) 1 _ 23 _ T0.2.2
  have f1 : w1.frozen? ⟨g + 1 + 1, 1, none⟩ = false := frozen_of_row _ (g + 1 + 1) 1 _ 23 T0.2.2
  have r2 : w1.cell? ⟨g + 1 + 1, 2, none⟩ = some (.int .i64 0) := cell_of_row _ (g + 1 + 1) 2 _ 23 _ T0.2.2
  have f2 : w1.frozen? ⟨g + 1 + 1, 2, none⟩ = false := frozen_of_row _ (g + 1 + 1) 2 _ 23 T0.2.2
  have r3 : w1.cell? ⟨g + 1 + 1, 3, none⟩ = some (.int .i64 0) := cell_of_row _ (g + 1 + 1) 3 _ 23 _ T0.2.2
  have f3 : w1.frozen? ⟨g + 1 + 1, 3, none⟩ = false := frozen_of_row _ (g + 1 + 1) 3 _ 23 T0.2.2
  have r4 : w1.cell? ⟨g + 1 + 1, 4, none⟩ = some (.int .i64 0) := cell_of_row _ (g + 1 + 1) 4 _ 23 _ T0.2.2
  have f4 : w1.frozen? ⟨g + 1 + 1, 4, none⟩ = false := frozen_of_row _ (g + 1 + 1) 4 _ 23 T0.2.2
  have r5 : w1.cell? ⟨g + 1 + 1, 5, none⟩ = some (.int .i64 0) := cell_of_row _ (g + 1 + 1) 5 _ 23 _ T0.2.2
  have f5 : w1.frozen? ⟨g + 1 + 1, 5, none⟩ = false := frozen_of_row _ (g + 1 + 1) 5 _ 23 T0.2.2
  have HN : Hid (SPost w { s with streams := m } (.returned (.agg #[.int .i64 s.table, .int .i64 s.push, .int .i64 m, .int .i64 s.window, .int .i64 s.frame, .int .i64 s.list])) (((((((w1.setCell ⟨g, 2, none⟩ (.int .i64 m)).setCell ⟨g + 1 + 1, 0, none⟩ (.int .i64 s.table)).setCell ⟨g + 1 + 1, 1, none⟩ (.int .i64 s.push)).setCell ⟨g + 1 + 1, 2, none⟩ (.int .i64 m)).setCell ⟨g + 1 + 1, 3, none⟩ (.int .i64 s.window)).setCell ⟨g + 1 + 1, 4, none⟩ (.int .i64 s.frame)).setCell ⟨g + 1 + 1, 5, none⟩ (.int .i64 s.list))) := Lib.hid ⟨rfl, by
    have h2 : w.heap.size ≤ g + 1 + 1 := by have := HG.out; omega
    have hb2 := (HB.out.setCell (p := ⟨g, 2, none⟩) (show w.heap.size ≤ g by have := HG.out; omega) (.int .i64 m))
    repeat' (first | (with_reducible exact hb2) | (with_reducible refine Below.setCell ?_ ?_ _) | (with_reducible exact h2))⟩
  clear T0 hb hw1 hg hx
  go_enter Try.func13, Try.ntmps13
  go_upto_region 1 with fail
  rw [← HW.out, ← HG.out]
  go_wp2
  refine bodyPost_ret (v := .agg #[.int .i64 s.table, .int .i64 s.push, .int .i64 m, .int .i64 s.window, .int .i64 s.frame, .int .i64 s.list]) (by simp [results, Try.results13, go_sem, r0, r1, r2, r3, r4, r5]) rfl HN.out
set_option maxRecDepth 100000 in
set_option maxHeartbeats 4000000 in
theorem with_4 (s : St) (x v : Int) (w : World) (hx : x = 4) : Calls Try.prog 13 #[.agg #[.int .i64 s.table, .int .i64 s.push, .int .i64 s.streams, .int .i64 s.window, .int .i64 s.frame, .int .i64 s.list], .agg #[.int .i64 x, .int .i64 v]] w (SPost w { s with window := v }) := by
  have k1 : (x == 1) = false := by rw [beq_eq_false_iff_ne]; omega
  have k2 : (x == 2) = false := by rw [beq_eq_false_iff_ne]; omega
  have k3 : (x == 3) = false := by rw [beq_eq_false_iff_ne]; omega
  have k4 : (x == 4) = true := by rw [hx]; rfl
  obtain ⟨T0, hb⟩ := w3_of w (stc s) x v
  obtain ⟨w1, hw1⟩ : ∃ z, z = (((w.alloc (.cells #[.int .i64 s.table, .int .i64 s.push, .int .i64 s.streams, .int .i64 s.window, .int .i64 s.frame, .int .i64 s.list] 23)).alloc (.cells #[.int .i64 x, .int .i64 v] 33)).alloc (.cells #[.int .i64 0, .int .i64 0, .int .i64 0, .int .i64 0, .int .i64 0, .int .i64 0] 23)) := ⟨_, rfl⟩
  obtain ⟨g, hg⟩ : ∃ g, g = w.heap.size := ⟨_, rfl⟩
  simp only [stc] at T0 hb
  rw [← hw1, ← hg] at T0
  rw [← hw1] at hb
  have HG := Lib.hid hg
  have HB := Lib.hid hb
  have HW := Lib.hid hw1
  have p0 : w1.cell? ⟨g, 0, none⟩ = some (.int .i64 s.table) := cell_of_row _ g 0 _ 23 _ T0.1
  have p1 : w1.cell? ⟨g, 1, none⟩ = some (.int .i64 s.push) := cell_of_row _ g 1 _ 23 _ T0.1
  have p2 : w1.cell? ⟨g, 2, none⟩ = some (.int .i64 s.streams) := cell_of_row _ g 2 _ 23 _ T0.1
  have p3 : w1.cell? ⟨g, 3, none⟩ = some (.int .i64 s.window) := cell_of_row _ g 3 _ 23 _ T0.1
  have p4 : w1.cell? ⟨g, 4, none⟩ = some (.int .i64 s.frame) := cell_of_row _ g 4 _ 23 _ T0.1
  have p5 : w1.cell? ⟨g, 5, none⟩ = some (.int .i64 s.list) := cell_of_row _ g 5 _ 23 _ T0.1
  have z3 : w1.frozen? ⟨g, 3, none⟩ = false := frozen_of_row _ g 3 _ 23 T0.1
  have d0 : w1.cell? ⟨g + 1, 0, none⟩ = some (.int .i64 x) := cell_of_row _ (g + 1) 0 _ 33 _ T0.2.1
  have d1 : w1.cell? ⟨g + 1, 1, none⟩ = some (.int .i64 v) := cell_of_row _ (g + 1) 1 _ 33 _ T0.2.1
  have r0 : w1.cell? ⟨g + 1 + 1, 0, none⟩ = some (.int .i64 0) := cell_of_row _ (g + 1 + 1) 0 _ 23 _ T0.2.2
  have f0 : w1.frozen? ⟨g + 1 + 1, 0, none⟩ = false := frozen_of_row _ (g + 1 + 1) 0 _ 23 T0.2.2
  have r1 : w1.cell? ⟨g + 1 + 1, 1, none⟩ = some (.int .i64 0) := cell_of_row _ (g + 1 + 1) 1 _ 23 _ T0.2.2
  have f1 : w1.frozen? ⟨g + 1 + 1, 1, none⟩ = false := frozen_of_row _ (g + 1 + 1) 1 _ 23 T0.2.2
  have r2 : w1.cell? ⟨g + 1 + 1, 2, none⟩ = some (.int .i64 0) := cell_of_row _ (g + 1 + 1) 2 _ 23 _ T0.2.2
  have f2 : w1.frozen? ⟨g + 1 + 1, 2, none⟩ = false := frozen_of_row _ (g + 1 + 1) 2 _ 23 T0.2.2
  have r3 : w1.cell? ⟨g + 1 + 1, 3, none⟩ = some (.int .i64 0) := cell_of_row _ (g + 1 + 1) 3 _ 23 _ T0.2.2
  have f3 : w1.frozen? ⟨g + 1 + 1, 3, none⟩ = false := frozen_of_row _ (g + 1 + 1) 3 _ 23 T0.2.2
  have r4 : w1.cell? ⟨g + 1 + 1, 4, none⟩ = some (.int .i64 0) := cell_of_row _ (g + 1 + 1) 4 _ 23 _ T0.2.2
  have f4 : w1.frozen? ⟨g + 1 + 1, 4, none⟩ = false := frozen_of_row _ (g + 1 + 1) 4 _ 23 T0.2.2
  have r5 : w1.cell? ⟨g + 1 + 1, 5, none⟩ = some (.int .i64 0) := cell_of_row _ (g + 1 + 1) 5 _ 23 _ T0.2.2
  have f5 : w1.frozen? ⟨g + 1 + 1, 5, none⟩ = false := frozen_of_row _ (g + 1 + 1) 5 _ 23 T0.2.2
  have HN : Hid (SPost w { s with window := v } (.returned (.agg #[.int .i64 s.table, .int .i64 s.push, .int .i64 s.streams, .int .i64 v, .int .i64 s.frame, .int .i64 s.list])) (((((((w1.setCell ⟨g, 3, none⟩ (.int .i64 v)).setCell ⟨g + 1 + 1, 0, none⟩ (.int .i64 s.table)).setCell ⟨g + 1 + 1, 1, none⟩ (.int .i64 s.push)).setCell ⟨g + 1 + 1, 2, none⟩ (.int .i64 s.streams)).setCell ⟨g + 1 + 1, 3, none⟩ (.int .i64 v)).setCell ⟨g + 1 + 1, 4, none⟩ (.int .i64 s.frame)).setCell ⟨g + 1 + 1, 5, none⟩ (.int .i64 s.list))) := Lib.hid ⟨rfl, by
    have h2 : w.heap.size ≤ g + 1 + 1 := by have := HG.out; omega
    have hb2 := (HB.out.setCell (p := ⟨g, 3, none⟩) (show w.heap.size ≤ g by have := HG.out; omega) (.int .i64 v))
    repeat' (first | (with_reducible exact hb2) | (with_reducible refine Below.setCell ?_ ?_ _) | (with_reducible exact h2))⟩
  clear T0 hb hw1 hg hx
  go_enter Try.func13, Try.ntmps13
  go_upto_region 1 with fail
  rw [← HW.out, ← HG.out]
  go_wp2
  refine bodyPost_ret (v := .agg #[.int .i64 s.table, .int .i64 s.push, .int .i64 s.streams, .int .i64 v, .int .i64 s.frame, .int .i64 s.list]) (by simp [results, Try.results13, go_sem, r0, r1, r2, r3, r4, r5]) rfl HN.out
set_option maxRecDepth 100000 in
set_option maxHeartbeats 4000000 in
theorem with_5 (s : St) (x v : Int) (w : World) (hx : x = 5) : Calls Try.prog 13 #[.agg #[.int .i64 s.table, .int .i64 s.push, .int .i64 s.streams, .int .i64 s.window, .int .i64 s.frame, .int .i64 s.list], .agg #[.int .i64 x, .int .i64 v]] w (SPost w { s with frame := v }) := by
  have k1 : (x == 1) = false := by rw [beq_eq_false_iff_ne]; omega
  have k2 : (x == 2) = false := by rw [beq_eq_false_iff_ne]; omega
  have k3 : (x == 3) = false := by rw [beq_eq_false_iff_ne]; omega
  have k4 : (x == 4) = false := by rw [beq_eq_false_iff_ne]; omega
  have k5 : (x == 5) = true := by rw [hx]; rfl
  obtain ⟨T0, hb⟩ := w3_of w (stc s) x v
  obtain ⟨w1, hw1⟩ : ∃ z, z = (((w.alloc (.cells #[.int .i64 s.table, .int .i64 s.push, .int .i64 s.streams, .int .i64 s.window, .int .i64 s.frame, .int .i64 s.list] 23)).alloc (.cells #[.int .i64 x, .int .i64 v] 33)).alloc (.cells #[.int .i64 0, .int .i64 0, .int .i64 0, .int .i64 0, .int .i64 0, .int .i64 0] 23)) := ⟨_, rfl⟩
  obtain ⟨g, hg⟩ : ∃ g, g = w.heap.size := ⟨_, rfl⟩
  simp only [stc] at T0 hb
  rw [← hw1, ← hg] at T0
  rw [← hw1] at hb
  have HG := Lib.hid hg
  have HB := Lib.hid hb
  have HW := Lib.hid hw1
  have p0 : w1.cell? ⟨g, 0, none⟩ = some (.int .i64 s.table) := cell_of_row _ g 0 _ 23 _ T0.1
  have p1 : w1.cell? ⟨g, 1, none⟩ = some (.int .i64 s.push) := cell_of_row _ g 1 _ 23 _ T0.1
  have p2 : w1.cell? ⟨g, 2, none⟩ = some (.int .i64 s.streams) := cell_of_row _ g 2 _ 23 _ T0.1
  have p3 : w1.cell? ⟨g, 3, none⟩ = some (.int .i64 s.window) := cell_of_row _ g 3 _ 23 _ T0.1
  have p4 : w1.cell? ⟨g, 4, none⟩ = some (.int .i64 s.frame) := cell_of_row _ g 4 _ 23 _ T0.1
  have p5 : w1.cell? ⟨g, 5, none⟩ = some (.int .i64 s.list) := cell_of_row _ g 5 _ 23 _ T0.1
  have z4 : w1.frozen? ⟨g, 4, none⟩ = false := frozen_of_row _ g 4 _ 23 T0.1
  have d0 : w1.cell? ⟨g + 1, 0, none⟩ = some (.int .i64 x) := cell_of_row _ (g + 1) 0 _ 33 _ T0.2.1
  have d1 : w1.cell? ⟨g + 1, 1, none⟩ = some (.int .i64 v) := cell_of_row _ (g + 1) 1 _ 33 _ T0.2.1
  have r0 : w1.cell? ⟨g + 1 + 1, 0, none⟩ = some (.int .i64 0) := cell_of_row _ (g + 1 + 1) 0 _ 23 _ T0.2.2
  have f0 : w1.frozen? ⟨g + 1 + 1, 0, none⟩ = false := frozen_of_row _ (g + 1 + 1) 0 _ 23 T0.2.2
  have r1 : w1.cell? ⟨g + 1 + 1, 1, none⟩ = some (.int .i64 0) := cell_of_row _ (g + 1 + 1) 1 _ 23 _ T0.2.2
  have f1 : w1.frozen? ⟨g + 1 + 1, 1, none⟩ = false := frozen_of_row _ (g + 1 + 1) 1 _ 23 T0.2.2
  have r2 : w1.cell? ⟨g + 1 + 1, 2, none⟩ = some (.int .i64 0) := cell_of_row _ (g + 1 + 1) 2 _ 23 _ T0.2.2
  have f2 : w1.frozen? ⟨g + 1 + 1, 2, none⟩ = false := frozen_of_row _ (g + 1 + 1) 2 _ 23 T0.2.2
  have r3 : w1.cell? ⟨g + 1 + 1, 3, none⟩ = some (.int .i64 0) := cell_of_row _ (g + 1 + 1) 3 _ 23 _ T0.2.2
  have f3 : w1.frozen? ⟨g + 1 + 1, 3, none⟩ = false := frozen_of_row _ (g + 1 + 1) 3 _ 23 T0.2.2
  have r4 : w1.cell? ⟨g + 1 + 1, 4, none⟩ = some (.int .i64 0) := cell_of_row _ (g + 1 + 1) 4 _ 23 _ T0.2.2
  have f4 : w1.frozen? ⟨g + 1 + 1, 4, none⟩ = false := frozen_of_row _ (g + 1 + 1) 4 _ 23 T0.2.2
  have r5 : w1.cell? ⟨g + 1 + 1, 5, none⟩ = some (.int .i64 0) := cell_of_row _ (g + 1 + 1) 5 _ 23 _ T0.2.2
  have f5 : w1.frozen? ⟨g + 1 + 1, 5, none⟩ = false := frozen_of_row _ (g + 1 + 1) 5 _ 23 T0.2.2
  have HN : Hid (SPost w { s with frame := v } (.returned (.agg #[.int .i64 s.table, .int .i64 s.push, .int .i64 s.streams, .int .i64 s.window, .int .i64 v, .int .i64 s.list])) (((((((w1.setCell ⟨g, 4, none⟩ (.int .i64 v)).setCell ⟨g + 1 + 1, 0, none⟩ (.int .i64 s.table)).setCell ⟨g + 1 + 1, 1, none⟩ (.int .i64 s.push)).setCell ⟨g + 1 + 1, 2, none⟩ (.int .i64 s.streams)).setCell ⟨g + 1 + 1, 3, none⟩ (.int .i64 s.window)).setCell ⟨g + 1 + 1, 4, none⟩ (.int .i64 v)).setCell ⟨g + 1 + 1, 5, none⟩ (.int .i64 s.list))) := Lib.hid ⟨rfl, by
    have h2 : w.heap.size ≤ g + 1 + 1 := by have := HG.out; omega
    have hb2 := (HB.out.setCell (p := ⟨g, 4, none⟩) (show w.heap.size ≤ g by have := HG.out; omega) (.int .i64 v))
    repeat' (first | (with_reducible exact hb2) | (with_reducible refine Below.setCell ?_ ?_ _) | (with_reducible exact h2))⟩
  clear T0 hb hw1 hg hx
  go_enter Try.func13, Try.ntmps13
  go_upto_region 1 with fail
  rw [← HW.out, ← HG.out]
  go_wp2
  refine bodyPost_ret (v := .agg #[.int .i64 s.table, .int .i64 s.push, .int .i64 s.streams, .int .i64 s.window, .int .i64 v, .int .i64 s.list]) (by simp [results, Try.results13, go_sem, r0, r1, r2, r3, r4, r5]) rfl HN.out
set_option maxRecDepth 100000 in
set_option maxHeartbeats 4000000 in
theorem with_6 (s : St) (x v m : Int) (w : World) (hx : x = 6) (om : (if 2147483647 < v then 2147483647 else v) = m) : Calls Try.prog 13 #[.agg #[.int .i64 s.table, .int .i64 s.push, .int .i64 s.streams, .int .i64 s.window, .int .i64 s.frame, .int .i64 s.list], .agg #[.int .i64 x, .int .i64 v]] w (SPost w { s with list := m }) := by
  have k1 : (x == 1) = false := by rw [beq_eq_false_iff_ne]; omega
  have k2 : (x == 2) = false := by rw [beq_eq_false_iff_ne]; omega
  have k3 : (x == 3) = false := by rw [beq_eq_false_iff_ne]; omega
  have k4 : (x == 4) = false := by rw [beq_eq_false_iff_ne]; omega
  have k5 : (x == 5) = false := by rw [beq_eq_false_iff_ne]; omega
  have k6 : (x == 6) = true := by rw [hx]; rfl
  obtain ⟨T0, hb⟩ := w3_of w (stc s) x v
  obtain ⟨w1, hw1⟩ : ∃ z, z = (((w.alloc (.cells #[.int .i64 s.table, .int .i64 s.push, .int .i64 s.streams, .int .i64 s.window, .int .i64 s.frame, .int .i64 s.list] 23)).alloc (.cells #[.int .i64 x, .int .i64 v] 33)).alloc (.cells #[.int .i64 0, .int .i64 0, .int .i64 0, .int .i64 0, .int .i64 0, .int .i64 0] 23)) := ⟨_, rfl⟩
  obtain ⟨g, hg⟩ : ∃ g, g = w.heap.size := ⟨_, rfl⟩
  simp only [stc] at T0 hb
  rw [← hw1, ← hg] at T0
  rw [← hw1] at hb
  have HG := Lib.hid hg
  have HB := Lib.hid hb
  have HW := Lib.hid hw1
  have p0 : w1.cell? ⟨g, 0, none⟩ = some (.int .i64 s.table) := cell_of_row _ g 0 _ 23 _ T0.1
  have p1 : w1.cell? ⟨g, 1, none⟩ = some (.int .i64 s.push) := cell_of_row _ g 1 _ 23 _ T0.1
  have p2 : w1.cell? ⟨g, 2, none⟩ = some (.int .i64 s.streams) := cell_of_row _ g 2 _ 23 _ T0.1
  have p3 : w1.cell? ⟨g, 3, none⟩ = some (.int .i64 s.window) := cell_of_row _ g 3 _ 23 _ T0.1
  have p4 : w1.cell? ⟨g, 4, none⟩ = some (.int .i64 s.frame) := cell_of_row _ g 4 _ 23 _ T0.1
  have p5 : w1.cell? ⟨g, 5, none⟩ = some (.int .i64 s.list) := cell_of_row _ g 5 _ 23 _ T0.1
  have z5 : w1.frozen? ⟨g, 5, none⟩ = false := frozen_of_row _ g 5 _ 23 T0.1
  have d0 : w1.cell? ⟨g + 1, 0, none⟩ = some (.int .i64 x) := cell_of_row _ (g + 1) 0 _ 33 _ T0.2.1
  have d1 : w1.cell? ⟨g + 1, 1, none⟩ = some (.int .i64 v) := cell_of_row _ (g + 1) 1 _ 33 _ T0.2.1
  have r0 : w1.cell? ⟨g + 1 + 1, 0, none⟩ = some (.int .i64 0) := cell_of_row _ (g + 1 + 1) 0 _ 23 _ T0.2.2
  have f0 : w1.frozen? ⟨g + 1 + 1, 0, none⟩ = false := frozen_of_row _ (g + 1 + 1) 0 _ 23 T0.2.2
  have r1 : w1.cell? ⟨g + 1 + 1, 1, none⟩ = some (.int .i64 0) := cell_of_row _ (g + 1 + 1) 1 _ 23 _ T0.2.2
  have f1 : w1.frozen? ⟨g + 1 + 1, 1, none⟩ = false := frozen_of_row _ (g + 1 + 1) 1 _ 23 T0.2.2
  have r2 : w1.cell? ⟨g + 1 + 1, 2, none⟩ = some (.int .i64 0) := cell_of_row _ (g + 1 + 1) 2 _ 23 _ T0.2.2
  have f2 : w1.frozen? ⟨g + 1 + 1, 2, none⟩ = false := frozen_of_row _ (g + 1 + 1) 2 _ 23 T0.2.2
  have r3 : w1.cell? ⟨g + 1 + 1, 3, none⟩ = some (.int .i64 0) := cell_of_row _ (g + 1 + 1) 3 _ 23 _ T0.2.2
  have f3 : w1.frozen? ⟨g + 1 + 1, 3, none⟩ = false := frozen_of_row _ (g + 1 + 1) 3 _ 23 T0.2.2
  have r4 : w1.cell? ⟨g + 1 + 1, 4, none⟩ = some (.int .i64 0) := cell_of_row _ (g + 1 + 1) 4 _ 23 _ T0.2.2
  have f4 : w1.frozen? ⟨g + 1 + 1, 4, none⟩ = false := frozen_of_row _ (g + 1 + 1) 4 _ 23 T0.2.2
  have r5 : w1.cell? ⟨g + 1 + 1, 5, none⟩ = some (.int .i64 0) := cell_of_row _ (g + 1 + 1) 5 _ 23 _ T0.2.2
  have f5 : w1.frozen? ⟨g + 1 + 1, 5, none⟩ = false := frozen_of_row _ (g + 1 + 1) 5 _ 23 T0.2.2
  have HN : Hid (SPost w { s with list := m } (.returned (.agg #[.int .i64 s.table, .int .i64 s.push, .int .i64 s.streams, .int .i64 s.window, .int .i64 s.frame, .int .i64 m])) (((((((w1.setCell ⟨g, 5, none⟩ (.int .i64 m)).setCell ⟨g + 1 + 1, 0, none⟩ (.int .i64 s.table)).setCell ⟨g + 1 + 1, 1, none⟩ (.int .i64 s.push)).setCell ⟨g + 1 + 1, 2, none⟩ (.int .i64 s.streams)).setCell ⟨g + 1 + 1, 3, none⟩ (.int .i64 s.window)).setCell ⟨g + 1 + 1, 4, none⟩ (.int .i64 s.frame)).setCell ⟨g + 1 + 1, 5, none⟩ (.int .i64 m))) := Lib.hid ⟨rfl, by
    have h2 : w.heap.size ≤ g + 1 + 1 := by have := HG.out; omega
    have hb2 := (HB.out.setCell (p := ⟨g, 5, none⟩) (show w.heap.size ≤ g by have := HG.out; omega) (.int .i64 m))
    repeat' (first | (with_reducible exact hb2) | (with_reducible refine Below.setCell ?_ ?_ _) | (with_reducible exact h2))⟩
  clear T0 hb hw1 hg hx
  go_enter Try.func13, Try.ntmps13
  go_upto_region 1 with fail
  rw [← HW.out, ← HG.out]
  go_wp2
  refine bodyPost_ret (v := .agg #[.int .i64 s.table, .int .i64 s.push, .int .i64 s.streams, .int .i64 s.window, .int .i64 s.frame, .int .i64 m]) (by simp [results, Try.results13, go_sem, r0, r1, r2, r3, r4, r5]) rfl HN.out
set_option maxRecDepth 100000 in
set_option maxHeartbeats 4000000 in
theorem with_x (s : St) (x v : Int) (w : World) (h1 : x ≠ 1) (h2 : x ≠ 2) (h3 : x ≠ 3) (h4 : x ≠ 4) (h5 : x ≠ 5) (h6 : x ≠ 6) : Calls Try.prog 13 #[.agg #[.int .i64 s.table, .int .i64 s.push, .int .i64 s.streams, .int .i64 s.window, .int .i64 s.frame, .int .i64 s.list], .agg #[.int .i64 x, .int .i64 v]] w (SPost w s) := by
  have k1 : (x == 1) = false := by rw [beq_eq_false_iff_ne]; exact h1
  have k2 : (x == 2) = false := by rw [beq_eq_false_iff_ne]; exact h2
  have k3 : (x == 3) = false := by rw [beq_eq_false_iff_ne]; exact h3
  have k4 : (x == 4) = false := by rw [beq_eq_false_iff_ne]; exact h4
  have k5 : (x == 5) = false := by rw [beq_eq_false_iff_ne]; exact h5
  have k6 : (x == 6) = false := by rw [beq_eq_false_iff_ne]; exact h6
  obtain ⟨T0, hb⟩ := w3_of w (stc s) x v
  obtain ⟨w1, hw1⟩ : ∃ z, z = (((w.alloc (.cells #[.int .i64 s.table, .int .i64 s.push, .int .i64 s.streams, .int .i64 s.window, .int .i64 s.frame, .int .i64 s.list] 23)).alloc (.cells #[.int .i64 x, .int .i64 v] 33)).alloc (.cells #[.int .i64 0, .int .i64 0, .int .i64 0, .int .i64 0, .int .i64 0, .int .i64 0] 23)) := ⟨_, rfl⟩
  obtain ⟨g, hg⟩ : ∃ g, g = w.heap.size := ⟨_, rfl⟩
  simp only [stc] at T0 hb
  rw [← hw1, ← hg] at T0
  rw [← hw1] at hb
  have HG := Lib.hid hg
  have HB := Lib.hid hb
  have HW := Lib.hid hw1
  have p0 : w1.cell? ⟨g, 0, none⟩ = some (.int .i64 s.table) := cell_of_row _ g 0 _ 23 _ T0.1
  have p1 : w1.cell? ⟨g, 1, none⟩ = some (.int .i64 s.push) := cell_of_row _ g 1 _ 23 _ T0.1
  have p2 : w1.cell? ⟨g, 2, none⟩ = some (.int .i64 s.streams) := cell_of_row _ g 2 _ 23 _ T0.1
  have p3 : w1.cell? ⟨g, 3, none⟩ = some (.int .i64 s.window) := cell_of_row _ g 3 _ 23 _ T0.1
  have p4 : w1.cell? ⟨g, 4, none⟩ = some (.int .i64 s.frame) := cell_of_row _ g 4 _ 23 _ T0.1
  have p5 : w1.cell? ⟨g, 5, none⟩ = some (.int .i64 s.list) := cell_of_row _ g 5 _ 23 _ T0.1
  have d0 : w1.cell? ⟨g + 1, 0, none⟩ = some (.int .i64 x) := cell_of_row _ (g + 1) 0 _ 33 _ T0.2.1
  have d1 : w1.cell? ⟨g + 1, 1, none⟩ = some (.int .i64 v) := cell_of_row _ (g + 1) 1 _ 33 _ T0.2.1
  have r0 : w1.cell? ⟨g + 1 + 1, 0, none⟩ = some (.int .i64 0) := cell_of_row _ (g + 1 + 1) 0 _ 23 _ T0.2.2
  have f0 : w1.frozen? ⟨g + 1 + 1, 0, none⟩ = false := frozen_of_row _ (g + 1 + 1) 0 _ 23 T0.2.2
  have r1 : w1.cell? ⟨g + 1 + 1, 1, none⟩ = some (.int .i64 0) := cell_of_row _ (g + 1 + 1) 1 _ 23 _ T0.2.2
  have f1 : w1.frozen? ⟨g + 1 + 1, 1, none⟩ = false := frozen_of_row _ (g + 1 + 1) 1 _ 23 T0.2.2
  have r2 : w1.cell? ⟨g + 1 + 1, 2, none⟩ = some (.int .i64 0) := cell_of_row _ (g + 1 + 1) 2 _ 23 _ T0.2.2
  have f2 : w1.frozen? ⟨g + 1 + 1, 2, none⟩ = false := frozen_of_row _ (g + 1 + 1) 2 _ 23 T0.2.2
  have r3 : w1.cell? ⟨g + 1 + 1, 3, none⟩ = some (.int .i64 0) := cell_of_row _ (g + 1 + 1) 3 _ 23 _ T0.2.2
  have f3 : w1.frozen? ⟨g + 1 + 1, 3, none⟩ = false := frozen_of_row _ (g + 1 + 1) 3 _ 23 T0.2.2
  have r4 : w1.cell? ⟨g + 1 + 1, 4, none⟩ = some (.int .i64 0) := cell_of_row _ (g + 1 + 1) 4 _ 23 _ T0.2.2
  have f4 : w1.frozen? ⟨g + 1 + 1, 4, none⟩ = false := frozen_of_row _ (g + 1 + 1) 4 _ 23 T0.2.2
  have r5 : w1.cell? ⟨g + 1 + 1, 5, none⟩ = some (.int .i64 0) := cell_of_row _ (g + 1 + 1) 5 _ 23 _ T0.2.2
  have f5 : w1.frozen? ⟨g + 1 + 1, 5, none⟩ = false := frozen_of_row _ (g + 1 + 1) 5 _ 23 T0.2.2
  have HN : Hid (SPost w s (.returned (.agg #[.int .i64 s.table, .int .i64 s.push, .int .i64 s.streams, .int .i64 s.window, .int .i64 s.frame, .int .i64 s.list])) ((((((w1.setCell ⟨g + 1 + 1, 0, none⟩ (.int .i64 s.table)).setCell ⟨g + 1 + 1, 1, none⟩ (.int .i64 s.push)).setCell ⟨g + 1 + 1, 2, none⟩ (.int .i64 s.streams)).setCell ⟨g + 1 + 1, 3, none⟩ (.int .i64 s.window)).setCell ⟨g + 1 + 1, 4, none⟩ (.int .i64 s.frame)).setCell ⟨g + 1 + 1, 5, none⟩ (.int .i64 s.list))) := Lib.hid ⟨rfl, by
    have h2 : w.heap.size ≤ g + 1 + 1 := by have := HG.out; omega
    have hb2 := HB.out
    repeat' (first | (with_reducible exact hb2) | (with_reducible refine Below.setCell ?_ ?_ _) | (with_reducible exact h2))⟩
  clear T0 hb hw1 hg h1 h2 h3 h4 h5 h6
  go_enter Try.func13, Try.ntmps13
  go_upto_region 1 with fail
  rw [← HW.out, ← HG.out]
  go_wp2
  refine bodyPost_ret (v := .agg #[.int .i64 s.table, .int .i64 s.push, .int .i64 s.streams, .int .i64 s.window, .int .i64 s.frame, .int .i64 s.list]) (by simp [results, Try.results13, go_sem, r0, r1, r2, r3, r4, r5]) rfl HN.out
theorem with_f (s : St) (x v : Int) (w : World) : Calls Try.prog 13 #[.agg #[.int .i64 s.table, .int .i64 s.push, .int .i64 s.streams, .int .i64 s.window, .int .i64 s.frame, .int .i64 s.list], .agg #[.int .i64 x, .int .i64 v]] w (SPost w (wth s x v)) := by
  unfold wth
  by_cases h1 : x = 1
  · rw [if_pos h1]; exact with_1 s x v (cap v) w h1 rfl
  rw [if_neg h1]
  by_cases h2 : x = 2
  · rw [if_pos h2]; exact with_2 s x v w h2
  rw [if_neg h2]
  by_cases h3 : x = 3
  · rw [if_pos h3]; exact with_3 s x v (cap v) w h3 rfl
  rw [if_neg h3]
  by_cases h4 : x = 4
  · rw [if_pos h4]; exact with_4 s x v w h4
  rw [if_neg h4]
  by_cases h5 : x = 5
  · rw [if_pos h5]; exact with_5 s x v w h5
  rw [if_neg h5]
  by_cases h6 : x = 6
  · rw [if_pos h6]; exact with_6 s x v (cap v) w h6 rfl
  rw [if_neg h6]
  exact with_x s x v w h1 h2 h3 h4 h5 h6
end Go.Proofs.Ytkjdjicchmfljaa
