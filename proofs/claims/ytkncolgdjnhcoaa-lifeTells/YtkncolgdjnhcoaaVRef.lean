/- The document's Recv and Send. -/
import Derived.Test.YtkncolgdjnhcoaaVPost
import Derived.Deep.DeepCutAuto
import Derived.BigQuiet
namespace Go.Proofs.Ytkncolgdjnhcoaa
open Go.RowKit Lf

theorem rvfault_any (code : Int) (conn : Bool) (w : World) : Calls Try.prog 17 #[.int .i64 code, .bool conn] w fun e w' => e = .returned (.agg #[.bool true, .bool conn, .int .i64 code]) ∧ Below w.heap.size w w' := by
  go_enter Try.func17, Try.ntmps17
  go_wp2
  refine bodyPost_ret (v := .agg #[.bool true, .bool conn, .int .i64 code]) (by simp [results, Try.results17, go_sem]) rfl ?_
  exact ⟨rfl, (Below.refl _ _).alloc (Nat.le_refl _) _⟩
set_option maxRecDepth 100000 in
set_option maxHeartbeats 4000000 in
theorem rvc_k (s k : Int) (e : Bool) (w : World) (h : ¬ k = 0 ∧ ¬ k = 1 ∧ ¬ k = 2 ∧ ¬ k = 3 ∧ ¬ k = 8) : Calls Try.prog 9 #[.int .i64 s, .int .i64 k, .bool e] w (RPost w (recv s k e)) := by
  have hp : recv s k e = ⟨s, false, false, 0⟩ := by unfold recv; rw [if_neg (by omega)]; rfl
  have k0b : (k == 0) = false := bne (by omega)
  have k0n : (k != 0) = true := nbt (by omega)
  have k1b : (k == 1) = false := bne (by omega)
  have k1n : (k != 1) = true := nbt (by omega)
  have k2b : (k == 2) = false := bne (by omega)
  have k2n : (k != 2) = true := nbt (by omega)
  have k3b : (k == 3) = false := bne (by omega)
  have k3n : (k != 3) = true := nbt (by omega)
  have k8b : (k == 8) = false := bne (by omega)
  have k8n : (k != 8) = true := nbt (by omega)
  obtain ⟨hk, hb⟩ := kf_of w false false 0
  obtain ⟨w1, hw1⟩ : ∃ x, x = w.alloc (.cells #[.bool false, .bool false, .int .i64 0] 24) := ⟨_, rfl⟩
  obtain ⟨g, hg⟩ : ∃ g, g = w.heap.size := ⟨_, rfl⟩
  rw [← hw1, ← hg] at hk
  rw [← hw1] at hb
  have HG := Lib.hid hg
  have HB := Lib.hid hb
  have HW := Lib.hid hw1
  obtain ⟨r0, r1, r2⟩ := hk.cells
  obtain ⟨f0, f1, f2⟩ := hk.loose
  have HN : Hid (RPost w (recv s k e) (.returned (.tuple #[.int .i64 s, .agg #[.bool false, .bool false, .int .i64 0]])) (stF w1 g false false 0)) := Lib.hid ⟨by rw [hp], stF_below HG.out HB.out _ _ _⟩
  clear hk hb hw1 hg hp h
  go_enter Try.func9, Try.ntmps9
  go_upto_region 1 with fail
  rw [← HW.out, ← HG.out]
  go_wp2_with fail
  refine bodyPost_ret (v := .tuple #[.int .i64 s, .agg #[.bool false, .bool false, .int .i64 0]]) (by simp [results, Try.results9, go_sem, r0, r1, r2]) rfl (HN.out)
set_option maxRecDepth 100000 in
set_option maxHeartbeats 4000000 in
theorem rvc_0_0 (e : Bool) (w : World) : Calls Try.prog 9 #[.int .i64 0, .int .i64 0, .bool e] w (RPost w (recv 0 0 e)) := by
  have hp : recv 0 0 e = ⟨0, true, true, 1⟩ := by rfl
  obtain ⟨hk, hb⟩ := kf_of w false false 0
  obtain ⟨w1, hw1⟩ : ∃ x, x = w.alloc (.cells #[.bool false, .bool false, .int .i64 0] 24) := ⟨_, rfl⟩
  obtain ⟨g, hg⟩ : ∃ g, g = w.heap.size := ⟨_, rfl⟩
  rw [← hw1, ← hg] at hk
  rw [← hw1] at hb
  have HG := Lib.hid hg
  have HB := Lib.hid hb
  have HW := Lib.hid hw1
  have HK := Lib.hid hk
  have HC := Lib.hid (rvfault_any 1 true w1)
  have HN : Hid (∀ W, Below w.heap.size w W → RPost w (recv 0 0 e) (.returned (.tuple #[.int .i64 0, .agg #[.bool true, .bool true, .int .i64 1]])) (stF W g true true 1)) := Lib.hid (fun W h => ⟨by rw [hp], stF_below HG.out h _ _ _⟩)
  clear hk hb hw1 hg hp
  go_enter Try.func9, Try.ntmps9
  go_upto_region 1 with fail
  rw [← HW.out, ← HG.out]
  go_wp2_with fail
  with_reducible refine (HC.out).mono ?_
  rintro e w2 ⟨rfl, hb⟩
  have hk := HK.out.up hb
  obtain ⟨r0, r1, r2⟩ := hk.cells
  obtain ⟨f0, f1, f2⟩ := hk.loose
  have HB2 := Lib.hid (HB.out.trans (hb.mono HB.out.size))
  clear hb hk
  go_wp2_with fail
  refine bodyPost_ret (v := .tuple #[.int .i64 0, .agg #[.bool true, .bool true, .int .i64 1]]) (by simp [results, Try.results9, go_sem, r0, r1, r2]) rfl (HN.out _ HB2.out)
set_option maxRecDepth 100000 in
set_option maxHeartbeats 4000000 in
theorem rvc_1_0t (w : World) : Calls Try.prog 9 #[.int .i64 1, .int .i64 0, .bool true] w (RPost w (recv 1 0 true)) := by
  have hp : recv 1 0 true = ⟨2, false, false, 0⟩ := by rfl
  obtain ⟨hk, hb⟩ := kf_of w false false 0
  obtain ⟨w1, hw1⟩ : ∃ x, x = w.alloc (.cells #[.bool false, .bool false, .int .i64 0] 24) := ⟨_, rfl⟩
  obtain ⟨g, hg⟩ : ∃ g, g = w.heap.size := ⟨_, rfl⟩
  rw [← hw1, ← hg] at hk
  rw [← hw1] at hb
  have HG := Lib.hid hg
  have HB := Lib.hid hb
  have HW := Lib.hid hw1
  obtain ⟨r0, r1, r2⟩ := hk.cells
  obtain ⟨f0, f1, f2⟩ := hk.loose
  have HN : Hid (RPost w (recv 1 0 true) (.returned (.tuple #[.int .i64 2, .agg #[.bool false, .bool false, .int .i64 0]])) (stF w1 g false false 0)) := Lib.hid ⟨by rw [hp], stF_below HG.out HB.out _ _ _⟩
  clear hk hb hw1 hg hp
  go_enter Try.func9, Try.ntmps9
  go_upto_region 1 with fail
  rw [← HW.out, ← HG.out]
  go_wp2_with fail
  refine bodyPost_ret (v := .tuple #[.int .i64 2, .agg #[.bool false, .bool false, .int .i64 0]]) (by simp [results, Try.results9, go_sem, r0, r1, r2]) rfl (HN.out)
set_option maxRecDepth 100000 in
set_option maxHeartbeats 4000000 in
theorem rvc_1_0f (w : World) : Calls Try.prog 9 #[.int .i64 1, .int .i64 0, .bool false] w (RPost w (recv 1 0 false)) := by
  have hp : recv 1 0 false = ⟨1, false, false, 0⟩ := by rfl
  obtain ⟨hk, hb⟩ := kf_of w false false 0
  obtain ⟨w1, hw1⟩ : ∃ x, x = w.alloc (.cells #[.bool false, .bool false, .int .i64 0] 24) := ⟨_, rfl⟩
  obtain ⟨g, hg⟩ : ∃ g, g = w.heap.size := ⟨_, rfl⟩
  rw [← hw1, ← hg] at hk
  rw [← hw1] at hb
  have HG := Lib.hid hg
  have HB := Lib.hid hb
  have HW := Lib.hid hw1
  obtain ⟨r0, r1, r2⟩ := hk.cells
  obtain ⟨f0, f1, f2⟩ := hk.loose
  have HN : Hid (RPost w (recv 1 0 false) (.returned (.tuple #[.int .i64 1, .agg #[.bool false, .bool false, .int .i64 0]])) (stF w1 g false false 0)) := Lib.hid ⟨by rw [hp], stF_below HG.out HB.out _ _ _⟩
  clear hk hb hw1 hg hp
  go_enter Try.func9, Try.ntmps9
  go_upto_region 1 with fail
  rw [← HW.out, ← HG.out]
  go_wp2_with fail
  refine bodyPost_ret (v := .tuple #[.int .i64 1, .agg #[.bool false, .bool false, .int .i64 0]]) (by simp [results, Try.results9, go_sem, r0, r1, r2]) rfl (HN.out)
theorem rvc_1_0 (e : Bool) (w : World) : Calls Try.prog 9 #[.int .i64 1, .int .i64 0, .bool e] w (RPost w (recv 1 0 e)) := by
  cases e
  · exact rvc_1_0f w
  · exact rvc_1_0t w
set_option maxRecDepth 100000 in
set_option maxHeartbeats 4000000 in
theorem rvc_2_0 (e : Bool) (w : World) : Calls Try.prog 9 #[.int .i64 2, .int .i64 0, .bool e] w (RPost w (recv 2 0 e)) := by
  have hp : recv 2 0 e = ⟨2, true, false, 5⟩ := by rfl
  obtain ⟨hk, hb⟩ := kf_of w false false 0
  obtain ⟨w1, hw1⟩ : ∃ x, x = w.alloc (.cells #[.bool false, .bool false, .int .i64 0] 24) := ⟨_, rfl⟩
  obtain ⟨g, hg⟩ : ∃ g, g = w.heap.size := ⟨_, rfl⟩
  rw [← hw1, ← hg] at hk
  rw [← hw1] at hb
  have HG := Lib.hid hg
  have HB := Lib.hid hb
  have HW := Lib.hid hw1
  have HK := Lib.hid hk
  have HC := Lib.hid (rvfault_any 5 false w1)
  have HN : Hid (∀ W, Below w.heap.size w W → RPost w (recv 2 0 e) (.returned (.tuple #[.int .i64 2, .agg #[.bool true, .bool false, .int .i64 5]])) (stF W g true false 5)) := Lib.hid (fun W h => ⟨by rw [hp], stF_below HG.out h _ _ _⟩)
  clear hk hb hw1 hg hp
  go_enter Try.func9, Try.ntmps9
  go_upto_region 1 with fail
  rw [← HW.out, ← HG.out]
  go_wp2_with fail
  with_reducible refine (HC.out).mono ?_
  rintro e w2 ⟨rfl, hb⟩
  have hk := HK.out.up hb
  obtain ⟨r0, r1, r2⟩ := hk.cells
  obtain ⟨f0, f1, f2⟩ := hk.loose
  have HB2 := Lib.hid (HB.out.trans (hb.mono HB.out.size))
  clear hb hk
  go_wp2_with fail
  refine bodyPost_ret (v := .tuple #[.int .i64 2, .agg #[.bool true, .bool false, .int .i64 5]]) (by simp [results, Try.results9, go_sem, r0, r1, r2]) rfl (HN.out _ HB2.out)
set_option maxRecDepth 100000 in
set_option maxHeartbeats 4000000 in
theorem rvc_3_0t (w : World) : Calls Try.prog 9 #[.int .i64 3, .int .i64 0, .bool true] w (RPost w (recv 3 0 true)) := by
  have hp : recv 3 0 true = ⟨4, false, false, 0⟩ := by rfl
  obtain ⟨hk, hb⟩ := kf_of w false false 0
  obtain ⟨w1, hw1⟩ : ∃ x, x = w.alloc (.cells #[.bool false, .bool false, .int .i64 0] 24) := ⟨_, rfl⟩
  obtain ⟨g, hg⟩ : ∃ g, g = w.heap.size := ⟨_, rfl⟩
  rw [← hw1, ← hg] at hk
  rw [← hw1] at hb
  have HG := Lib.hid hg
  have HB := Lib.hid hb
  have HW := Lib.hid hw1
  obtain ⟨r0, r1, r2⟩ := hk.cells
  obtain ⟨f0, f1, f2⟩ := hk.loose
  have HN : Hid (RPost w (recv 3 0 true) (.returned (.tuple #[.int .i64 4, .agg #[.bool false, .bool false, .int .i64 0]])) (stF w1 g false false 0)) := Lib.hid ⟨by rw [hp], stF_below HG.out HB.out _ _ _⟩
  clear hk hb hw1 hg hp
  go_enter Try.func9, Try.ntmps9
  go_upto_region 1 with fail
  rw [← HW.out, ← HG.out]
  go_wp2_with fail
  refine bodyPost_ret (v := .tuple #[.int .i64 4, .agg #[.bool false, .bool false, .int .i64 0]]) (by simp [results, Try.results9, go_sem, r0, r1, r2]) rfl (HN.out)
set_option maxRecDepth 100000 in
set_option maxHeartbeats 4000000 in
theorem rvc_3_0f (w : World) : Calls Try.prog 9 #[.int .i64 3, .int .i64 0, .bool false] w (RPost w (recv 3 0 false)) := by
  have hp : recv 3 0 false = ⟨3, false, false, 0⟩ := by rfl
  obtain ⟨hk, hb⟩ := kf_of w false false 0
  obtain ⟨w1, hw1⟩ : ∃ x, x = w.alloc (.cells #[.bool false, .bool false, .int .i64 0] 24) := ⟨_, rfl⟩
  obtain ⟨g, hg⟩ : ∃ g, g = w.heap.size := ⟨_, rfl⟩
  rw [← hw1, ← hg] at hk
  rw [← hw1] at hb
  have HG := Lib.hid hg
  have HB := Lib.hid hb
  have HW := Lib.hid hw1
  obtain ⟨r0, r1, r2⟩ := hk.cells
  obtain ⟨f0, f1, f2⟩ := hk.loose
  have HN : Hid (RPost w (recv 3 0 false) (.returned (.tuple #[.int .i64 3, .agg #[.bool false, .bool false, .int .i64 0]])) (stF w1 g false false 0)) := Lib.hid ⟨by rw [hp], stF_below HG.out HB.out _ _ _⟩
  clear hk hb hw1 hg hp
  go_enter Try.func9, Try.ntmps9
  go_upto_region 1 with fail
  rw [← HW.out, ← HG.out]
  go_wp2_with fail
  refine bodyPost_ret (v := .tuple #[.int .i64 3, .agg #[.bool false, .bool false, .int .i64 0]]) (by simp [results, Try.results9, go_sem, r0, r1, r2]) rfl (HN.out)
theorem rvc_3_0 (e : Bool) (w : World) : Calls Try.prog 9 #[.int .i64 3, .int .i64 0, .bool e] w (RPost w (recv 3 0 e)) := by
  cases e
  · exact rvc_3_0f w
  · exact rvc_3_0t w
set_option maxRecDepth 100000 in
set_option maxHeartbeats 4000000 in
theorem rvc_4_0 (e : Bool) (w : World) : Calls Try.prog 9 #[.int .i64 4, .int .i64 0, .bool e] w (RPost w (recv 4 0 e)) := by
  have hp : recv 4 0 e = ⟨4, true, true, 5⟩ := by rfl
  obtain ⟨hk, hb⟩ := kf_of w false false 0
  obtain ⟨w1, hw1⟩ : ∃ x, x = w.alloc (.cells #[.bool false, .bool false, .int .i64 0] 24) := ⟨_, rfl⟩
  obtain ⟨g, hg⟩ : ∃ g, g = w.heap.size := ⟨_, rfl⟩
  rw [← hw1, ← hg] at hk
  rw [← hw1] at hb
  have HG := Lib.hid hg
  have HB := Lib.hid hb
  have HW := Lib.hid hw1
  have HK := Lib.hid hk
  have HC := Lib.hid (rvfault_any 5 true w1)
  have HN : Hid (∀ W, Below w.heap.size w W → RPost w (recv 4 0 e) (.returned (.tuple #[.int .i64 4, .agg #[.bool true, .bool true, .int .i64 5]])) (stF W g true true 5)) := Lib.hid (fun W h => ⟨by rw [hp], stF_below HG.out h _ _ _⟩)
  clear hk hb hw1 hg hp
  go_enter Try.func9, Try.ntmps9
  go_upto_region 1 with fail
  rw [← HW.out, ← HG.out]
  go_wp2_with fail
  with_reducible refine (HC.out).mono ?_
  rintro e w2 ⟨rfl, hb⟩
  have hk := HK.out.up hb
  obtain ⟨r0, r1, r2⟩ := hk.cells
  obtain ⟨f0, f1, f2⟩ := hk.loose
  have HB2 := Lib.hid (HB.out.trans (hb.mono HB.out.size))
  clear hb hk
  go_wp2_with fail
  refine bodyPost_ret (v := .tuple #[.int .i64 4, .agg #[.bool true, .bool true, .int .i64 5]]) (by simp [results, Try.results9, go_sem, r0, r1, r2]) rfl (HN.out _ HB2.out)
set_option maxRecDepth 100000 in
set_option maxHeartbeats 4000000 in
theorem rvc_5_0 (e : Bool) (w : World) : Calls Try.prog 9 #[.int .i64 5, .int .i64 0, .bool e] w (RPost w (recv 5 0 e)) := by
  have hp : recv 5 0 e = ⟨5, false, false, 0⟩ := by rfl
  obtain ⟨hk, hb⟩ := kf_of w false false 0
  obtain ⟨w1, hw1⟩ : ∃ x, x = w.alloc (.cells #[.bool false, .bool false, .int .i64 0] 24) := ⟨_, rfl⟩
  obtain ⟨g, hg⟩ : ∃ g, g = w.heap.size := ⟨_, rfl⟩
  rw [← hw1, ← hg] at hk
  rw [← hw1] at hb
  have HG := Lib.hid hg
  have HB := Lib.hid hb
  have HW := Lib.hid hw1
  obtain ⟨r0, r1, r2⟩ := hk.cells
  obtain ⟨f0, f1, f2⟩ := hk.loose
  have HN : Hid (RPost w (recv 5 0 e) (.returned (.tuple #[.int .i64 5, .agg #[.bool false, .bool false, .int .i64 0]])) (stF w1 g false false 0)) := Lib.hid ⟨by rw [hp], stF_below HG.out HB.out _ _ _⟩
  clear hk hb hw1 hg hp
  go_enter Try.func9, Try.ntmps9
  go_upto_region 1 with fail
  rw [← HW.out, ← HG.out]
  go_wp2_with fail
  refine bodyPost_ret (v := .tuple #[.int .i64 5, .agg #[.bool false, .bool false, .int .i64 0]]) (by simp [results, Try.results9, go_sem, r0, r1, r2]) rfl (HN.out)
set_option maxRecDepth 100000 in
set_option maxHeartbeats 4000000 in
theorem rvc_x_0 (s : Int) (e : Bool) (w : World) (h : ¬ s = 0 ∧ ¬ s = 1 ∧ ¬ s = 2 ∧ ¬ s = 3 ∧ ¬ s = 4 ∧ ¬ s = 5) : Calls Try.prog 9 #[.int .i64 s, .int .i64 0, .bool e] w (RPost w (recv s 0 e)) := by
  have hp : recv s 0 e = ⟨s, true, true, 1⟩ := by unfold recv; rw [if_pos (by decide), if_neg (by omega), if_neg (by omega), if_neg (by omega), if_neg (by omega), if_neg (by omega), if_neg (by omega)]
  have s0b : (s == 0) = false := bne (by omega)
  have s0n : (s != 0) = true := nbt (by omega)
  have s1b : (s == 1) = false := bne (by omega)
  have s1n : (s != 1) = true := nbt (by omega)
  have s2b : (s == 2) = false := bne (by omega)
  have s2n : (s != 2) = true := nbt (by omega)
  have s3b : (s == 3) = false := bne (by omega)
  have s3n : (s != 3) = true := nbt (by omega)
  have s4b : (s == 4) = false := bne (by omega)
  have s4n : (s != 4) = true := nbt (by omega)
  have s5b : (s == 5) = false := bne (by omega)
  have s5n : (s != 5) = true := nbt (by omega)
  obtain ⟨hk, hb⟩ := kf_of w false false 0
  obtain ⟨w1, hw1⟩ : ∃ x, x = w.alloc (.cells #[.bool false, .bool false, .int .i64 0] 24) := ⟨_, rfl⟩
  obtain ⟨g, hg⟩ : ∃ g, g = w.heap.size := ⟨_, rfl⟩
  rw [← hw1, ← hg] at hk
  rw [← hw1] at hb
  have HG := Lib.hid hg
  have HB := Lib.hid hb
  have HW := Lib.hid hw1
  have HK := Lib.hid hk
  have HC := Lib.hid (rvfault_any 1 true w1)
  have HN : Hid (∀ W, Below w.heap.size w W → RPost w (recv s 0 e) (.returned (.tuple #[.int .i64 s, .agg #[.bool true, .bool true, .int .i64 1]])) (stF W g true true 1)) := Lib.hid (fun W h => ⟨by rw [hp], stF_below HG.out h _ _ _⟩)
  clear hk hb hw1 hg hp h
  go_enter Try.func9, Try.ntmps9
  go_upto_region 1 with fail
  rw [← HW.out, ← HG.out]
  go_wp2_with fail
  with_reducible refine (HC.out).mono ?_
  rintro e w2 ⟨rfl, hb⟩
  have hk := HK.out.up hb
  obtain ⟨r0, r1, r2⟩ := hk.cells
  obtain ⟨f0, f1, f2⟩ := hk.loose
  have HB2 := Lib.hid (HB.out.trans (hb.mono HB.out.size))
  clear hb hk
  go_wp2_with fail
  refine bodyPost_ret (v := .tuple #[.int .i64 s, .agg #[.bool true, .bool true, .int .i64 1]]) (by simp [results, Try.results9, go_sem, r0, r1, r2]) rfl (HN.out _ HB2.out)
set_option maxRecDepth 100000 in
set_option maxHeartbeats 4000000 in
theorem rvc_0_1t (w : World) : Calls Try.prog 9 #[.int .i64 0, .int .i64 1, .bool true] w (RPost w (recv 0 1 true)) := by
  have hp : recv 0 1 true = ⟨2, false, false, 0⟩ := by rfl
  obtain ⟨hk, hb⟩ := kf_of w false false 0
  obtain ⟨w1, hw1⟩ : ∃ x, x = w.alloc (.cells #[.bool false, .bool false, .int .i64 0] 24) := ⟨_, rfl⟩
  obtain ⟨g, hg⟩ : ∃ g, g = w.heap.size := ⟨_, rfl⟩
  rw [← hw1, ← hg] at hk
  rw [← hw1] at hb
  have HG := Lib.hid hg
  have HB := Lib.hid hb
  have HW := Lib.hid hw1
  obtain ⟨r0, r1, r2⟩ := hk.cells
  obtain ⟨f0, f1, f2⟩ := hk.loose
  have HN : Hid (RPost w (recv 0 1 true) (.returned (.tuple #[.int .i64 2, .agg #[.bool false, .bool false, .int .i64 0]])) (stF w1 g false false 0)) := Lib.hid ⟨by rw [hp], stF_below HG.out HB.out _ _ _⟩
  clear hk hb hw1 hg hp
  go_enter Try.func9, Try.ntmps9
  go_upto_region 1 with fail
  rw [← HW.out, ← HG.out]
  go_wp2_with fail
  refine bodyPost_ret (v := .tuple #[.int .i64 2, .agg #[.bool false, .bool false, .int .i64 0]]) (by simp [results, Try.results9, go_sem, r0, r1, r2]) rfl (HN.out)
set_option maxRecDepth 100000 in
set_option maxHeartbeats 4000000 in
theorem rvc_0_1f (w : World) : Calls Try.prog 9 #[.int .i64 0, .int .i64 1, .bool false] w (RPost w (recv 0 1 false)) := by
  have hp : recv 0 1 false = ⟨1, false, false, 0⟩ := by rfl
  obtain ⟨hk, hb⟩ := kf_of w false false 0
  obtain ⟨w1, hw1⟩ : ∃ x, x = w.alloc (.cells #[.bool false, .bool false, .int .i64 0] 24) := ⟨_, rfl⟩
  obtain ⟨g, hg⟩ : ∃ g, g = w.heap.size := ⟨_, rfl⟩
  rw [← hw1, ← hg] at hk
  rw [← hw1] at hb
  have HG := Lib.hid hg
  have HB := Lib.hid hb
  have HW := Lib.hid hw1
  obtain ⟨r0, r1, r2⟩ := hk.cells
  obtain ⟨f0, f1, f2⟩ := hk.loose
  have HN : Hid (RPost w (recv 0 1 false) (.returned (.tuple #[.int .i64 1, .agg #[.bool false, .bool false, .int .i64 0]])) (stF w1 g false false 0)) := Lib.hid ⟨by rw [hp], stF_below HG.out HB.out _ _ _⟩
  clear hk hb hw1 hg hp
  go_enter Try.func9, Try.ntmps9
  go_upto_region 1 with fail
  rw [← HW.out, ← HG.out]
  go_wp2_with fail
  refine bodyPost_ret (v := .tuple #[.int .i64 1, .agg #[.bool false, .bool false, .int .i64 0]]) (by simp [results, Try.results9, go_sem, r0, r1, r2]) rfl (HN.out)
theorem rvc_0_1 (e : Bool) (w : World) : Calls Try.prog 9 #[.int .i64 0, .int .i64 1, .bool e] w (RPost w (recv 0 1 e)) := by
  cases e
  · exact rvc_0_1f w
  · exact rvc_0_1t w
set_option maxRecDepth 100000 in
set_option maxHeartbeats 4000000 in
theorem rvc_1_1t (w : World) : Calls Try.prog 9 #[.int .i64 1, .int .i64 1, .bool true] w (RPost w (recv 1 1 true)) := by
  have hp : recv 1 1 true = ⟨2, false, false, 0⟩ := by rfl
  obtain ⟨hk, hb⟩ := kf_of w false false 0
  obtain ⟨w1, hw1⟩ : ∃ x, x = w.alloc (.cells #[.bool false, .bool false, .int .i64 0] 24) := ⟨_, rfl⟩
  obtain ⟨g, hg⟩ : ∃ g, g = w.heap.size := ⟨_, rfl⟩
  rw [← hw1, ← hg] at hk
  rw [← hw1] at hb
  have HG := Lib.hid hg
  have HB := Lib.hid hb
  have HW := Lib.hid hw1
  obtain ⟨r0, r1, r2⟩ := hk.cells
  obtain ⟨f0, f1, f2⟩ := hk.loose
  have HN : Hid (RPost w (recv 1 1 true) (.returned (.tuple #[.int .i64 2, .agg #[.bool false, .bool false, .int .i64 0]])) (stF w1 g false false 0)) := Lib.hid ⟨by rw [hp], stF_below HG.out HB.out _ _ _⟩
  clear hk hb hw1 hg hp
  go_enter Try.func9, Try.ntmps9
  go_upto_region 1 with fail
  rw [← HW.out, ← HG.out]
  go_wp2_with fail
  refine bodyPost_ret (v := .tuple #[.int .i64 2, .agg #[.bool false, .bool false, .int .i64 0]]) (by simp [results, Try.results9, go_sem, r0, r1, r2]) rfl (HN.out)
set_option maxRecDepth 100000 in
set_option maxHeartbeats 4000000 in
theorem rvc_1_1f (w : World) : Calls Try.prog 9 #[.int .i64 1, .int .i64 1, .bool false] w (RPost w (recv 1 1 false)) := by
  have hp : recv 1 1 false = ⟨1, false, false, 0⟩ := by rfl
  obtain ⟨hk, hb⟩ := kf_of w false false 0
  obtain ⟨w1, hw1⟩ : ∃ x, x = w.alloc (.cells #[.bool false, .bool false, .int .i64 0] 24) := ⟨_, rfl⟩
  obtain ⟨g, hg⟩ : ∃ g, g = w.heap.size := ⟨_, rfl⟩
  rw [← hw1, ← hg] at hk
  rw [← hw1] at hb
  have HG := Lib.hid hg
  have HB := Lib.hid hb
  have HW := Lib.hid hw1
  obtain ⟨r0, r1, r2⟩ := hk.cells
  obtain ⟨f0, f1, f2⟩ := hk.loose
  have HN : Hid (RPost w (recv 1 1 false) (.returned (.tuple #[.int .i64 1, .agg #[.bool false, .bool false, .int .i64 0]])) (stF w1 g false false 0)) := Lib.hid ⟨by rw [hp], stF_below HG.out HB.out _ _ _⟩
  clear hk hb hw1 hg hp
  go_enter Try.func9, Try.ntmps9
  go_upto_region 1 with fail
  rw [← HW.out, ← HG.out]
  go_wp2_with fail
  refine bodyPost_ret (v := .tuple #[.int .i64 1, .agg #[.bool false, .bool false, .int .i64 0]]) (by simp [results, Try.results9, go_sem, r0, r1, r2]) rfl (HN.out)
theorem rvc_1_1 (e : Bool) (w : World) : Calls Try.prog 9 #[.int .i64 1, .int .i64 1, .bool e] w (RPost w (recv 1 1 e)) := by
  cases e
  · exact rvc_1_1f w
  · exact rvc_1_1t w
set_option maxRecDepth 100000 in
set_option maxHeartbeats 4000000 in
theorem rvc_2_1 (e : Bool) (w : World) : Calls Try.prog 9 #[.int .i64 2, .int .i64 1, .bool e] w (RPost w (recv 2 1 e)) := by
  have hp : recv 2 1 e = ⟨2, true, false, 5⟩ := by rfl
  obtain ⟨hk, hb⟩ := kf_of w false false 0
  obtain ⟨w1, hw1⟩ : ∃ x, x = w.alloc (.cells #[.bool false, .bool false, .int .i64 0] 24) := ⟨_, rfl⟩
  obtain ⟨g, hg⟩ : ∃ g, g = w.heap.size := ⟨_, rfl⟩
  rw [← hw1, ← hg] at hk
  rw [← hw1] at hb
  have HG := Lib.hid hg
  have HB := Lib.hid hb
  have HW := Lib.hid hw1
  have HK := Lib.hid hk
  have HC := Lib.hid (rvfault_any 5 false w1)
  have HN : Hid (∀ W, Below w.heap.size w W → RPost w (recv 2 1 e) (.returned (.tuple #[.int .i64 2, .agg #[.bool true, .bool false, .int .i64 5]])) (stF W g true false 5)) := Lib.hid (fun W h => ⟨by rw [hp], stF_below HG.out h _ _ _⟩)
  clear hk hb hw1 hg hp
  go_enter Try.func9, Try.ntmps9
  go_upto_region 1 with fail
  rw [← HW.out, ← HG.out]
  go_wp2_with fail
  with_reducible refine (HC.out).mono ?_
  rintro e w2 ⟨rfl, hb⟩
  have hk := HK.out.up hb
  obtain ⟨r0, r1, r2⟩ := hk.cells
  obtain ⟨f0, f1, f2⟩ := hk.loose
  have HB2 := Lib.hid (HB.out.trans (hb.mono HB.out.size))
  clear hb hk
  go_wp2_with fail
  refine bodyPost_ret (v := .tuple #[.int .i64 2, .agg #[.bool true, .bool false, .int .i64 5]]) (by simp [results, Try.results9, go_sem, r0, r1, r2]) rfl (HN.out _ HB2.out)
set_option maxRecDepth 100000 in
set_option maxHeartbeats 4000000 in
theorem rvc_3_1t (w : World) : Calls Try.prog 9 #[.int .i64 3, .int .i64 1, .bool true] w (RPost w (recv 3 1 true)) := by
  have hp : recv 3 1 true = ⟨4, false, false, 0⟩ := by rfl
  obtain ⟨hk, hb⟩ := kf_of w false false 0
  obtain ⟨w1, hw1⟩ : ∃ x, x = w.alloc (.cells #[.bool false, .bool false, .int .i64 0] 24) := ⟨_, rfl⟩
  obtain ⟨g, hg⟩ : ∃ g, g = w.heap.size := ⟨_, rfl⟩
  rw [← hw1, ← hg] at hk
  rw [← hw1] at hb
  have HG := Lib.hid hg
  have HB := Lib.hid hb
  have HW := Lib.hid hw1
  obtain ⟨r0, r1, r2⟩ := hk.cells
  obtain ⟨f0, f1, f2⟩ := hk.loose
  have HN : Hid (RPost w (recv 3 1 true) (.returned (.tuple #[.int .i64 4, .agg #[.bool false, .bool false, .int .i64 0]])) (stF w1 g false false 0)) := Lib.hid ⟨by rw [hp], stF_below HG.out HB.out _ _ _⟩
  clear hk hb hw1 hg hp
  go_enter Try.func9, Try.ntmps9
  go_upto_region 1 with fail
  rw [← HW.out, ← HG.out]
  go_wp2_with fail
  refine bodyPost_ret (v := .tuple #[.int .i64 4, .agg #[.bool false, .bool false, .int .i64 0]]) (by simp [results, Try.results9, go_sem, r0, r1, r2]) rfl (HN.out)
set_option maxRecDepth 100000 in
set_option maxHeartbeats 4000000 in
theorem rvc_3_1f (w : World) : Calls Try.prog 9 #[.int .i64 3, .int .i64 1, .bool false] w (RPost w (recv 3 1 false)) := by
  have hp : recv 3 1 false = ⟨3, false, false, 0⟩ := by rfl
  obtain ⟨hk, hb⟩ := kf_of w false false 0
  obtain ⟨w1, hw1⟩ : ∃ x, x = w.alloc (.cells #[.bool false, .bool false, .int .i64 0] 24) := ⟨_, rfl⟩
  obtain ⟨g, hg⟩ : ∃ g, g = w.heap.size := ⟨_, rfl⟩
  rw [← hw1, ← hg] at hk
  rw [← hw1] at hb
  have HG := Lib.hid hg
  have HB := Lib.hid hb
  have HW := Lib.hid hw1
  obtain ⟨r0, r1, r2⟩ := hk.cells
  obtain ⟨f0, f1, f2⟩ := hk.loose
  have HN : Hid (RPost w (recv 3 1 false) (.returned (.tuple #[.int .i64 3, .agg #[.bool false, .bool false, .int .i64 0]])) (stF w1 g false false 0)) := Lib.hid ⟨by rw [hp], stF_below HG.out HB.out _ _ _⟩
  clear hk hb hw1 hg hp
  go_enter Try.func9, Try.ntmps9
  go_upto_region 1 with fail
  rw [← HW.out, ← HG.out]
  go_wp2_with fail
  refine bodyPost_ret (v := .tuple #[.int .i64 3, .agg #[.bool false, .bool false, .int .i64 0]]) (by simp [results, Try.results9, go_sem, r0, r1, r2]) rfl (HN.out)
theorem rvc_3_1 (e : Bool) (w : World) : Calls Try.prog 9 #[.int .i64 3, .int .i64 1, .bool e] w (RPost w (recv 3 1 e)) := by
  cases e
  · exact rvc_3_1f w
  · exact rvc_3_1t w
set_option maxRecDepth 100000 in
set_option maxHeartbeats 4000000 in
theorem rvc_4_1 (e : Bool) (w : World) : Calls Try.prog 9 #[.int .i64 4, .int .i64 1, .bool e] w (RPost w (recv 4 1 e)) := by
  have hp : recv 4 1 e = ⟨4, true, true, 5⟩ := by rfl
  obtain ⟨hk, hb⟩ := kf_of w false false 0
  obtain ⟨w1, hw1⟩ : ∃ x, x = w.alloc (.cells #[.bool false, .bool false, .int .i64 0] 24) := ⟨_, rfl⟩
  obtain ⟨g, hg⟩ : ∃ g, g = w.heap.size := ⟨_, rfl⟩
  rw [← hw1, ← hg] at hk
  rw [← hw1] at hb
  have HG := Lib.hid hg
  have HB := Lib.hid hb
  have HW := Lib.hid hw1
  have HK := Lib.hid hk
  have HC := Lib.hid (rvfault_any 5 true w1)
  have HN : Hid (∀ W, Below w.heap.size w W → RPost w (recv 4 1 e) (.returned (.tuple #[.int .i64 4, .agg #[.bool true, .bool true, .int .i64 5]])) (stF W g true true 5)) := Lib.hid (fun W h => ⟨by rw [hp], stF_below HG.out h _ _ _⟩)
  clear hk hb hw1 hg hp
  go_enter Try.func9, Try.ntmps9
  go_upto_region 1 with fail
  rw [← HW.out, ← HG.out]
  go_wp2_with fail
  with_reducible refine (HC.out).mono ?_
  rintro e w2 ⟨rfl, hb⟩
  have hk := HK.out.up hb
  obtain ⟨r0, r1, r2⟩ := hk.cells
  obtain ⟨f0, f1, f2⟩ := hk.loose
  have HB2 := Lib.hid (HB.out.trans (hb.mono HB.out.size))
  clear hb hk
  go_wp2_with fail
  refine bodyPost_ret (v := .tuple #[.int .i64 4, .agg #[.bool true, .bool true, .int .i64 5]]) (by simp [results, Try.results9, go_sem, r0, r1, r2]) rfl (HN.out _ HB2.out)
set_option maxRecDepth 100000 in
set_option maxHeartbeats 4000000 in
theorem rvc_5_1 (e : Bool) (w : World) : Calls Try.prog 9 #[.int .i64 5, .int .i64 1, .bool e] w (RPost w (recv 5 1 e)) := by
  have hp : recv 5 1 e = ⟨5, false, false, 0⟩ := by rfl
  obtain ⟨hk, hb⟩ := kf_of w false false 0
  obtain ⟨w1, hw1⟩ : ∃ x, x = w.alloc (.cells #[.bool false, .bool false, .int .i64 0] 24) := ⟨_, rfl⟩
  obtain ⟨g, hg⟩ : ∃ g, g = w.heap.size := ⟨_, rfl⟩
  rw [← hw1, ← hg] at hk
  rw [← hw1] at hb
  have HG := Lib.hid hg
  have HB := Lib.hid hb
  have HW := Lib.hid hw1
  obtain ⟨r0, r1, r2⟩ := hk.cells
  obtain ⟨f0, f1, f2⟩ := hk.loose
  have HN : Hid (RPost w (recv 5 1 e) (.returned (.tuple #[.int .i64 5, .agg #[.bool false, .bool false, .int .i64 0]])) (stF w1 g false false 0)) := Lib.hid ⟨by rw [hp], stF_below HG.out HB.out _ _ _⟩
  clear hk hb hw1 hg hp
  go_enter Try.func9, Try.ntmps9
  go_upto_region 1 with fail
  rw [← HW.out, ← HG.out]
  go_wp2_with fail
  refine bodyPost_ret (v := .tuple #[.int .i64 5, .agg #[.bool false, .bool false, .int .i64 0]]) (by simp [results, Try.results9, go_sem, r0, r1, r2]) rfl (HN.out)
set_option maxRecDepth 100000 in
set_option maxHeartbeats 4000000 in
theorem rvc_x_1 (s : Int) (e : Bool) (w : World) (h : ¬ s = 0 ∧ ¬ s = 1 ∧ ¬ s = 2 ∧ ¬ s = 3 ∧ ¬ s = 4 ∧ ¬ s = 5) : Calls Try.prog 9 #[.int .i64 s, .int .i64 1, .bool e] w (RPost w (recv s 1 e)) := by
  have hp : recv s 1 e = ⟨s, true, true, 1⟩ := by unfold recv; rw [if_pos (by decide), if_neg (by omega), if_neg (by omega), if_neg (by omega), if_neg (by omega), if_neg (by omega), if_neg (by omega)]
  have s0b : (s == 0) = false := bne (by omega)
  have s0n : (s != 0) = true := nbt (by omega)
  have s1b : (s == 1) = false := bne (by omega)
  have s1n : (s != 1) = true := nbt (by omega)
  have s2b : (s == 2) = false := bne (by omega)
  have s2n : (s != 2) = true := nbt (by omega)
  have s3b : (s == 3) = false := bne (by omega)
  have s3n : (s != 3) = true := nbt (by omega)
  have s4b : (s == 4) = false := bne (by omega)
  have s4n : (s != 4) = true := nbt (by omega)
  have s5b : (s == 5) = false := bne (by omega)
  have s5n : (s != 5) = true := nbt (by omega)
  obtain ⟨hk, hb⟩ := kf_of w false false 0
  obtain ⟨w1, hw1⟩ : ∃ x, x = w.alloc (.cells #[.bool false, .bool false, .int .i64 0] 24) := ⟨_, rfl⟩
  obtain ⟨g, hg⟩ : ∃ g, g = w.heap.size := ⟨_, rfl⟩
  rw [← hw1, ← hg] at hk
  rw [← hw1] at hb
  have HG := Lib.hid hg
  have HB := Lib.hid hb
  have HW := Lib.hid hw1
  have HK := Lib.hid hk
  have HC := Lib.hid (rvfault_any 1 true w1)
  have HN : Hid (∀ W, Below w.heap.size w W → RPost w (recv s 1 e) (.returned (.tuple #[.int .i64 s, .agg #[.bool true, .bool true, .int .i64 1]])) (stF W g true true 1)) := Lib.hid (fun W h => ⟨by rw [hp], stF_below HG.out h _ _ _⟩)
  clear hk hb hw1 hg hp h
  go_enter Try.func9, Try.ntmps9
  go_upto_region 1 with fail
  rw [← HW.out, ← HG.out]
  go_wp2_with fail
  with_reducible refine (HC.out).mono ?_
  rintro e w2 ⟨rfl, hb⟩
  have hk := HK.out.up hb
  obtain ⟨r0, r1, r2⟩ := hk.cells
  obtain ⟨f0, f1, f2⟩ := hk.loose
  have HB2 := Lib.hid (HB.out.trans (hb.mono HB.out.size))
  clear hb hk
  go_wp2_with fail
  refine bodyPost_ret (v := .tuple #[.int .i64 s, .agg #[.bool true, .bool true, .int .i64 1]]) (by simp [results, Try.results9, go_sem, r0, r1, r2]) rfl (HN.out _ HB2.out)
set_option maxRecDepth 100000 in
set_option maxHeartbeats 4000000 in
theorem rvc_0_2 (e : Bool) (w : World) : Calls Try.prog 9 #[.int .i64 0, .int .i64 2, .bool e] w (RPost w (recv 0 2 e)) := by
  have hp : recv 0 2 e = ⟨0, false, false, 0⟩ := by rfl
  obtain ⟨hk, hb⟩ := kf_of w false false 0
  obtain ⟨w1, hw1⟩ : ∃ x, x = w.alloc (.cells #[.bool false, .bool false, .int .i64 0] 24) := ⟨_, rfl⟩
  obtain ⟨g, hg⟩ : ∃ g, g = w.heap.size := ⟨_, rfl⟩
  rw [← hw1, ← hg] at hk
  rw [← hw1] at hb
  have HG := Lib.hid hg
  have HB := Lib.hid hb
  have HW := Lib.hid hw1
  obtain ⟨r0, r1, r2⟩ := hk.cells
  obtain ⟨f0, f1, f2⟩ := hk.loose
  have HN : Hid (RPost w (recv 0 2 e) (.returned (.tuple #[.int .i64 0, .agg #[.bool false, .bool false, .int .i64 0]])) (stF w1 g false false 0)) := Lib.hid ⟨by rw [hp], stF_below HG.out HB.out _ _ _⟩
  clear hk hb hw1 hg hp
  go_enter Try.func9, Try.ntmps9
  go_upto_region 1 with fail
  rw [← HW.out, ← HG.out]
  go_wp2_with fail
  refine bodyPost_ret (v := .tuple #[.int .i64 0, .agg #[.bool false, .bool false, .int .i64 0]]) (by simp [results, Try.results9, go_sem, r0, r1, r2]) rfl (HN.out)
set_option maxRecDepth 100000 in
set_option maxHeartbeats 4000000 in
theorem rvc_1_2 (e : Bool) (w : World) : Calls Try.prog 9 #[.int .i64 1, .int .i64 2, .bool e] w (RPost w (recv 1 2 e)) := by
  have hp : recv 1 2 e = ⟨1, false, false, 0⟩ := by rfl
  obtain ⟨hk, hb⟩ := kf_of w false false 0
  obtain ⟨w1, hw1⟩ : ∃ x, x = w.alloc (.cells #[.bool false, .bool false, .int .i64 0] 24) := ⟨_, rfl⟩
  obtain ⟨g, hg⟩ : ∃ g, g = w.heap.size := ⟨_, rfl⟩
  rw [← hw1, ← hg] at hk
  rw [← hw1] at hb
  have HG := Lib.hid hg
  have HB := Lib.hid hb
  have HW := Lib.hid hw1
  obtain ⟨r0, r1, r2⟩ := hk.cells
  obtain ⟨f0, f1, f2⟩ := hk.loose
  have HN : Hid (RPost w (recv 1 2 e) (.returned (.tuple #[.int .i64 1, .agg #[.bool false, .bool false, .int .i64 0]])) (stF w1 g false false 0)) := Lib.hid ⟨by rw [hp], stF_below HG.out HB.out _ _ _⟩
  clear hk hb hw1 hg hp
  go_enter Try.func9, Try.ntmps9
  go_upto_region 1 with fail
  rw [← HW.out, ← HG.out]
  go_wp2_with fail
  refine bodyPost_ret (v := .tuple #[.int .i64 1, .agg #[.bool false, .bool false, .int .i64 0]]) (by simp [results, Try.results9, go_sem, r0, r1, r2]) rfl (HN.out)
set_option maxRecDepth 100000 in
set_option maxHeartbeats 4000000 in
theorem rvc_2_2 (e : Bool) (w : World) : Calls Try.prog 9 #[.int .i64 2, .int .i64 2, .bool e] w (RPost w (recv 2 2 e)) := by
  have hp : recv 2 2 e = ⟨2, false, false, 0⟩ := by rfl
  obtain ⟨hk, hb⟩ := kf_of w false false 0
  obtain ⟨w1, hw1⟩ : ∃ x, x = w.alloc (.cells #[.bool false, .bool false, .int .i64 0] 24) := ⟨_, rfl⟩
  obtain ⟨g, hg⟩ : ∃ g, g = w.heap.size := ⟨_, rfl⟩
  rw [← hw1, ← hg] at hk
  rw [← hw1] at hb
  have HG := Lib.hid hg
  have HB := Lib.hid hb
  have HW := Lib.hid hw1
  obtain ⟨r0, r1, r2⟩ := hk.cells
  obtain ⟨f0, f1, f2⟩ := hk.loose
  have HN : Hid (RPost w (recv 2 2 e) (.returned (.tuple #[.int .i64 2, .agg #[.bool false, .bool false, .int .i64 0]])) (stF w1 g false false 0)) := Lib.hid ⟨by rw [hp], stF_below HG.out HB.out _ _ _⟩
  clear hk hb hw1 hg hp
  go_enter Try.func9, Try.ntmps9
  go_upto_region 1 with fail
  rw [← HW.out, ← HG.out]
  go_wp2_with fail
  refine bodyPost_ret (v := .tuple #[.int .i64 2, .agg #[.bool false, .bool false, .int .i64 0]]) (by simp [results, Try.results9, go_sem, r0, r1, r2]) rfl (HN.out)
set_option maxRecDepth 100000 in
set_option maxHeartbeats 4000000 in
theorem rvc_3_2 (e : Bool) (w : World) : Calls Try.prog 9 #[.int .i64 3, .int .i64 2, .bool e] w (RPost w (recv 3 2 e)) := by
  have hp : recv 3 2 e = ⟨3, false, false, 0⟩ := by rfl
  obtain ⟨hk, hb⟩ := kf_of w false false 0
  obtain ⟨w1, hw1⟩ : ∃ x, x = w.alloc (.cells #[.bool false, .bool false, .int .i64 0] 24) := ⟨_, rfl⟩
  obtain ⟨g, hg⟩ : ∃ g, g = w.heap.size := ⟨_, rfl⟩
  rw [← hw1, ← hg] at hk
  rw [← hw1] at hb
  have HG := Lib.hid hg
  have HB := Lib.hid hb
  have HW := Lib.hid hw1
  obtain ⟨r0, r1, r2⟩ := hk.cells
  obtain ⟨f0, f1, f2⟩ := hk.loose
  have HN : Hid (RPost w (recv 3 2 e) (.returned (.tuple #[.int .i64 3, .agg #[.bool false, .bool false, .int .i64 0]])) (stF w1 g false false 0)) := Lib.hid ⟨by rw [hp], stF_below HG.out HB.out _ _ _⟩
  clear hk hb hw1 hg hp
  go_enter Try.func9, Try.ntmps9
  go_upto_region 1 with fail
  rw [← HW.out, ← HG.out]
  go_wp2_with fail
  refine bodyPost_ret (v := .tuple #[.int .i64 3, .agg #[.bool false, .bool false, .int .i64 0]]) (by simp [results, Try.results9, go_sem, r0, r1, r2]) rfl (HN.out)
set_option maxRecDepth 100000 in
set_option maxHeartbeats 4000000 in
theorem rvc_4_2 (e : Bool) (w : World) : Calls Try.prog 9 #[.int .i64 4, .int .i64 2, .bool e] w (RPost w (recv 4 2 e)) := by
  have hp : recv 4 2 e = ⟨4, false, false, 0⟩ := by rfl
  obtain ⟨hk, hb⟩ := kf_of w false false 0
  obtain ⟨w1, hw1⟩ : ∃ x, x = w.alloc (.cells #[.bool false, .bool false, .int .i64 0] 24) := ⟨_, rfl⟩
  obtain ⟨g, hg⟩ : ∃ g, g = w.heap.size := ⟨_, rfl⟩
  rw [← hw1, ← hg] at hk
  rw [← hw1] at hb
  have HG := Lib.hid hg
  have HB := Lib.hid hb
  have HW := Lib.hid hw1
  obtain ⟨r0, r1, r2⟩ := hk.cells
  obtain ⟨f0, f1, f2⟩ := hk.loose
  have HN : Hid (RPost w (recv 4 2 e) (.returned (.tuple #[.int .i64 4, .agg #[.bool false, .bool false, .int .i64 0]])) (stF w1 g false false 0)) := Lib.hid ⟨by rw [hp], stF_below HG.out HB.out _ _ _⟩
  clear hk hb hw1 hg hp
  go_enter Try.func9, Try.ntmps9
  go_upto_region 1 with fail
  rw [← HW.out, ← HG.out]
  go_wp2_with fail
  refine bodyPost_ret (v := .tuple #[.int .i64 4, .agg #[.bool false, .bool false, .int .i64 0]]) (by simp [results, Try.results9, go_sem, r0, r1, r2]) rfl (HN.out)
set_option maxRecDepth 100000 in
set_option maxHeartbeats 4000000 in
theorem rvc_5_2 (e : Bool) (w : World) : Calls Try.prog 9 #[.int .i64 5, .int .i64 2, .bool e] w (RPost w (recv 5 2 e)) := by
  have hp : recv 5 2 e = ⟨5, false, false, 0⟩ := by rfl
  obtain ⟨hk, hb⟩ := kf_of w false false 0
  obtain ⟨w1, hw1⟩ : ∃ x, x = w.alloc (.cells #[.bool false, .bool false, .int .i64 0] 24) := ⟨_, rfl⟩
  obtain ⟨g, hg⟩ : ∃ g, g = w.heap.size := ⟨_, rfl⟩
  rw [← hw1, ← hg] at hk
  rw [← hw1] at hb
  have HG := Lib.hid hg
  have HB := Lib.hid hb
  have HW := Lib.hid hw1
  obtain ⟨r0, r1, r2⟩ := hk.cells
  obtain ⟨f0, f1, f2⟩ := hk.loose
  have HN : Hid (RPost w (recv 5 2 e) (.returned (.tuple #[.int .i64 5, .agg #[.bool false, .bool false, .int .i64 0]])) (stF w1 g false false 0)) := Lib.hid ⟨by rw [hp], stF_below HG.out HB.out _ _ _⟩
  clear hk hb hw1 hg hp
  go_enter Try.func9, Try.ntmps9
  go_upto_region 1 with fail
  rw [← HW.out, ← HG.out]
  go_wp2_with fail
  refine bodyPost_ret (v := .tuple #[.int .i64 5, .agg #[.bool false, .bool false, .int .i64 0]]) (by simp [results, Try.results9, go_sem, r0, r1, r2]) rfl (HN.out)
set_option maxRecDepth 100000 in
set_option maxHeartbeats 4000000 in
theorem rvc_x_2 (s : Int) (e : Bool) (w : World) (h : ¬ s = 0 ∧ ¬ s = 1 ∧ ¬ s = 2 ∧ ¬ s = 3 ∧ ¬ s = 4 ∧ ¬ s = 5) : Calls Try.prog 9 #[.int .i64 s, .int .i64 2, .bool e] w (RPost w (recv s 2 e)) := by
  have hp : recv s 2 e = ⟨s, true, true, 1⟩ := by unfold recv; rw [if_pos (by decide), if_neg (by omega), if_neg (by omega), if_neg (by omega), if_neg (by omega), if_neg (by omega), if_neg (by omega)]
  have s0b : (s == 0) = false := bne (by omega)
  have s0n : (s != 0) = true := nbt (by omega)
  have s1b : (s == 1) = false := bne (by omega)
  have s1n : (s != 1) = true := nbt (by omega)
  have s2b : (s == 2) = false := bne (by omega)
  have s2n : (s != 2) = true := nbt (by omega)
  have s3b : (s == 3) = false := bne (by omega)
  have s3n : (s != 3) = true := nbt (by omega)
  have s4b : (s == 4) = false := bne (by omega)
  have s4n : (s != 4) = true := nbt (by omega)
  have s5b : (s == 5) = false := bne (by omega)
  have s5n : (s != 5) = true := nbt (by omega)
  obtain ⟨hk, hb⟩ := kf_of w false false 0
  obtain ⟨w1, hw1⟩ : ∃ x, x = w.alloc (.cells #[.bool false, .bool false, .int .i64 0] 24) := ⟨_, rfl⟩
  obtain ⟨g, hg⟩ : ∃ g, g = w.heap.size := ⟨_, rfl⟩
  rw [← hw1, ← hg] at hk
  rw [← hw1] at hb
  have HG := Lib.hid hg
  have HB := Lib.hid hb
  have HW := Lib.hid hw1
  have HK := Lib.hid hk
  have HC := Lib.hid (rvfault_any 1 true w1)
  have HN : Hid (∀ W, Below w.heap.size w W → RPost w (recv s 2 e) (.returned (.tuple #[.int .i64 s, .agg #[.bool true, .bool true, .int .i64 1]])) (stF W g true true 1)) := Lib.hid (fun W h => ⟨by rw [hp], stF_below HG.out h _ _ _⟩)
  clear hk hb hw1 hg hp h
  go_enter Try.func9, Try.ntmps9
  go_upto_region 1 with fail
  rw [← HW.out, ← HG.out]
  go_wp2_with fail
  with_reducible refine (HC.out).mono ?_
  rintro e w2 ⟨rfl, hb⟩
  have hk := HK.out.up hb
  obtain ⟨r0, r1, r2⟩ := hk.cells
  obtain ⟨f0, f1, f2⟩ := hk.loose
  have HB2 := Lib.hid (HB.out.trans (hb.mono HB.out.size))
  clear hb hk
  go_wp2_with fail
  refine bodyPost_ret (v := .tuple #[.int .i64 s, .agg #[.bool true, .bool true, .int .i64 1]]) (by simp [results, Try.results9, go_sem, r0, r1, r2]) rfl (HN.out _ HB2.out)
set_option maxRecDepth 100000 in
set_option maxHeartbeats 4000000 in
theorem rvc_0_3 (e : Bool) (w : World) : Calls Try.prog 9 #[.int .i64 0, .int .i64 3, .bool e] w (RPost w (recv 0 3 e)) := by
  have hp : recv 0 3 e = ⟨0, true, true, 1⟩ := by rfl
  obtain ⟨hk, hb⟩ := kf_of w false false 0
  obtain ⟨w1, hw1⟩ : ∃ x, x = w.alloc (.cells #[.bool false, .bool false, .int .i64 0] 24) := ⟨_, rfl⟩
  obtain ⟨g, hg⟩ : ∃ g, g = w.heap.size := ⟨_, rfl⟩
  rw [← hw1, ← hg] at hk
  rw [← hw1] at hb
  have HG := Lib.hid hg
  have HB := Lib.hid hb
  have HW := Lib.hid hw1
  have HK := Lib.hid hk
  have HC := Lib.hid (rvfault_any 1 true w1)
  have HN : Hid (∀ W, Below w.heap.size w W → RPost w (recv 0 3 e) (.returned (.tuple #[.int .i64 0, .agg #[.bool true, .bool true, .int .i64 1]])) (stF W g true true 1)) := Lib.hid (fun W h => ⟨by rw [hp], stF_below HG.out h _ _ _⟩)
  clear hk hb hw1 hg hp
  go_enter Try.func9, Try.ntmps9
  go_upto_region 1 with fail
  rw [← HW.out, ← HG.out]
  go_wp2_with fail
  with_reducible refine (HC.out).mono ?_
  rintro e w2 ⟨rfl, hb⟩
  have hk := HK.out.up hb
  obtain ⟨r0, r1, r2⟩ := hk.cells
  obtain ⟨f0, f1, f2⟩ := hk.loose
  have HB2 := Lib.hid (HB.out.trans (hb.mono HB.out.size))
  clear hb hk
  go_wp2_with fail
  refine bodyPost_ret (v := .tuple #[.int .i64 0, .agg #[.bool true, .bool true, .int .i64 1]]) (by simp [results, Try.results9, go_sem, r0, r1, r2]) rfl (HN.out _ HB2.out)
set_option maxRecDepth 100000 in
set_option maxHeartbeats 4000000 in
theorem rvc_1_3 (e : Bool) (w : World) : Calls Try.prog 9 #[.int .i64 1, .int .i64 3, .bool e] w (RPost w (recv 1 3 e)) := by
  have hp : recv 1 3 e = ⟨4, false, false, 0⟩ := by rfl
  obtain ⟨hk, hb⟩ := kf_of w false false 0
  obtain ⟨w1, hw1⟩ : ∃ x, x = w.alloc (.cells #[.bool false, .bool false, .int .i64 0] 24) := ⟨_, rfl⟩
  obtain ⟨g, hg⟩ : ∃ g, g = w.heap.size := ⟨_, rfl⟩
  rw [← hw1, ← hg] at hk
  rw [← hw1] at hb
  have HG := Lib.hid hg
  have HB := Lib.hid hb
  have HW := Lib.hid hw1
  obtain ⟨r0, r1, r2⟩ := hk.cells
  obtain ⟨f0, f1, f2⟩ := hk.loose
  have HN : Hid (RPost w (recv 1 3 e) (.returned (.tuple #[.int .i64 4, .agg #[.bool false, .bool false, .int .i64 0]])) (stF w1 g false false 0)) := Lib.hid ⟨by rw [hp], stF_below HG.out HB.out _ _ _⟩
  clear hk hb hw1 hg hp
  go_enter Try.func9, Try.ntmps9
  go_upto_region 1 with fail
  rw [← HW.out, ← HG.out]
  go_wp2_with fail
  refine bodyPost_ret (v := .tuple #[.int .i64 4, .agg #[.bool false, .bool false, .int .i64 0]]) (by simp [results, Try.results9, go_sem, r0, r1, r2]) rfl (HN.out)
set_option maxRecDepth 100000 in
set_option maxHeartbeats 4000000 in
theorem rvc_2_3 (e : Bool) (w : World) : Calls Try.prog 9 #[.int .i64 2, .int .i64 3, .bool e] w (RPost w (recv 2 3 e)) := by
  have hp : recv 2 3 e = ⟨4, false, false, 0⟩ := by rfl
  obtain ⟨hk, hb⟩ := kf_of w false false 0
  obtain ⟨w1, hw1⟩ : ∃ x, x = w.alloc (.cells #[.bool false, .bool false, .int .i64 0] 24) := ⟨_, rfl⟩
  obtain ⟨g, hg⟩ : ∃ g, g = w.heap.size := ⟨_, rfl⟩
  rw [← hw1, ← hg] at hk
  rw [← hw1] at hb
  have HG := Lib.hid hg
  have HB := Lib.hid hb
  have HW := Lib.hid hw1
  obtain ⟨r0, r1, r2⟩ := hk.cells
  obtain ⟨f0, f1, f2⟩ := hk.loose
  have HN : Hid (RPost w (recv 2 3 e) (.returned (.tuple #[.int .i64 4, .agg #[.bool false, .bool false, .int .i64 0]])) (stF w1 g false false 0)) := Lib.hid ⟨by rw [hp], stF_below HG.out HB.out _ _ _⟩
  clear hk hb hw1 hg hp
  go_enter Try.func9, Try.ntmps9
  go_upto_region 1 with fail
  rw [← HW.out, ← HG.out]
  go_wp2_with fail
  refine bodyPost_ret (v := .tuple #[.int .i64 4, .agg #[.bool false, .bool false, .int .i64 0]]) (by simp [results, Try.results9, go_sem, r0, r1, r2]) rfl (HN.out)
set_option maxRecDepth 100000 in
set_option maxHeartbeats 4000000 in
theorem rvc_3_3 (e : Bool) (w : World) : Calls Try.prog 9 #[.int .i64 3, .int .i64 3, .bool e] w (RPost w (recv 3 3 e)) := by
  have hp : recv 3 3 e = ⟨4, false, false, 0⟩ := by rfl
  obtain ⟨hk, hb⟩ := kf_of w false false 0
  obtain ⟨w1, hw1⟩ : ∃ x, x = w.alloc (.cells #[.bool false, .bool false, .int .i64 0] 24) := ⟨_, rfl⟩
  obtain ⟨g, hg⟩ : ∃ g, g = w.heap.size := ⟨_, rfl⟩
  rw [← hw1, ← hg] at hk
  rw [← hw1] at hb
  have HG := Lib.hid hg
  have HB := Lib.hid hb
  have HW := Lib.hid hw1
  obtain ⟨r0, r1, r2⟩ := hk.cells
  obtain ⟨f0, f1, f2⟩ := hk.loose
  have HN : Hid (RPost w (recv 3 3 e) (.returned (.tuple #[.int .i64 4, .agg #[.bool false, .bool false, .int .i64 0]])) (stF w1 g false false 0)) := Lib.hid ⟨by rw [hp], stF_below HG.out HB.out _ _ _⟩
  clear hk hb hw1 hg hp
  go_enter Try.func9, Try.ntmps9
  go_upto_region 1 with fail
  rw [← HW.out, ← HG.out]
  go_wp2_with fail
  refine bodyPost_ret (v := .tuple #[.int .i64 4, .agg #[.bool false, .bool false, .int .i64 0]]) (by simp [results, Try.results9, go_sem, r0, r1, r2]) rfl (HN.out)
set_option maxRecDepth 100000 in
set_option maxHeartbeats 4000000 in
theorem rvc_4_3 (e : Bool) (w : World) : Calls Try.prog 9 #[.int .i64 4, .int .i64 3, .bool e] w (RPost w (recv 4 3 e)) := by
  have hp : recv 4 3 e = ⟨4, false, false, 0⟩ := by rfl
  obtain ⟨hk, hb⟩ := kf_of w false false 0
  obtain ⟨w1, hw1⟩ : ∃ x, x = w.alloc (.cells #[.bool false, .bool false, .int .i64 0] 24) := ⟨_, rfl⟩
  obtain ⟨g, hg⟩ : ∃ g, g = w.heap.size := ⟨_, rfl⟩
  rw [← hw1, ← hg] at hk
  rw [← hw1] at hb
  have HG := Lib.hid hg
  have HB := Lib.hid hb
  have HW := Lib.hid hw1
  obtain ⟨r0, r1, r2⟩ := hk.cells
  obtain ⟨f0, f1, f2⟩ := hk.loose
  have HN : Hid (RPost w (recv 4 3 e) (.returned (.tuple #[.int .i64 4, .agg #[.bool false, .bool false, .int .i64 0]])) (stF w1 g false false 0)) := Lib.hid ⟨by rw [hp], stF_below HG.out HB.out _ _ _⟩
  clear hk hb hw1 hg hp
  go_enter Try.func9, Try.ntmps9
  go_upto_region 1 with fail
  rw [← HW.out, ← HG.out]
  go_wp2_with fail
  refine bodyPost_ret (v := .tuple #[.int .i64 4, .agg #[.bool false, .bool false, .int .i64 0]]) (by simp [results, Try.results9, go_sem, r0, r1, r2]) rfl (HN.out)
set_option maxRecDepth 100000 in
set_option maxHeartbeats 4000000 in
theorem rvc_5_3 (e : Bool) (w : World) : Calls Try.prog 9 #[.int .i64 5, .int .i64 3, .bool e] w (RPost w (recv 5 3 e)) := by
  have hp : recv 5 3 e = ⟨5, false, false, 0⟩ := by rfl
  obtain ⟨hk, hb⟩ := kf_of w false false 0
  obtain ⟨w1, hw1⟩ : ∃ x, x = w.alloc (.cells #[.bool false, .bool false, .int .i64 0] 24) := ⟨_, rfl⟩
  obtain ⟨g, hg⟩ : ∃ g, g = w.heap.size := ⟨_, rfl⟩
  rw [← hw1, ← hg] at hk
  rw [← hw1] at hb
  have HG := Lib.hid hg
  have HB := Lib.hid hb
  have HW := Lib.hid hw1
  obtain ⟨r0, r1, r2⟩ := hk.cells
  obtain ⟨f0, f1, f2⟩ := hk.loose
  have HN : Hid (RPost w (recv 5 3 e) (.returned (.tuple #[.int .i64 5, .agg #[.bool false, .bool false, .int .i64 0]])) (stF w1 g false false 0)) := Lib.hid ⟨by rw [hp], stF_below HG.out HB.out _ _ _⟩
  clear hk hb hw1 hg hp
  go_enter Try.func9, Try.ntmps9
  go_upto_region 1 with fail
  rw [← HW.out, ← HG.out]
  go_wp2_with fail
  refine bodyPost_ret (v := .tuple #[.int .i64 5, .agg #[.bool false, .bool false, .int .i64 0]]) (by simp [results, Try.results9, go_sem, r0, r1, r2]) rfl (HN.out)
set_option maxRecDepth 100000 in
set_option maxHeartbeats 4000000 in
theorem rvc_x_3 (s : Int) (e : Bool) (w : World) (h : ¬ s = 0 ∧ ¬ s = 1 ∧ ¬ s = 2 ∧ ¬ s = 3 ∧ ¬ s = 4 ∧ ¬ s = 5) : Calls Try.prog 9 #[.int .i64 s, .int .i64 3, .bool e] w (RPost w (recv s 3 e)) := by
  have hp : recv s 3 e = ⟨s, true, true, 1⟩ := by unfold recv; rw [if_pos (by decide), if_neg (by omega), if_neg (by omega), if_neg (by omega), if_neg (by omega), if_neg (by omega), if_neg (by omega)]
  have s0b : (s == 0) = false := bne (by omega)
  have s0n : (s != 0) = true := nbt (by omega)
  have s1b : (s == 1) = false := bne (by omega)
  have s1n : (s != 1) = true := nbt (by omega)
  have s2b : (s == 2) = false := bne (by omega)
  have s2n : (s != 2) = true := nbt (by omega)
  have s3b : (s == 3) = false := bne (by omega)
  have s3n : (s != 3) = true := nbt (by omega)
  have s4b : (s == 4) = false := bne (by omega)
  have s4n : (s != 4) = true := nbt (by omega)
  have s5b : (s == 5) = false := bne (by omega)
  have s5n : (s != 5) = true := nbt (by omega)
  obtain ⟨hk, hb⟩ := kf_of w false false 0
  obtain ⟨w1, hw1⟩ : ∃ x, x = w.alloc (.cells #[.bool false, .bool false, .int .i64 0] 24) := ⟨_, rfl⟩
  obtain ⟨g, hg⟩ : ∃ g, g = w.heap.size := ⟨_, rfl⟩
  rw [← hw1, ← hg] at hk
  rw [← hw1] at hb
  have HG := Lib.hid hg
  have HB := Lib.hid hb
  have HW := Lib.hid hw1
  have HK := Lib.hid hk
  have HC := Lib.hid (rvfault_any 1 true w1)
  have HN : Hid (∀ W, Below w.heap.size w W → RPost w (recv s 3 e) (.returned (.tuple #[.int .i64 s, .agg #[.bool true, .bool true, .int .i64 1]])) (stF W g true true 1)) := Lib.hid (fun W h => ⟨by rw [hp], stF_below HG.out h _ _ _⟩)
  clear hk hb hw1 hg hp h
  go_enter Try.func9, Try.ntmps9
  go_upto_region 1 with fail
  rw [← HW.out, ← HG.out]
  go_wp2_with fail
  with_reducible refine (HC.out).mono ?_
  rintro e w2 ⟨rfl, hb⟩
  have hk := HK.out.up hb
  obtain ⟨r0, r1, r2⟩ := hk.cells
  obtain ⟨f0, f1, f2⟩ := hk.loose
  have HB2 := Lib.hid (HB.out.trans (hb.mono HB.out.size))
  clear hb hk
  go_wp2_with fail
  refine bodyPost_ret (v := .tuple #[.int .i64 s, .agg #[.bool true, .bool true, .int .i64 1]]) (by simp [results, Try.results9, go_sem, r0, r1, r2]) rfl (HN.out _ HB2.out)
set_option maxRecDepth 100000 in
set_option maxHeartbeats 4000000 in
theorem rvc_0_8 (e : Bool) (w : World) : Calls Try.prog 9 #[.int .i64 0, .int .i64 8, .bool e] w (RPost w (recv 0 8 e)) := by
  have hp : recv 0 8 e = ⟨0, true, true, 1⟩ := by rfl
  obtain ⟨hk, hb⟩ := kf_of w false false 0
  obtain ⟨w1, hw1⟩ : ∃ x, x = w.alloc (.cells #[.bool false, .bool false, .int .i64 0] 24) := ⟨_, rfl⟩
  obtain ⟨g, hg⟩ : ∃ g, g = w.heap.size := ⟨_, rfl⟩
  rw [← hw1, ← hg] at hk
  rw [← hw1] at hb
  have HG := Lib.hid hg
  have HB := Lib.hid hb
  have HW := Lib.hid hw1
  have HK := Lib.hid hk
  have HC := Lib.hid (rvfault_any 1 true w1)
  have HN : Hid (∀ W, Below w.heap.size w W → RPost w (recv 0 8 e) (.returned (.tuple #[.int .i64 0, .agg #[.bool true, .bool true, .int .i64 1]])) (stF W g true true 1)) := Lib.hid (fun W h => ⟨by rw [hp], stF_below HG.out h _ _ _⟩)
  clear hk hb hw1 hg hp
  go_enter Try.func9, Try.ntmps9
  go_upto_region 1 with fail
  rw [← HW.out, ← HG.out]
  go_wp2_with fail
  with_reducible refine (HC.out).mono ?_
  rintro e w2 ⟨rfl, hb⟩
  have hk := HK.out.up hb
  obtain ⟨r0, r1, r2⟩ := hk.cells
  obtain ⟨f0, f1, f2⟩ := hk.loose
  have HB2 := Lib.hid (HB.out.trans (hb.mono HB.out.size))
  clear hb hk
  go_wp2_with fail
  refine bodyPost_ret (v := .tuple #[.int .i64 0, .agg #[.bool true, .bool true, .int .i64 1]]) (by simp [results, Try.results9, go_sem, r0, r1, r2]) rfl (HN.out _ HB2.out)
set_option maxRecDepth 100000 in
set_option maxHeartbeats 4000000 in
theorem rvc_1_8 (e : Bool) (w : World) : Calls Try.prog 9 #[.int .i64 1, .int .i64 8, .bool e] w (RPost w (recv 1 8 e)) := by
  have hp : recv 1 8 e = ⟨1, false, false, 0⟩ := by rfl
  obtain ⟨hk, hb⟩ := kf_of w false false 0
  obtain ⟨w1, hw1⟩ : ∃ x, x = w.alloc (.cells #[.bool false, .bool false, .int .i64 0] 24) := ⟨_, rfl⟩
  obtain ⟨g, hg⟩ : ∃ g, g = w.heap.size := ⟨_, rfl⟩
  rw [← hw1, ← hg] at hk
  rw [← hw1] at hb
  have HG := Lib.hid hg
  have HB := Lib.hid hb
  have HW := Lib.hid hw1
  obtain ⟨r0, r1, r2⟩ := hk.cells
  obtain ⟨f0, f1, f2⟩ := hk.loose
  have HN : Hid (RPost w (recv 1 8 e) (.returned (.tuple #[.int .i64 1, .agg #[.bool false, .bool false, .int .i64 0]])) (stF w1 g false false 0)) := Lib.hid ⟨by rw [hp], stF_below HG.out HB.out _ _ _⟩
  clear hk hb hw1 hg hp
  go_enter Try.func9, Try.ntmps9
  go_upto_region 1 with fail
  rw [← HW.out, ← HG.out]
  go_wp2_with fail
  refine bodyPost_ret (v := .tuple #[.int .i64 1, .agg #[.bool false, .bool false, .int .i64 0]]) (by simp [results, Try.results9, go_sem, r0, r1, r2]) rfl (HN.out)
set_option maxRecDepth 100000 in
set_option maxHeartbeats 4000000 in
theorem rvc_2_8 (e : Bool) (w : World) : Calls Try.prog 9 #[.int .i64 2, .int .i64 8, .bool e] w (RPost w (recv 2 8 e)) := by
  have hp : recv 2 8 e = ⟨2, false, false, 0⟩ := by rfl
  obtain ⟨hk, hb⟩ := kf_of w false false 0
  obtain ⟨w1, hw1⟩ : ∃ x, x = w.alloc (.cells #[.bool false, .bool false, .int .i64 0] 24) := ⟨_, rfl⟩
  obtain ⟨g, hg⟩ : ∃ g, g = w.heap.size := ⟨_, rfl⟩
  rw [← hw1, ← hg] at hk
  rw [← hw1] at hb
  have HG := Lib.hid hg
  have HB := Lib.hid hb
  have HW := Lib.hid hw1
  obtain ⟨r0, r1, r2⟩ := hk.cells
  obtain ⟨f0, f1, f2⟩ := hk.loose
  have HN : Hid (RPost w (recv 2 8 e) (.returned (.tuple #[.int .i64 2, .agg #[.bool false, .bool false, .int .i64 0]])) (stF w1 g false false 0)) := Lib.hid ⟨by rw [hp], stF_below HG.out HB.out _ _ _⟩
  clear hk hb hw1 hg hp
  go_enter Try.func9, Try.ntmps9
  go_upto_region 1 with fail
  rw [← HW.out, ← HG.out]
  go_wp2_with fail
  refine bodyPost_ret (v := .tuple #[.int .i64 2, .agg #[.bool false, .bool false, .int .i64 0]]) (by simp [results, Try.results9, go_sem, r0, r1, r2]) rfl (HN.out)
set_option maxRecDepth 100000 in
set_option maxHeartbeats 4000000 in
theorem rvc_3_8 (e : Bool) (w : World) : Calls Try.prog 9 #[.int .i64 3, .int .i64 8, .bool e] w (RPost w (recv 3 8 e)) := by
  have hp : recv 3 8 e = ⟨3, false, false, 0⟩ := by rfl
  obtain ⟨hk, hb⟩ := kf_of w false false 0
  obtain ⟨w1, hw1⟩ : ∃ x, x = w.alloc (.cells #[.bool false, .bool false, .int .i64 0] 24) := ⟨_, rfl⟩
  obtain ⟨g, hg⟩ : ∃ g, g = w.heap.size := ⟨_, rfl⟩
  rw [← hw1, ← hg] at hk
  rw [← hw1] at hb
  have HG := Lib.hid hg
  have HB := Lib.hid hb
  have HW := Lib.hid hw1
  obtain ⟨r0, r1, r2⟩ := hk.cells
  obtain ⟨f0, f1, f2⟩ := hk.loose
  have HN : Hid (RPost w (recv 3 8 e) (.returned (.tuple #[.int .i64 3, .agg #[.bool false, .bool false, .int .i64 0]])) (stF w1 g false false 0)) := Lib.hid ⟨by rw [hp], stF_below HG.out HB.out _ _ _⟩
  clear hk hb hw1 hg hp
  go_enter Try.func9, Try.ntmps9
  go_upto_region 1 with fail
  rw [← HW.out, ← HG.out]
  go_wp2_with fail
  refine bodyPost_ret (v := .tuple #[.int .i64 3, .agg #[.bool false, .bool false, .int .i64 0]]) (by simp [results, Try.results9, go_sem, r0, r1, r2]) rfl (HN.out)
set_option maxRecDepth 100000 in
set_option maxHeartbeats 4000000 in
theorem rvc_4_8 (e : Bool) (w : World) : Calls Try.prog 9 #[.int .i64 4, .int .i64 8, .bool e] w (RPost w (recv 4 8 e)) := by
  have hp : recv 4 8 e = ⟨4, false, false, 0⟩ := by rfl
  obtain ⟨hk, hb⟩ := kf_of w false false 0
  obtain ⟨w1, hw1⟩ : ∃ x, x = w.alloc (.cells #[.bool false, .bool false, .int .i64 0] 24) := ⟨_, rfl⟩
  obtain ⟨g, hg⟩ : ∃ g, g = w.heap.size := ⟨_, rfl⟩
  rw [← hw1, ← hg] at hk
  rw [← hw1] at hb
  have HG := Lib.hid hg
  have HB := Lib.hid hb
  have HW := Lib.hid hw1
  obtain ⟨r0, r1, r2⟩ := hk.cells
  obtain ⟨f0, f1, f2⟩ := hk.loose
  have HN : Hid (RPost w (recv 4 8 e) (.returned (.tuple #[.int .i64 4, .agg #[.bool false, .bool false, .int .i64 0]])) (stF w1 g false false 0)) := Lib.hid ⟨by rw [hp], stF_below HG.out HB.out _ _ _⟩
  clear hk hb hw1 hg hp
  go_enter Try.func9, Try.ntmps9
  go_upto_region 1 with fail
  rw [← HW.out, ← HG.out]
  go_wp2_with fail
  refine bodyPost_ret (v := .tuple #[.int .i64 4, .agg #[.bool false, .bool false, .int .i64 0]]) (by simp [results, Try.results9, go_sem, r0, r1, r2]) rfl (HN.out)
set_option maxRecDepth 100000 in
set_option maxHeartbeats 4000000 in
theorem rvc_5_8 (e : Bool) (w : World) : Calls Try.prog 9 #[.int .i64 5, .int .i64 8, .bool e] w (RPost w (recv 5 8 e)) := by
  have hp : recv 5 8 e = ⟨5, false, false, 0⟩ := by rfl
  obtain ⟨hk, hb⟩ := kf_of w false false 0
  obtain ⟨w1, hw1⟩ : ∃ x, x = w.alloc (.cells #[.bool false, .bool false, .int .i64 0] 24) := ⟨_, rfl⟩
  obtain ⟨g, hg⟩ : ∃ g, g = w.heap.size := ⟨_, rfl⟩
  rw [← hw1, ← hg] at hk
  rw [← hw1] at hb
  have HG := Lib.hid hg
  have HB := Lib.hid hb
  have HW := Lib.hid hw1
  obtain ⟨r0, r1, r2⟩ := hk.cells
  obtain ⟨f0, f1, f2⟩ := hk.loose
  have HN : Hid (RPost w (recv 5 8 e) (.returned (.tuple #[.int .i64 5, .agg #[.bool false, .bool false, .int .i64 0]])) (stF w1 g false false 0)) := Lib.hid ⟨by rw [hp], stF_below HG.out HB.out _ _ _⟩
  clear hk hb hw1 hg hp
  go_enter Try.func9, Try.ntmps9
  go_upto_region 1 with fail
  rw [← HW.out, ← HG.out]
  go_wp2_with fail
  refine bodyPost_ret (v := .tuple #[.int .i64 5, .agg #[.bool false, .bool false, .int .i64 0]]) (by simp [results, Try.results9, go_sem, r0, r1, r2]) rfl (HN.out)
set_option maxRecDepth 100000 in
set_option maxHeartbeats 4000000 in
theorem rvc_x_8 (s : Int) (e : Bool) (w : World) (h : ¬ s = 0 ∧ ¬ s = 1 ∧ ¬ s = 2 ∧ ¬ s = 3 ∧ ¬ s = 4 ∧ ¬ s = 5) : Calls Try.prog 9 #[.int .i64 s, .int .i64 8, .bool e] w (RPost w (recv s 8 e)) := by
  have hp : recv s 8 e = ⟨s, true, true, 1⟩ := by unfold recv; rw [if_pos (by decide), if_neg (by omega), if_neg (by omega), if_neg (by omega), if_neg (by omega), if_neg (by omega), if_neg (by omega)]
  have s0b : (s == 0) = false := bne (by omega)
  have s0n : (s != 0) = true := nbt (by omega)
  have s1b : (s == 1) = false := bne (by omega)
  have s1n : (s != 1) = true := nbt (by omega)
  have s2b : (s == 2) = false := bne (by omega)
  have s2n : (s != 2) = true := nbt (by omega)
  have s3b : (s == 3) = false := bne (by omega)
  have s3n : (s != 3) = true := nbt (by omega)
  have s4b : (s == 4) = false := bne (by omega)
  have s4n : (s != 4) = true := nbt (by omega)
  have s5b : (s == 5) = false := bne (by omega)
  have s5n : (s != 5) = true := nbt (by omega)
  obtain ⟨hk, hb⟩ := kf_of w false false 0
  obtain ⟨w1, hw1⟩ : ∃ x, x = w.alloc (.cells #[.bool false, .bool false, .int .i64 0] 24) := ⟨_, rfl⟩
  obtain ⟨g, hg⟩ : ∃ g, g = w.heap.size := ⟨_, rfl⟩
  rw [← hw1, ← hg] at hk
  rw [← hw1] at hb
  have HG := Lib.hid hg
  have HB := Lib.hid hb
  have HW := Lib.hid hw1
  have HK := Lib.hid hk
  have HC := Lib.hid (rvfault_any 1 true w1)
  have HN : Hid (∀ W, Below w.heap.size w W → RPost w (recv s 8 e) (.returned (.tuple #[.int .i64 s, .agg #[.bool true, .bool true, .int .i64 1]])) (stF W g true true 1)) := Lib.hid (fun W h => ⟨by rw [hp], stF_below HG.out h _ _ _⟩)
  clear hk hb hw1 hg hp h
  go_enter Try.func9, Try.ntmps9
  go_upto_region 1 with fail
  rw [← HW.out, ← HG.out]
  go_wp2_with fail
  with_reducible refine (HC.out).mono ?_
  rintro e w2 ⟨rfl, hb⟩
  have hk := HK.out.up hb
  obtain ⟨r0, r1, r2⟩ := hk.cells
  obtain ⟨f0, f1, f2⟩ := hk.loose
  have HB2 := Lib.hid (HB.out.trans (hb.mono HB.out.size))
  clear hb hk
  go_wp2_with fail
  refine bodyPost_ret (v := .tuple #[.int .i64 s, .agg #[.bool true, .bool true, .int .i64 1]]) (by simp [results, Try.results9, go_sem, r0, r1, r2]) rfl (HN.out _ HB2.out)
theorem rvrecv_f (s k : Int) (e : Bool) (w : World) : Calls Try.prog 9 #[.int .i64 s, .int .i64 k, .bool e] w (RPost w (recv s k e)) := by
  by_cases k0 : k = 0
  · subst k0
    by_cases s0 : s = 0
    · subst s0; exact rvc_0_0 e w
    by_cases s1 : s = 1
    · subst s1; exact rvc_1_0 e w
    by_cases s2 : s = 2
    · subst s2; exact rvc_2_0 e w
    by_cases s3 : s = 3
    · subst s3; exact rvc_3_0 e w
    by_cases s4 : s = 4
    · subst s4; exact rvc_4_0 e w
    by_cases s5 : s = 5
    · subst s5; exact rvc_5_0 e w
    exact rvc_x_0 s e w ⟨s0, s1, s2, s3, s4, s5⟩
  by_cases k1 : k = 1
  · subst k1
    by_cases s0 : s = 0
    · subst s0; exact rvc_0_1 e w
    by_cases s1 : s = 1
    · subst s1; exact rvc_1_1 e w
    by_cases s2 : s = 2
    · subst s2; exact rvc_2_1 e w
    by_cases s3 : s = 3
    · subst s3; exact rvc_3_1 e w
    by_cases s4 : s = 4
    · subst s4; exact rvc_4_1 e w
    by_cases s5 : s = 5
    · subst s5; exact rvc_5_1 e w
    exact rvc_x_1 s e w ⟨s0, s1, s2, s3, s4, s5⟩
  by_cases k2 : k = 2
  · subst k2
    by_cases s0 : s = 0
    · subst s0; exact rvc_0_2 e w
    by_cases s1 : s = 1
    · subst s1; exact rvc_1_2 e w
    by_cases s2 : s = 2
    · subst s2; exact rvc_2_2 e w
    by_cases s3 : s = 3
    · subst s3; exact rvc_3_2 e w
    by_cases s4 : s = 4
    · subst s4; exact rvc_4_2 e w
    by_cases s5 : s = 5
    · subst s5; exact rvc_5_2 e w
    exact rvc_x_2 s e w ⟨s0, s1, s2, s3, s4, s5⟩
  by_cases k3 : k = 3
  · subst k3
    by_cases s0 : s = 0
    · subst s0; exact rvc_0_3 e w
    by_cases s1 : s = 1
    · subst s1; exact rvc_1_3 e w
    by_cases s2 : s = 2
    · subst s2; exact rvc_2_3 e w
    by_cases s3 : s = 3
    · subst s3; exact rvc_3_3 e w
    by_cases s4 : s = 4
    · subst s4; exact rvc_4_3 e w
    by_cases s5 : s = 5
    · subst s5; exact rvc_5_3 e w
    exact rvc_x_3 s e w ⟨s0, s1, s2, s3, s4, s5⟩
  by_cases k8 : k = 8
  · subst k8
    by_cases s0 : s = 0
    · subst s0; exact rvc_0_8 e w
    by_cases s1 : s = 1
    · subst s1; exact rvc_1_8 e w
    by_cases s2 : s = 2
    · subst s2; exact rvc_2_8 e w
    by_cases s3 : s = 3
    · subst s3; exact rvc_3_8 e w
    by_cases s4 : s = 4
    · subst s4; exact rvc_4_8 e w
    by_cases s5 : s = 5
    · subst s5; exact rvc_5_8 e w
    exact rvc_x_8 s e w ⟨s0, s1, s2, s3, s4, s5⟩
  exact rvc_k s k e w ⟨k0, k1, k2, k3, k8⟩
set_option maxRecDepth 100000 in
set_option maxHeartbeats 4000000 in
theorem rvs_1_0t (w : World) : Calls Try.prog 11 #[.int .i64 1, .int .i64 0, .bool true] w (SdPost w (send 1 0 true)) := by
  have hp : send 1 0 true = (3, true) := by rfl
  rw [hp]
  clear hp
  go_enter Try.func11, Try.ntmps11
  go_wp2_with fail
  go_ret2
  exact ⟨rfl, Below.refl _ _⟩
set_option maxRecDepth 100000 in
set_option maxHeartbeats 4000000 in
theorem rvs_1_0f (w : World) : Calls Try.prog 11 #[.int .i64 1, .int .i64 0, .bool false] w (SdPost w (send 1 0 false)) := by
  have hp : send 1 0 false = (1, true) := by rfl
  rw [hp]
  clear hp
  go_enter Try.func11, Try.ntmps11
  go_wp2_with fail
  go_ret2
  exact ⟨rfl, Below.refl _ _⟩
set_option maxRecDepth 100000 in
set_option maxHeartbeats 4000000 in
theorem rvs_2_0t (w : World) : Calls Try.prog 11 #[.int .i64 2, .int .i64 0, .bool true] w (SdPost w (send 2 0 true)) := by
  have hp : send 2 0 true = (4, true) := by rfl
  rw [hp]
  clear hp
  go_enter Try.func11, Try.ntmps11
  go_wp2_with fail
  go_ret2
  exact ⟨rfl, Below.refl _ _⟩
set_option maxRecDepth 100000 in
set_option maxHeartbeats 4000000 in
theorem rvs_2_0f (w : World) : Calls Try.prog 11 #[.int .i64 2, .int .i64 0, .bool false] w (SdPost w (send 2 0 false)) := by
  have hp : send 2 0 false = (2, true) := by rfl
  rw [hp]
  clear hp
  go_enter Try.func11, Try.ntmps11
  go_wp2_with fail
  go_ret2
  exact ⟨rfl, Below.refl _ _⟩
set_option maxRecDepth 100000 in
set_option maxHeartbeats 4000000 in
theorem rvs_x_0 (s : Int) (e : Bool) (w : World) (h : ¬ s = 1 ∧ ¬ s = 2 ∧ ¬ s = 3) : Calls Try.prog 11 #[.int .i64 s, .int .i64 0, .bool e] w (SdPost w (send s 0 e)) := by
  have hp : send s 0 e = (s, false) := by show sMore s e = _; unfold sMore; rw [if_neg h.1, if_neg h.2.1]
  rw [hp]
  have s1b : (s == 1) = false := bne (by omega)
  have s1n : (s != 1) = true := nbt (by omega)
  have s2b : (s == 2) = false := bne (by omega)
  have s2n : (s != 2) = true := nbt (by omega)
  have s3b : (s == 3) = false := bne (by omega)
  have s3n : (s != 3) = true := nbt (by omega)
  clear hp h
  go_enter Try.func11, Try.ntmps11
  go_wp2_with fail
  go_ret2
  exact ⟨rfl, Below.refl _ _⟩
set_option maxRecDepth 100000 in
set_option maxHeartbeats 4000000 in
theorem rvs_3_0 (e : Bool) (w : World) : Calls Try.prog 11 #[.int .i64 3, .int .i64 0, .bool e] w (SdPost w (send 3 0 e)) := by
  have hp : send 3 0 e = (3, false) := by rfl
  rw [hp]
  clear hp
  go_enter Try.func11, Try.ntmps11
  go_wp2_with fail
  go_ret2
  exact ⟨rfl, Below.refl _ _⟩
set_option maxRecDepth 100000 in
set_option maxHeartbeats 4000000 in
theorem rvs_1_1t (w : World) : Calls Try.prog 11 #[.int .i64 1, .int .i64 1, .bool true] w (SdPost w (send 1 1 true)) := by
  have hp : send 1 1 true = (3, true) := by rfl
  rw [hp]
  clear hp
  go_enter Try.func11, Try.ntmps11
  go_wp2_with fail
  go_ret2
  exact ⟨rfl, Below.refl _ _⟩
set_option maxRecDepth 100000 in
set_option maxHeartbeats 4000000 in
theorem rvs_1_1f (w : World) : Calls Try.prog 11 #[.int .i64 1, .int .i64 1, .bool false] w (SdPost w (send 1 1 false)) := by
  have hp : send 1 1 false = (1, true) := by rfl
  rw [hp]
  clear hp
  go_enter Try.func11, Try.ntmps11
  go_wp2_with fail
  go_ret2
  exact ⟨rfl, Below.refl _ _⟩
set_option maxRecDepth 100000 in
set_option maxHeartbeats 4000000 in
theorem rvs_2_1t (w : World) : Calls Try.prog 11 #[.int .i64 2, .int .i64 1, .bool true] w (SdPost w (send 2 1 true)) := by
  have hp : send 2 1 true = (4, true) := by rfl
  rw [hp]
  clear hp
  go_enter Try.func11, Try.ntmps11
  go_wp2_with fail
  go_ret2
  exact ⟨rfl, Below.refl _ _⟩
set_option maxRecDepth 100000 in
set_option maxHeartbeats 4000000 in
theorem rvs_2_1f (w : World) : Calls Try.prog 11 #[.int .i64 2, .int .i64 1, .bool false] w (SdPost w (send 2 1 false)) := by
  have hp : send 2 1 false = (2, true) := by rfl
  rw [hp]
  clear hp
  go_enter Try.func11, Try.ntmps11
  go_wp2_with fail
  go_ret2
  exact ⟨rfl, Below.refl _ _⟩
set_option maxRecDepth 100000 in
set_option maxHeartbeats 4000000 in
theorem rvs_x_1 (s : Int) (e : Bool) (w : World) (h : ¬ s = 1 ∧ ¬ s = 2 ∧ ¬ s = 3) : Calls Try.prog 11 #[.int .i64 s, .int .i64 1, .bool e] w (SdPost w (send s 1 e)) := by
  have hp : send s 1 e = (s, false) := by show sMore s e = _; unfold sMore; rw [if_neg h.1, if_neg h.2.1]
  rw [hp]
  have s1b : (s == 1) = false := bne (by omega)
  have s1n : (s != 1) = true := nbt (by omega)
  have s2b : (s == 2) = false := bne (by omega)
  have s2n : (s != 2) = true := nbt (by omega)
  have s3b : (s == 3) = false := bne (by omega)
  have s3n : (s != 3) = true := nbt (by omega)
  clear hp h
  go_enter Try.func11, Try.ntmps11
  go_wp2_with fail
  go_ret2
  exact ⟨rfl, Below.refl _ _⟩
set_option maxRecDepth 100000 in
set_option maxHeartbeats 4000000 in
theorem rvs_3_1 (e : Bool) (w : World) : Calls Try.prog 11 #[.int .i64 3, .int .i64 1, .bool e] w (SdPost w (send 3 1 e)) := by
  have hp : send 3 1 e = (3, false) := by rfl
  rw [hp]
  clear hp
  go_enter Try.func11, Try.ntmps11
  go_wp2_with fail
  go_ret2
  exact ⟨rfl, Below.refl _ _⟩
set_option maxRecDepth 100000 in
set_option maxHeartbeats 4000000 in
theorem rvs_1_3 (e : Bool) (w : World) : Calls Try.prog 11 #[.int .i64 1, .int .i64 3, .bool e] w (SdPost w (send 1 3 e)) := by
  have hp : send 1 3 e = (5, true) := by rfl
  rw [hp]
  clear hp
  go_enter Try.func11, Try.ntmps11
  go_wp2_with fail
  go_ret2
  exact ⟨rfl, Below.refl _ _⟩
set_option maxRecDepth 100000 in
set_option maxHeartbeats 4000000 in
theorem rvs_2_3 (e : Bool) (w : World) : Calls Try.prog 11 #[.int .i64 2, .int .i64 3, .bool e] w (SdPost w (send 2 3 e)) := by
  have hp : send 2 3 e = (5, true) := by rfl
  rw [hp]
  clear hp
  go_enter Try.func11, Try.ntmps11
  go_wp2_with fail
  go_ret2
  exact ⟨rfl, Below.refl _ _⟩
set_option maxRecDepth 100000 in
set_option maxHeartbeats 4000000 in
theorem rvs_3_3 (e : Bool) (w : World) : Calls Try.prog 11 #[.int .i64 3, .int .i64 3, .bool e] w (SdPost w (send 3 3 e)) := by
  have hp : send 3 3 e = (5, true) := by rfl
  rw [hp]
  clear hp
  go_enter Try.func11, Try.ntmps11
  go_wp2_with fail
  go_ret2
  exact ⟨rfl, Below.refl _ _⟩
set_option maxRecDepth 100000 in
set_option maxHeartbeats 4000000 in
theorem rvs_x_3 (s : Int) (e : Bool) (w : World) (h : ¬ s = 1 ∧ ¬ s = 2 ∧ ¬ s = 3) : Calls Try.prog 11 #[.int .i64 s, .int .i64 3, .bool e] w (SdPost w (send s 3 e)) := by
  have hp : send s 3 e = (s, false) := by show sRst s = _; unfold sRst; rw [if_neg (by omega)]
  rw [hp]
  have s1b : (s == 1) = false := bne (by omega)
  have s1n : (s != 1) = true := nbt (by omega)
  have s2b : (s == 2) = false := bne (by omega)
  have s2n : (s != 2) = true := nbt (by omega)
  have s3b : (s == 3) = false := bne (by omega)
  have s3n : (s != 3) = true := nbt (by omega)
  clear hp h
  go_enter Try.func11, Try.ntmps11
  go_wp2_with fail
  go_ret2
  exact ⟨rfl, Below.refl _ _⟩
set_option maxRecDepth 100000 in
set_option maxHeartbeats 4000000 in
theorem rvs_1_8 (e : Bool) (w : World) : Calls Try.prog 11 #[.int .i64 1, .int .i64 8, .bool e] w (SdPost w (send 1 8 e)) := by
  have hp : send 1 8 e = (1, true) := by rfl
  rw [hp]
  clear hp
  go_enter Try.func11, Try.ntmps11
  go_wp2_with fail
  go_ret2
  exact ⟨rfl, Below.refl _ _⟩
set_option maxRecDepth 100000 in
set_option maxHeartbeats 4000000 in
theorem rvs_2_8 (e : Bool) (w : World) : Calls Try.prog 11 #[.int .i64 2, .int .i64 8, .bool e] w (SdPost w (send 2 8 e)) := by
  have hp : send 2 8 e = (2, false) := by rfl
  rw [hp]
  clear hp
  go_enter Try.func11, Try.ntmps11
  go_wp2_with fail
  go_ret2
  exact ⟨rfl, Below.refl _ _⟩
set_option maxRecDepth 100000 in
set_option maxHeartbeats 4000000 in
theorem rvs_3_8 (e : Bool) (w : World) : Calls Try.prog 11 #[.int .i64 3, .int .i64 8, .bool e] w (SdPost w (send 3 8 e)) := by
  have hp : send 3 8 e = (3, true) := by rfl
  rw [hp]
  clear hp
  go_enter Try.func11, Try.ntmps11
  go_wp2_with fail
  go_ret2
  exact ⟨rfl, Below.refl _ _⟩
set_option maxRecDepth 100000 in
set_option maxHeartbeats 4000000 in
theorem rvs_x_8 (s : Int) (e : Bool) (w : World) (h : ¬ s = 1 ∧ ¬ s = 2 ∧ ¬ s = 3) : Calls Try.prog 11 #[.int .i64 s, .int .i64 8, .bool e] w (SdPost w (send s 8 e)) := by
  have hp : send s 8 e = (s, false) := by show sUpd s = _; unfold sUpd; rw [if_neg (by omega)]
  rw [hp]
  have s1b : (s == 1) = false := bne (by omega)
  have s1n : (s != 1) = true := nbt (by omega)
  have s2b : (s == 2) = false := bne (by omega)
  have s2n : (s != 2) = true := nbt (by omega)
  have s3b : (s == 3) = false := bne (by omega)
  have s3n : (s != 3) = true := nbt (by omega)
  clear hp h
  go_enter Try.func11, Try.ntmps11
  go_wp2_with fail
  go_ret2
  exact ⟨rfl, Below.refl _ _⟩
set_option maxRecDepth 100000 in
set_option maxHeartbeats 4000000 in
theorem rvs_1_k (k : Int) (e : Bool) (w : World) (h : ¬ k = 0 ∧ ¬ k = 1 ∧ ¬ k = 3 ∧ ¬ k = 8) : Calls Try.prog 11 #[.int .i64 1, .int .i64 k, .bool e] w (SdPost w (send 1 k e)) := by
  have hp : send 1 k e = (1, true) := by unfold send; rw [if_neg (by omega), if_neg (by omega), if_neg (by omega)]
  rw [hp]
  have k0b : (k == 0) = false := bne (by omega)
  have k0n : (k != 0) = true := nbt (by omega)
  have k1b : (k == 1) = false := bne (by omega)
  have k1n : (k != 1) = true := nbt (by omega)
  have k3b : (k == 3) = false := bne (by omega)
  have k3n : (k != 3) = true := nbt (by omega)
  have k8b : (k == 8) = false := bne (by omega)
  have k8n : (k != 8) = true := nbt (by omega)
  clear hp h
  go_enter Try.func11, Try.ntmps11
  go_wp2_with fail
  go_ret2
  exact ⟨rfl, Below.refl _ _⟩
set_option maxRecDepth 100000 in
set_option maxHeartbeats 4000000 in
theorem rvs_2_k (k : Int) (e : Bool) (w : World) (h : ¬ k = 0 ∧ ¬ k = 1 ∧ ¬ k = 3 ∧ ¬ k = 8) : Calls Try.prog 11 #[.int .i64 2, .int .i64 k, .bool e] w (SdPost w (send 2 k e)) := by
  have hp : send 2 k e = (2, true) := by unfold send; rw [if_neg (by omega), if_neg (by omega), if_neg (by omega)]
  rw [hp]
  have k0b : (k == 0) = false := bne (by omega)
  have k0n : (k != 0) = true := nbt (by omega)
  have k1b : (k == 1) = false := bne (by omega)
  have k1n : (k != 1) = true := nbt (by omega)
  have k3b : (k == 3) = false := bne (by omega)
  have k3n : (k != 3) = true := nbt (by omega)
  have k8b : (k == 8) = false := bne (by omega)
  have k8n : (k != 8) = true := nbt (by omega)
  clear hp h
  go_enter Try.func11, Try.ntmps11
  go_wp2_with fail
  go_ret2
  exact ⟨rfl, Below.refl _ _⟩
set_option maxRecDepth 100000 in
set_option maxHeartbeats 4000000 in
theorem rvs_3_k (k : Int) (e : Bool) (w : World) (h : ¬ k = 0 ∧ ¬ k = 1 ∧ ¬ k = 3 ∧ ¬ k = 8) : Calls Try.prog 11 #[.int .i64 3, .int .i64 k, .bool e] w (SdPost w (send 3 k e)) := by
  have hp : send 3 k e = (3, true) := by unfold send; rw [if_neg (by omega), if_neg (by omega), if_neg (by omega)]
  rw [hp]
  have k0b : (k == 0) = false := bne (by omega)
  have k0n : (k != 0) = true := nbt (by omega)
  have k1b : (k == 1) = false := bne (by omega)
  have k1n : (k != 1) = true := nbt (by omega)
  have k3b : (k == 3) = false := bne (by omega)
  have k3n : (k != 3) = true := nbt (by omega)
  have k8b : (k == 8) = false := bne (by omega)
  have k8n : (k != 8) = true := nbt (by omega)
  clear hp h
  go_enter Try.func11, Try.ntmps11
  go_wp2_with fail
  go_ret2
  exact ⟨rfl, Below.refl _ _⟩
set_option maxRecDepth 100000 in
set_option maxHeartbeats 4000000 in
theorem rvs_x_k (s k : Int) (e : Bool) (w : World) (h : ¬ k = 0 ∧ ¬ k = 1 ∧ ¬ k = 3 ∧ ¬ k = 8) (hs : ¬ s = 1 ∧ ¬ s = 2 ∧ ¬ s = 3) : Calls Try.prog 11 #[.int .i64 s, .int .i64 k, .bool e] w (SdPost w (send s k e)) := by
  have hp : send s k e = (s, true) := by unfold send; rw [if_neg (by omega), if_neg (by omega), if_neg (by omega)]
  rw [hp]
  have k0b : (k == 0) = false := bne (by omega)
  have k0n : (k != 0) = true := nbt (by omega)
  have k1b : (k == 1) = false := bne (by omega)
  have k1n : (k != 1) = true := nbt (by omega)
  have k3b : (k == 3) = false := bne (by omega)
  have k3n : (k != 3) = true := nbt (by omega)
  have k8b : (k == 8) = false := bne (by omega)
  have k8n : (k != 8) = true := nbt (by omega)
  have s1b : (s == 1) = false := bne (by omega)
  have s1n : (s != 1) = true := nbt (by omega)
  have s2b : (s == 2) = false := bne (by omega)
  have s2n : (s != 2) = true := nbt (by omega)
  have s3b : (s == 3) = false := bne (by omega)
  have s3n : (s != 3) = true := nbt (by omega)
  clear hp h hs
  go_enter Try.func11, Try.ntmps11
  go_wp2_with fail
  go_ret2
  exact ⟨rfl, Below.refl _ _⟩
theorem rvsend_f (s k : Int) (e : Bool) (w : World) : Calls Try.prog 11 #[.int .i64 s, .int .i64 k, .bool e] w (SdPost w (send s k e)) := by
  by_cases k0 : k = 0
  · subst k0
    by_cases s1 : s = 1
    · subst s1; cases e
      · exact rvs_1_0f w
      · exact rvs_1_0t w
    by_cases s2 : s = 2
    · subst s2; cases e
      · exact rvs_2_0f w
      · exact rvs_2_0t w
    by_cases s3 : s = 3
    · subst s3; exact rvs_3_0 e w
    exact rvs_x_0 s e w ⟨s1, s2, s3⟩
  by_cases k1 : k = 1
  · subst k1
    by_cases s1 : s = 1
    · subst s1; cases e
      · exact rvs_1_1f w
      · exact rvs_1_1t w
    by_cases s2 : s = 2
    · subst s2; cases e
      · exact rvs_2_1f w
      · exact rvs_2_1t w
    by_cases s3 : s = 3
    · subst s3; exact rvs_3_1 e w
    exact rvs_x_1 s e w ⟨s1, s2, s3⟩
  by_cases k3 : k = 3
  · subst k3
    by_cases s1 : s = 1
    · subst s1; exact rvs_1_3 e w
    by_cases s2 : s = 2
    · subst s2; exact rvs_2_3 e w
    by_cases s3 : s = 3
    · subst s3; exact rvs_3_3 e w
    exact rvs_x_3 s e w ⟨s1, s2, s3⟩
  by_cases k8 : k = 8
  · subst k8
    by_cases s1 : s = 1
    · subst s1; exact rvs_1_8 e w
    by_cases s2 : s = 2
    · subst s2; exact rvs_2_8 e w
    by_cases s3 : s = 3
    · subst s3; exact rvs_3_8 e w
    exact rvs_x_8 s e w ⟨s1, s2, s3⟩
  by_cases s1 : s = 1
  · subst s1; exact rvs_1_k k e w ⟨k0, k1, k3, k8⟩
  by_cases s2 : s = 2
  · subst s2; exact rvs_2_k k e w ⟨k0, k1, k3, k8⟩
  by_cases s3 : s = 3
  · subst s3; exact rvs_3_k k e w ⟨k0, k1, k3, k8⟩
  exact rvs_x_k s k e w ⟨k0, k1, k3, k8⟩ ⟨s1, s2, s3⟩
end Go.Proofs.Ytkncolgdjnhcoaa
