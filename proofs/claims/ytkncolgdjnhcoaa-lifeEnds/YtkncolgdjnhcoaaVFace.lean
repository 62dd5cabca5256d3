/- Recv and Send over the landed code. -/
import Derived.Test.YtkncolgdjnhcoaaVPost
import Derived.Deep.DeepCutAuto
import Derived.BigQuiet
namespace Go.Proofs.Ytkncolgdjnhcoaa
open Go.RowKit Lf

set_option maxRecDepth 100000 in
set_option maxHeartbeats 4000000 in
theorem vofconn_f (code : Int) (w : World) : Calls Try.prog 16 #[.int .i64 code] w fun e w' => e = .returned (.agg #[.bool true, .bool true, .int .i64 code]) ∧ Below w.heap.size w w' := by
  go_enter Try.func16, Try.ntmps16
  go_wp2
  refine bodyPost_ret (v := .agg #[.bool true, .bool true, .int .i64 code]) (by simp [results, Try.results16, go_sem]) rfl ?_
  exact ⟨rfl, (Below.refl _ _).alloc (Nat.le_refl _) _⟩
set_option maxRecDepth 100000 in
set_option maxHeartbeats 4000000 in
theorem vid_1t (w : World) : Calls Try.prog 12 #[.int .i64 1, .bool true] w (RPost w (rIdle 1 true)) := by
  have hp : rIdle 1 true = ⟨2, false, false, 0⟩ := by rfl
  obtain ⟨hk, hb⟩ := kf_of w false false 0
  obtain ⟨w1, hw1⟩ : ∃ x, x = w.alloc (.cells #[.bool false, .bool false, .int .i64 0] 24) := ⟨_, rfl⟩
  obtain ⟨g, hg⟩ : ∃ g, g = w.heap.size := ⟨_, rfl⟩
  rw [← hw1, ← hg] at hk
  rw [← hw1] at hb
  have HG := Lib.hid hg
  have HB := Lib.hid hb
  have HW := Lib.hid hw1
  obtain ⟨r0, r1, r2⟩ := hk.cells
  obtain ⟨f0, f1, f2⟩ := hk.loose
  have HN : Hid (RPost w (rIdle 1 true) (.returned (.tuple #[.int .i64 2, .agg #[.bool false, .bool false, .int .i64 0]])) (stF w1 g false false 0)) := Lib.hid ⟨by rw [hp], stF_below HG.out HB.out _ _ _⟩
  clear hk hb hw1 hg hp
  go_enter Try.func12, Try.ntmps12
  go_upto_region 1 with fail
  rw [← HW.out, ← HG.out]
  go_wp2_with fail
  refine bodyPost_ret (v := .tuple #[.int .i64 2, .agg #[.bool false, .bool false, .int .i64 0]]) (by simp [results, Try.results12, go_sem, r0, r1, r2]) rfl (HN.out)
set_option maxRecDepth 100000 in
set_option maxHeartbeats 4000000 in
theorem vid_1f (w : World) : Calls Try.prog 12 #[.int .i64 1, .bool false] w (RPost w (rIdle 1 false)) := by
  have hp : rIdle 1 false = ⟨1, false, false, 0⟩ := by rfl
  obtain ⟨hk, hb⟩ := kf_of w false false 0
  obtain ⟨w1, hw1⟩ : ∃ x, x = w.alloc (.cells #[.bool false, .bool false, .int .i64 0] 24) := ⟨_, rfl⟩
  obtain ⟨g, hg⟩ : ∃ g, g = w.heap.size := ⟨_, rfl⟩
  rw [← hw1, ← hg] at hk
  rw [← hw1] at hb
  have HG := Lib.hid hg
  have HB := Lib.hid hb
  have HW := Lib.hid hw1
  obtain ⟨r0, r1, r2⟩ := hk.cells
  obtain ⟨f0, f1, f2⟩ := hk.loose
  have HN : Hid (RPost w (rIdle 1 false) (.returned (.tuple #[.int .i64 1, .agg #[.bool false, .bool false, .int .i64 0]])) (stF w1 g false false 0)) := Lib.hid ⟨by rw [hp], stF_below HG.out HB.out _ _ _⟩
  clear hk hb hw1 hg hp
  go_enter Try.func12, Try.ntmps12
  go_upto_region 1 with fail
  rw [← HW.out, ← HG.out]
  go_wp2_with fail
  refine bodyPost_ret (v := .tuple #[.int .i64 1, .agg #[.bool false, .bool false, .int .i64 0]]) (by simp [results, Try.results12, go_sem, r0, r1, r2]) rfl (HN.out)
set_option maxRecDepth 100000 in
set_option maxHeartbeats 4000000 in
theorem vid_2 (e : Bool) (w : World) : Calls Try.prog 12 #[.int .i64 2, .bool e] w (RPost w (rIdle 2 e)) := by
  have hp : rIdle 2 e = ⟨0, false, false, 0⟩ := by rfl
  obtain ⟨hk, hb⟩ := kf_of w false false 0
  obtain ⟨w1, hw1⟩ : ∃ x, x = w.alloc (.cells #[.bool false, .bool false, .int .i64 0] 24) := ⟨_, rfl⟩
  obtain ⟨g, hg⟩ : ∃ g, g = w.heap.size := ⟨_, rfl⟩
  rw [← hw1, ← hg] at hk
  rw [← hw1] at hb
  have HG := Lib.hid hg
  have HB := Lib.hid hb
  have HW := Lib.hid hw1
  obtain ⟨r0, r1, r2⟩ := hk.cells
  obtain ⟨f0, f1, f2⟩ := hk.loose
  have HN : Hid (RPost w (rIdle 2 e) (.returned (.tuple #[.int .i64 0, .agg #[.bool false, .bool false, .int .i64 0]])) (stF w1 g false false 0)) := Lib.hid ⟨by rw [hp], stF_below HG.out HB.out _ _ _⟩
  clear hk hb hw1 hg hp
  go_enter Try.func12, Try.ntmps12
  go_upto_region 1 with fail
  rw [← HW.out, ← HG.out]
  go_wp2_with fail
  refine bodyPost_ret (v := .tuple #[.int .i64 0, .agg #[.bool false, .bool false, .int .i64 0]]) (by simp [results, Try.results12, go_sem, r0, r1, r2]) rfl (HN.out)
set_option maxRecDepth 100000 in
set_option maxHeartbeats 4000000 in
theorem vid_x (k : Int) (e : Bool) (w : World) (h : ¬ k = 1 ∧ ¬ k = 2) : Calls Try.prog 12 #[.int .i64 k, .bool e] w (RPost w (rIdle k e)) := by
  have hp : rIdle k e = ⟨0, true, true, 1⟩ := by unfold rIdle; rw [if_neg h.1, if_neg h.2]
  have k1b : (k == 1) = false := bne (by omega)
  have k1n : (k != 1) = true := nbt (by omega)
  have k2b : (k == 2) = false := bne (by omega)
  have k2n : (k != 2) = true := nbt (by omega)
  obtain ⟨hk, hb⟩ := kf_of w false false 0
  obtain ⟨w1, hw1⟩ : ∃ x, x = w.alloc (.cells #[.bool false, .bool false, .int .i64 0] 24) := ⟨_, rfl⟩
  obtain ⟨g, hg⟩ : ∃ g, g = w.heap.size := ⟨_, rfl⟩
  rw [← hw1, ← hg] at hk
  rw [← hw1] at hb
  have HG := Lib.hid hg
  have HB := Lib.hid hb
  have HW := Lib.hid hw1
  have HK := Lib.hid hk
  have HC := Lib.hid (vofconn_f 1 w1)
  have HN : Hid (∀ W, Below w.heap.size w W → RPost w (rIdle k e) (.returned (.tuple #[.int .i64 0, .agg #[.bool true, .bool true, .int .i64 1]])) (stF W g true true 1)) := Lib.hid (fun W h => ⟨by rw [hp], stF_below HG.out h _ _ _⟩)
  clear hk hb hw1 hg hp h
  go_enter Try.func12, Try.ntmps12
  go_upto_region 1 with fail
  rw [← HW.out, ← HG.out]
  go_wp2_with fail
  with_reducible refine (HC.out).mono ?_
  rintro e w2 ⟨rfl, hb⟩
  have hk := HK.out.up hb
  obtain ⟨r0, r1, r2⟩ := hk.cells
  obtain ⟨f0, f1, f2⟩ := hk.loose
  have HB2 := Lib.hid (HB.out.trans (hb.mono HB.out.size))
  clear hb hk
  go_wp2_with fail
  refine bodyPost_ret (v := .tuple #[.int .i64 0, .agg #[.bool true, .bool true, .int .i64 1]]) (by simp [results, Try.results12, go_sem, r0, r1, r2]) rfl (HN.out _ HB2.out)
theorem vidle_f (k : Int) (e : Bool) (w : World) : Calls Try.prog 12 #[.int .i64 k, .bool e] w (RPost w (rIdle k e)) := by
  by_cases h1 : k = 1
  · subst h1; cases e
    · exact vid_1f w
    · exact vid_1t w
  by_cases h2 : k = 2
  · subst h2; exact vid_2 e w
  exact vid_x k e w ⟨h1, h2⟩
set_option maxRecDepth 100000 in
set_option maxHeartbeats 4000000 in
theorem vop_0t (s b : Int) (w : World) : Calls Try.prog 13 #[.int .i64 0, .bool true, .int .i64 s, .int .i64 b] w (RPost w (rOpen 0 true s b)) := by
  have hp : rOpen 0 true s b = ⟨b, false, false, 0⟩ := by rfl
  obtain ⟨hk, hb⟩ := kf_of w false false 0
  obtain ⟨w1, hw1⟩ : ∃ x, x = w.alloc (.cells #[.bool false, .bool false, .int .i64 0] 24) := ⟨_, rfl⟩
  obtain ⟨g, hg⟩ : ∃ g, g = w.heap.size := ⟨_, rfl⟩
  rw [← hw1, ← hg] at hk
  rw [← hw1] at hb
  have HG := Lib.hid hg
  have HB := Lib.hid hb
  have HW := Lib.hid hw1
  obtain ⟨r0, r1, r2⟩ := hk.cells
  obtain ⟨f0, f1, f2⟩ := hk.loose
  have HN : Hid (RPost w (rOpen 0 true s b) (.returned (.tuple #[.int .i64 b, .agg #[.bool false, .bool false, .int .i64 0]])) (stF w1 g false false 0)) := Lib.hid ⟨by rw [hp], stF_below HG.out HB.out _ _ _⟩
  clear hk hb hw1 hg hp
  go_enter Try.func13, Try.ntmps13
  go_upto_region 1 with fail
  rw [← HW.out, ← HG.out]
  go_wp2_with fail
  refine bodyPost_ret (v := .tuple #[.int .i64 b, .agg #[.bool false, .bool false, .int .i64 0]]) (by simp [results, Try.results13, go_sem, r0, r1, r2]) rfl (HN.out)
set_option maxRecDepth 100000 in
set_option maxHeartbeats 4000000 in
theorem vop_0f (s b : Int) (w : World) : Calls Try.prog 13 #[.int .i64 0, .bool false, .int .i64 s, .int .i64 b] w (RPost w (rOpen 0 false s b)) := by
  have hp : rOpen 0 false s b = ⟨s, false, false, 0⟩ := by rfl
  obtain ⟨hk, hb⟩ := kf_of w false false 0
  obtain ⟨w1, hw1⟩ : ∃ x, x = w.alloc (.cells #[.bool false, .bool false, .int .i64 0] 24) := ⟨_, rfl⟩
  obtain ⟨g, hg⟩ : ∃ g, g = w.heap.size := ⟨_, rfl⟩
  rw [← hw1, ← hg] at hk
  rw [← hw1] at hb
  have HG := Lib.hid hg
  have HB := Lib.hid hb
  have HW := Lib.hid hw1
  obtain ⟨r0, r1, r2⟩ := hk.cells
  obtain ⟨f0, f1, f2⟩ := hk.loose
  have HN : Hid (RPost w (rOpen 0 false s b) (.returned (.tuple #[.int .i64 s, .agg #[.bool false, .bool false, .int .i64 0]])) (stF w1 g false false 0)) := Lib.hid ⟨by rw [hp], stF_below HG.out HB.out _ _ _⟩
  clear hk hb hw1 hg hp
  go_enter Try.func13, Try.ntmps13
  go_upto_region 1 with fail
  rw [← HW.out, ← HG.out]
  go_wp2_with fail
  refine bodyPost_ret (v := .tuple #[.int .i64 s, .agg #[.bool false, .bool false, .int .i64 0]]) (by simp [results, Try.results13, go_sem, r0, r1, r2]) rfl (HN.out)
set_option maxRecDepth 100000 in
set_option maxHeartbeats 4000000 in
theorem vop_1t (s b : Int) (w : World) : Calls Try.prog 13 #[.int .i64 1, .bool true, .int .i64 s, .int .i64 b] w (RPost w (rOpen 1 true s b)) := by
  have hp : rOpen 1 true s b = ⟨b, false, false, 0⟩ := by rfl
  obtain ⟨hk, hb⟩ := kf_of w false false 0
  obtain ⟨w1, hw1⟩ : ∃ x, x = w.alloc (.cells #[.bool false, .bool false, .int .i64 0] 24) := ⟨_, rfl⟩
  obtain ⟨g, hg⟩ : ∃ g, g = w.heap.size := ⟨_, rfl⟩
  rw [← hw1, ← hg] at hk
  rw [← hw1] at hb
  have HG := Lib.hid hg
  have HB := Lib.hid hb
  have HW := Lib.hid hw1
  obtain ⟨r0, r1, r2⟩ := hk.cells
  obtain ⟨f0, f1, f2⟩ := hk.loose
  have HN : Hid (RPost w (rOpen 1 true s b) (.returned (.tuple #[.int .i64 b, .agg #[.bool false, .bool false, .int .i64 0]])) (stF w1 g false false 0)) := Lib.hid ⟨by rw [hp], stF_below HG.out HB.out _ _ _⟩
  clear hk hb hw1 hg hp
  go_enter Try.func13, Try.ntmps13
  go_upto_region 1 with fail
  rw [← HW.out, ← HG.out]
  go_wp2_with fail
  refine bodyPost_ret (v := .tuple #[.int .i64 b, .agg #[.bool false, .bool false, .int .i64 0]]) (by simp [results, Try.results13, go_sem, r0, r1, r2]) rfl (HN.out)
set_option maxRecDepth 100000 in
set_option maxHeartbeats 4000000 in
theorem vop_1f (s b : Int) (w : World) : Calls Try.prog 13 #[.int .i64 1, .bool false, .int .i64 s, .int .i64 b] w (RPost w (rOpen 1 false s b)) := by
  have hp : rOpen 1 false s b = ⟨s, false, false, 0⟩ := by rfl
  obtain ⟨hk, hb⟩ := kf_of w false false 0
  obtain ⟨w1, hw1⟩ : ∃ x, x = w.alloc (.cells #[.bool false, .bool false, .int .i64 0] 24) := ⟨_, rfl⟩
  obtain ⟨g, hg⟩ : ∃ g, g = w.heap.size := ⟨_, rfl⟩
  rw [← hw1, ← hg] at hk
  rw [← hw1] at hb
  have HG := Lib.hid hg
  have HB := Lib.hid hb
  have HW := Lib.hid hw1
  obtain ⟨r0, r1, r2⟩ := hk.cells
  obtain ⟨f0, f1, f2⟩ := hk.loose
  have HN : Hid (RPost w (rOpen 1 false s b) (.returned (.tuple #[.int .i64 s, .agg #[.bool false, .bool false, .int .i64 0]])) (stF w1 g false false 0)) := Lib.hid ⟨by rw [hp], stF_below HG.out HB.out _ _ _⟩
  clear hk hb hw1 hg hp
  go_enter Try.func13, Try.ntmps13
  go_upto_region 1 with fail
  rw [← HW.out, ← HG.out]
  go_wp2_with fail
  refine bodyPost_ret (v := .tuple #[.int .i64 s, .agg #[.bool false, .bool false, .int .i64 0]]) (by simp [results, Try.results13, go_sem, r0, r1, r2]) rfl (HN.out)
set_option maxRecDepth 100000 in
set_option maxHeartbeats 4000000 in
theorem vop_3 (e : Bool) (s b : Int) (w : World) : Calls Try.prog 13 #[.int .i64 3, .bool e, .int .i64 s, .int .i64 b] w (RPost w (rOpen 3 e s b)) := by
  have hp : rOpen 3 e s b = ⟨4, false, false, 0⟩ := by rfl
  obtain ⟨hk, hb⟩ := kf_of w false false 0
  obtain ⟨w1, hw1⟩ : ∃ x, x = w.alloc (.cells #[.bool false, .bool false, .int .i64 0] 24) := ⟨_, rfl⟩
  obtain ⟨g, hg⟩ : ∃ g, g = w.heap.size := ⟨_, rfl⟩
  rw [← hw1, ← hg] at hk
  rw [← hw1] at hb
  have HG := Lib.hid hg
  have HB := Lib.hid hb
  have HW := Lib.hid hw1
  obtain ⟨r0, r1, r2⟩ := hk.cells
  obtain ⟨f0, f1, f2⟩ := hk.loose
  have HN : Hid (RPost w (rOpen 3 e s b) (.returned (.tuple #[.int .i64 4, .agg #[.bool false, .bool false, .int .i64 0]])) (stF w1 g false false 0)) := Lib.hid ⟨by rw [hp], stF_below HG.out HB.out _ _ _⟩
  clear hk hb hw1 hg hp
  go_enter Try.func13, Try.ntmps13
  go_upto_region 1 with fail
  rw [← HW.out, ← HG.out]
  go_wp2_with fail
  refine bodyPost_ret (v := .tuple #[.int .i64 4, .agg #[.bool false, .bool false, .int .i64 0]]) (by simp [results, Try.results13, go_sem, r0, r1, r2]) rfl (HN.out)
set_option maxRecDepth 100000 in
set_option maxHeartbeats 4000000 in
theorem vop_x (k : Int) (e : Bool) (s b : Int) (w : World) (h : ¬ k = 0 ∧ ¬ k = 1 ∧ ¬ k = 3) : Calls Try.prog 13 #[.int .i64 k, .bool e, .int .i64 s, .int .i64 b] w (RPost w (rOpen k e s b)) := by
  have hp : rOpen k e s b = ⟨s, false, false, 0⟩ := by unfold rOpen; rw [if_neg (by omega), if_neg (by omega)]; rfl
  have k0b : (k == 0) = false := bne (by omega)
  have k0n : (k != 0) = true := nbt (by omega)
  have k1b : (k == 1) = false := bne (by omega)
  have k1n : (k != 1) = true := nbt (by omega)
  have k3b : (k == 3) = false := bne (by omega)
  have k3n : (k != 3) = true := nbt (by omega)
  obtain ⟨hk, hb⟩ := kf_of w false false 0
  obtain ⟨w1, hw1⟩ : ∃ x, x = w.alloc (.cells #[.bool false, .bool false, .int .i64 0] 24) := ⟨_, rfl⟩
  obtain ⟨g, hg⟩ : ∃ g, g = w.heap.size := ⟨_, rfl⟩
  rw [← hw1, ← hg] at hk
  rw [← hw1] at hb
  have HG := Lib.hid hg
  have HB := Lib.hid hb
  have HW := Lib.hid hw1
  obtain ⟨r0, r1, r2⟩ := hk.cells
  obtain ⟨f0, f1, f2⟩ := hk.loose
  have HN : Hid (RPost w (rOpen k e s b) (.returned (.tuple #[.int .i64 s, .agg #[.bool false, .bool false, .int .i64 0]])) (stF w1 g false false 0)) := Lib.hid ⟨by rw [hp], stF_below HG.out HB.out _ _ _⟩
  clear hk hb hw1 hg hp h
  go_enter Try.func13, Try.ntmps13
  go_upto_region 1 with fail
  rw [← HW.out, ← HG.out]
  go_wp2_with fail
  refine bodyPost_ret (v := .tuple #[.int .i64 s, .agg #[.bool false, .bool false, .int .i64 0]]) (by simp [results, Try.results13, go_sem, r0, r1, r2]) rfl (HN.out)
theorem vopen_f (k : Int) (e : Bool) (s b : Int) (w : World) : Calls Try.prog 13 #[.int .i64 k, .bool e, .int .i64 s, .int .i64 b] w (RPost w (rOpen k e s b)) := by
  by_cases h0 : k = 0
  · subst h0; cases e
    · exact vop_0f s b w
    · exact vop_0t s b w
  by_cases h1 : k = 1
  · subst h1; cases e
    · exact vop_1f s b w
    · exact vop_1t s b w
  by_cases h3 : k = 3
  · subst h3; exact vop_3 e s b w
  exact vop_x k e s b w ⟨h0, h1, h3⟩
set_option maxRecDepth 100000 in
set_option maxHeartbeats 4000000 in
theorem vre_0 (w : World) : Calls Try.prog 14 #[.int .i64 0] w (RPost w (rRemote 0)) := by
  have hp : rRemote 0 = ⟨2, true, false, 5⟩ := by rfl
  obtain ⟨hk, hb⟩ := kf_of w false false 0
  obtain ⟨w1, hw1⟩ : ∃ x, x = w.alloc (.cells #[.bool false, .bool false, .int .i64 0] 24) := ⟨_, rfl⟩
  obtain ⟨g, hg⟩ : ∃ g, g = w.heap.size := ⟨_, rfl⟩
  rw [← hw1, ← hg] at hk
  rw [← hw1] at hb
  have HG := Lib.hid hg
  have HB := Lib.hid hb
  have HW := Lib.hid hw1
  obtain ⟨r0, r1, r2⟩ := hk.cells
  obtain ⟨f0, f1, f2⟩ := hk.loose
  have HN : Hid (RPost w (rRemote 0) (.returned (.tuple #[.int .i64 2, .agg #[.bool true, .bool false, .int .i64 5]])) (stF w1 g true false 5)) := Lib.hid ⟨by rw [hp], stF_below HG.out HB.out _ _ _⟩
  clear hk hb hw1 hg hp
  go_enter Try.func14, Try.ntmps14
  go_upto_region 1 with fail
  rw [← HW.out, ← HG.out]
  go_wp2_with fail
  refine bodyPost_ret (v := .tuple #[.int .i64 2, .agg #[.bool true, .bool false, .int .i64 5]]) (by simp [results, Try.results14, go_sem, r0, r1, r2]) rfl (HN.out)
set_option maxRecDepth 100000 in
set_option maxHeartbeats 4000000 in
theorem vcl_0 (w : World) : Calls Try.prog 15 #[.int .i64 0] w (RPost w (rClosed 0)) := by
  have hp : rClosed 0 = ⟨4, true, true, 5⟩ := by rfl
  obtain ⟨hk, hb⟩ := kf_of w false false 0
  obtain ⟨w1, hw1⟩ : ∃ x, x = w.alloc (.cells #[.bool false, .bool false, .int .i64 0] 24) := ⟨_, rfl⟩
  obtain ⟨g, hg⟩ : ∃ g, g = w.heap.size := ⟨_, rfl⟩
  rw [← hw1, ← hg] at hk
  rw [← hw1] at hb
  have HG := Lib.hid hg
  have HB := Lib.hid hb
  have HW := Lib.hid hw1
  have HK := Lib.hid hk
  have HC := Lib.hid (vofconn_f 5 w1)
  have HN : Hid (∀ W, Below w.heap.size w W → RPost w (rClosed 0) (.returned (.tuple #[.int .i64 4, .agg #[.bool true, .bool true, .int .i64 5]])) (stF W g true true 5)) := Lib.hid (fun W h => ⟨by rw [hp], stF_below HG.out h _ _ _⟩)
  clear hk hb hw1 hg hp
  go_enter Try.func15, Try.ntmps15
  go_upto_region 1 with fail
  rw [← HW.out, ← HG.out]
  go_wp2_with fail
  with_reducible refine (HC.out).mono ?_
  rintro e w2 ⟨rfl, hb⟩
  have hk := HK.out.up hb
  obtain ⟨r0, r1, r2⟩ := hk.cells
  obtain ⟨f0, f1, f2⟩ := hk.loose
  have HB2 := Lib.hid (HB.out.trans (hb.mono HB.out.size))
  clear hb hk
  go_wp2_with fail
  refine bodyPost_ret (v := .tuple #[.int .i64 4, .agg #[.bool true, .bool true, .int .i64 5]]) (by simp [results, Try.results15, go_sem, r0, r1, r2]) rfl (HN.out _ HB2.out)
set_option maxRecDepth 100000 in
set_option maxHeartbeats 4000000 in
theorem vre_1 (w : World) : Calls Try.prog 14 #[.int .i64 1] w (RPost w (rRemote 1)) := by
  have hp : rRemote 1 = ⟨2, true, false, 5⟩ := by rfl
  obtain ⟨hk, hb⟩ := kf_of w false false 0
  obtain ⟨w1, hw1⟩ : ∃ x, x = w.alloc (.cells #[.bool false, .bool false, .int .i64 0] 24) := ⟨_, rfl⟩
  obtain ⟨g, hg⟩ : ∃ g, g = w.heap.size := ⟨_, rfl⟩
  rw [← hw1, ← hg] at hk
  rw [← hw1] at hb
  have HG := Lib.hid hg
  have HB := Lib.hid hb
  have HW := Lib.hid hw1
  obtain ⟨r0, r1, r2⟩ := hk.cells
  obtain ⟨f0, f1, f2⟩ := hk.loose
  have HN : Hid (RPost w (rRemote 1) (.returned (.tuple #[.int .i64 2, .agg #[.bool true, .bool false, .int .i64 5]])) (stF w1 g true false 5)) := Lib.hid ⟨by rw [hp], stF_below HG.out HB.out _ _ _⟩
  clear hk hb hw1 hg hp
  go_enter Try.func14, Try.ntmps14
  go_upto_region 1 with fail
  rw [← HW.out, ← HG.out]
  go_wp2_with fail
  refine bodyPost_ret (v := .tuple #[.int .i64 2, .agg #[.bool true, .bool false, .int .i64 5]]) (by simp [results, Try.results14, go_sem, r0, r1, r2]) rfl (HN.out)
set_option maxRecDepth 100000 in
set_option maxHeartbeats 4000000 in
theorem vcl_1 (w : World) : Calls Try.prog 15 #[.int .i64 1] w (RPost w (rClosed 1)) := by
  have hp : rClosed 1 = ⟨4, true, true, 5⟩ := by rfl
  obtain ⟨hk, hb⟩ := kf_of w false false 0
  obtain ⟨w1, hw1⟩ : ∃ x, x = w.alloc (.cells #[.bool false, .bool false, .int .i64 0] 24) := ⟨_, rfl⟩
  obtain ⟨g, hg⟩ : ∃ g, g = w.heap.size := ⟨_, rfl⟩
  rw [← hw1, ← hg] at hk
  rw [← hw1] at hb
  have HG := Lib.hid hg
  have HB := Lib.hid hb
  have HW := Lib.hid hw1
  have HK := Lib.hid hk
  have HC := Lib.hid (vofconn_f 5 w1)
  have HN : Hid (∀ W, Below w.heap.size w W → RPost w (rClosed 1) (.returned (.tuple #[.int .i64 4, .agg #[.bool true, .bool true, .int .i64 5]])) (stF W g true true 5)) := Lib.hid (fun W h => ⟨by rw [hp], stF_below HG.out h _ _ _⟩)
  clear hk hb hw1 hg hp
  go_enter Try.func15, Try.ntmps15
  go_upto_region 1 with fail
  rw [← HW.out, ← HG.out]
  go_wp2_with fail
  with_reducible refine (HC.out).mono ?_
  rintro e w2 ⟨rfl, hb⟩
  have hk := HK.out.up hb
  obtain ⟨r0, r1, r2⟩ := hk.cells
  obtain ⟨f0, f1, f2⟩ := hk.loose
  have HB2 := Lib.hid (HB.out.trans (hb.mono HB.out.size))
  clear hb hk
  go_wp2_with fail
  refine bodyPost_ret (v := .tuple #[.int .i64 4, .agg #[.bool true, .bool true, .int .i64 5]]) (by simp [results, Try.results15, go_sem, r0, r1, r2]) rfl (HN.out _ HB2.out)
set_option maxRecDepth 100000 in
set_option maxHeartbeats 4000000 in
theorem vre_3 (w : World) : Calls Try.prog 14 #[.int .i64 3] w (RPost w (rRemote 3)) := by
  have hp : rRemote 3 = ⟨4, false, false, 0⟩ := by rfl
  obtain ⟨hk, hb⟩ := kf_of w false false 0
  obtain ⟨w1, hw1⟩ : ∃ x, x = w.alloc (.cells #[.bool false, .bool false, .int .i64 0] 24) := ⟨_, rfl⟩
  obtain ⟨g, hg⟩ : ∃ g, g = w.heap.size := ⟨_, rfl⟩
  rw [← hw1, ← hg] at hk
  rw [← hw1] at hb
  have HG := Lib.hid hg
  have HB := Lib.hid hb
  have HW := Lib.hid hw1
  obtain ⟨r0, r1, r2⟩ := hk.cells
  obtain ⟨f0, f1, f2⟩ := hk.loose
  have HN : Hid (RPost w (rRemote 3) (.returned (.tuple #[.int .i64 4, .agg #[.bool false, .bool false, .int .i64 0]])) (stF w1 g false false 0)) := Lib.hid ⟨by rw [hp], stF_below HG.out HB.out _ _ _⟩
  clear hk hb hw1 hg hp
  go_enter Try.func14, Try.ntmps14
  go_upto_region 1 with fail
  rw [← HW.out, ← HG.out]
  go_wp2_with fail
  refine bodyPost_ret (v := .tuple #[.int .i64 4, .agg #[.bool false, .bool false, .int .i64 0]]) (by simp [results, Try.results14, go_sem, r0, r1, r2]) rfl (HN.out)
set_option maxRecDepth 100000 in
set_option maxHeartbeats 4000000 in
theorem vre_x (k : Int) (w : World) (h : ¬ k = 0 ∧ ¬ k = 1 ∧ ¬ k = 3) : Calls Try.prog 14 #[.int .i64 k] w (RPost w (rRemote k)) := by
  have hp : rRemote k = ⟨2, false, false, 0⟩ := by unfold rRemote; rw [if_neg (by omega), if_neg (by omega)]; rfl
  have k0b : (k == 0) = false := bne (by omega)
  have k0n : (k != 0) = true := nbt (by omega)
  have k1b : (k == 1) = false := bne (by omega)
  have k1n : (k != 1) = true := nbt (by omega)
  have k3b : (k == 3) = false := bne (by omega)
  have k3n : (k != 3) = true := nbt (by omega)
  obtain ⟨hk, hb⟩ := kf_of w false false 0
  obtain ⟨w1, hw1⟩ : ∃ x, x = w.alloc (.cells #[.bool false, .bool false, .int .i64 0] 24) := ⟨_, rfl⟩
  obtain ⟨g, hg⟩ : ∃ g, g = w.heap.size := ⟨_, rfl⟩
  rw [← hw1, ← hg] at hk
  rw [← hw1] at hb
  have HG := Lib.hid hg
  have HB := Lib.hid hb
  have HW := Lib.hid hw1
  obtain ⟨r0, r1, r2⟩ := hk.cells
  obtain ⟨f0, f1, f2⟩ := hk.loose
  have HN : Hid (RPost w (rRemote k) (.returned (.tuple #[.int .i64 2, .agg #[.bool false, .bool false, .int .i64 0]])) (stF w1 g false false 0)) := Lib.hid ⟨by rw [hp], stF_below HG.out HB.out _ _ _⟩
  clear hk hb hw1 hg hp h
  go_enter Try.func14, Try.ntmps14
  go_upto_region 1 with fail
  rw [← HW.out, ← HG.out]
  go_wp2_with fail
  refine bodyPost_ret (v := .tuple #[.int .i64 2, .agg #[.bool false, .bool false, .int .i64 0]]) (by simp [results, Try.results14, go_sem, r0, r1, r2]) rfl (HN.out)
set_option maxRecDepth 100000 in
set_option maxHeartbeats 4000000 in
theorem vcl_x (k : Int) (w : World) (h : ¬ k = 0 ∧ ¬ k = 1) : Calls Try.prog 15 #[.int .i64 k] w (RPost w (rClosed k)) := by
  have hp : rClosed k = ⟨4, false, false, 0⟩ := by unfold rClosed; rw [if_neg (by omega)]; rfl
  have k0b : (k == 0) = false := bne (by omega)
  have k0n : (k != 0) = true := nbt (by omega)
  have k1b : (k == 1) = false := bne (by omega)
  have k1n : (k != 1) = true := nbt (by omega)
  obtain ⟨hk, hb⟩ := kf_of w false false 0
  obtain ⟨w1, hw1⟩ : ∃ x, x = w.alloc (.cells #[.bool false, .bool false, .int .i64 0] 24) := ⟨_, rfl⟩
  obtain ⟨g, hg⟩ : ∃ g, g = w.heap.size := ⟨_, rfl⟩
  rw [← hw1, ← hg] at hk
  rw [← hw1] at hb
  have HG := Lib.hid hg
  have HB := Lib.hid hb
  have HW := Lib.hid hw1
  obtain ⟨r0, r1, r2⟩ := hk.cells
  obtain ⟨f0, f1, f2⟩ := hk.loose
  have HN : Hid (RPost w (rClosed k) (.returned (.tuple #[.int .i64 4, .agg #[.bool false, .bool false, .int .i64 0]])) (stF w1 g false false 0)) := Lib.hid ⟨by rw [hp], stF_below HG.out HB.out _ _ _⟩
  clear hk hb hw1 hg hp h
  go_enter Try.func15, Try.ntmps15
  go_upto_region 1 with fail
  rw [← HW.out, ← HG.out]
  go_wp2_with fail
  refine bodyPost_ret (v := .tuple #[.int .i64 4, .agg #[.bool false, .bool false, .int .i64 0]]) (by simp [results, Try.results15, go_sem, r0, r1, r2]) rfl (HN.out)
theorem vremote_f (k : Int) (w : World) : Calls Try.prog 14 #[.int .i64 k] w (RPost w (rRemote k)) := by
  by_cases h0 : k = 0
  · subst h0; exact vre_0 w
  by_cases h1 : k = 1
  · subst h1; exact vre_1 w
  by_cases h3 : k = 3
  · subst h3; exact vre_3 w
  exact vre_x k w ⟨h0, h1, h3⟩
theorem vclosed_f (k : Int) (w : World) : Calls Try.prog 15 #[.int .i64 k] w (RPost w (rClosed k)) := by
  by_cases h0 : k = 0
  · subst h0; exact vcl_0 w
  by_cases h1 : k = 1
  · subst h1; exact vcl_1 w
  exact vcl_x k w ⟨h0, h1⟩
set_option maxRecDepth 100000 in
set_option maxHeartbeats 4000000 in
theorem vrc_k (s k : Int) (e : Bool) (w : World) (h : ¬ k = 0 ∧ ¬ k = 1 ∧ ¬ k = 2 ∧ ¬ k = 3 ∧ ¬ k = 8) : Calls Try.prog 8 #[.int .i64 s, .int .i64 k, .bool e] w (RPost w (recv s k e)) := by
  have hp : recv s k e = ⟨s, false, false, 0⟩ := by unfold recv; rw [if_neg (by omega)]; rfl
  have k0b : (k == 0) = false := bne (by omega)
  have k0n : (k != 0) = true := nbt (by omega)
  have k1b : (k == 1) = false := bne (by omega)
  have k1n : (k != 1) = true := nbt (by omega)
  have k2b : (k == 2) = false := bne (by omega)
  have k2n : (k != 2) = true := nbt (by omega)
  have k3b : (k == 3) = false := bne (by omega)
  have k3n : (k != 3) = true := nbt (by omega)
  have k8b : (k == 8) = false := bne (by omega)
  have k8n : (k != 8) = true := nbt (by omega)
  obtain ⟨hk, hb⟩ := kf_of w false false 0
  obtain ⟨w1, hw1⟩ : ∃ x, x = w.alloc (.cells #[.bool false, .bool false, .int .i64 0] 24) := ⟨_, rfl⟩
  obtain ⟨g, hg⟩ : ∃ g, g = w.heap.size := ⟨_, rfl⟩
  rw [← hw1, ← hg] at hk
  rw [← hw1] at hb
  have HG := Lib.hid hg
  have HB := Lib.hid hb
  have HW := Lib.hid hw1
  obtain ⟨r0, r1, r2⟩ := hk.cells
  obtain ⟨f0, f1, f2⟩ := hk.loose
  have HN : Hid (RPost w (recv s k e) (.returned (.tuple #[.int .i64 s, .agg #[.bool false, .bool false, .int .i64 0]])) (stF w1 g false false 0)) := Lib.hid ⟨by rw [hp], stF_below HG.out HB.out _ _ _⟩
  clear hk hb hw1 hg hp h
  go_enter Try.func8, Try.ntmps8
  go_upto_region 1 with fail
  rw [← HW.out, ← HG.out]
  go_wp2_with fail
  refine bodyPost_ret (v := .tuple #[.int .i64 s, .agg #[.bool false, .bool false, .int .i64 0]]) (by simp [results, Try.results8, go_sem, r0, r1, r2]) rfl (HN.out)
set_option maxRecDepth 100000 in
set_option maxHeartbeats 4000000 in
theorem vrc_0_0 (e : Bool) (w : World) : Calls Try.prog 8 #[.int .i64 0, .int .i64 0, .bool e] w (RPost w (recv 0 0 e)) := by
  obtain ⟨r, hp⟩ : ∃ r, r = rIdle 0 e := ⟨_, rfl⟩
  have hp2 : recv 0 0 e = r := by rw [hp]; rfl
  obtain ⟨hk, hb⟩ := kf_of w false false 0
  obtain ⟨w1, hw1⟩ : ∃ x, x = w.alloc (.cells #[.bool false, .bool false, .int .i64 0] 24) := ⟨_, rfl⟩
  obtain ⟨g, hg⟩ : ∃ g, g = w.heap.size := ⟨_, rfl⟩
  rw [← hw1, ← hg] at hk
  rw [← hw1] at hb
  have HG := Lib.hid hg
  have HB := Lib.hid hb
  have HW := Lib.hid hw1
  have HK := Lib.hid hk
  have HC := Lib.hid (vidle_f 0 e w1)
  rw [← hp] at HC
  have HN : Hid (∀ W, Below w.heap.size w W → RPost w (recv 0 0 e) (.returned (.tuple #[.int .i64 r.st, .agg #[.bool r.bad, .bool r.conn, .int .i64 r.code]])) (stF W g r.bad r.conn r.code)) := Lib.hid (fun W h => ⟨by rw [hp2], stF_below HG.out h _ _ _⟩)
  clear hk hb hw1 hg hp hp2
  go_enter Try.func8, Try.ntmps8
  go_upto_region 1 with fail
  rw [← HW.out, ← HG.out]
  go_wp2_with fail
  with_reducible refine (HC.out).mono ?_
  rintro e w2 ⟨rfl, hb⟩
  have hk := HK.out.up hb
  obtain ⟨r0, r1, r2⟩ := hk.cells
  obtain ⟨f0, f1, f2⟩ := hk.loose
  have HB2 := Lib.hid (HB.out.trans (hb.mono HB.out.size))
  clear hb hk
  go_wp2_with fail
  refine bodyPost_ret (v := .tuple #[.int .i64 r.st, .agg #[.bool r.bad, .bool r.conn, .int .i64 r.code]]) (by simp [results, Try.results8, go_sem, r0, r1, r2]) rfl (HN.out _ HB2.out)
set_option maxRecDepth 100000 in
set_option maxHeartbeats 4000000 in
theorem vrc_1_0 (e : Bool) (w : World) : Calls Try.prog 8 #[.int .i64 1, .int .i64 0, .bool e] w (RPost w (recv 1 0 e)) := by
  obtain ⟨r, hp⟩ : ∃ r, r = rOpen 0 e 1 2 := ⟨_, rfl⟩
  have hp2 : recv 1 0 e = r := by rw [hp]; rfl
  obtain ⟨hk, hb⟩ := kf_of w false false 0
  obtain ⟨w1, hw1⟩ : ∃ x, x = w.alloc (.cells #[.bool false, .bool false, .int .i64 0] 24) := ⟨_, rfl⟩
  obtain ⟨g, hg⟩ : ∃ g, g = w.heap.size := ⟨_, rfl⟩
  rw [← hw1, ← hg] at hk
  rw [← hw1] at hb
  have HG := Lib.hid hg
  have HB := Lib.hid hb
  have HW := Lib.hid hw1
  have HK := Lib.hid hk
  have HC := Lib.hid (vopen_f 0 e 1 2 w1)
  rw [← hp] at HC
  have HN : Hid (∀ W, Below w.heap.size w W → RPost w (recv 1 0 e) (.returned (.tuple #[.int .i64 r.st, .agg #[.bool r.bad, .bool r.conn, .int .i64 r.code]])) (stF W g r.bad r.conn r.code)) := Lib.hid (fun W h => ⟨by rw [hp2], stF_below HG.out h _ _ _⟩)
  clear hk hb hw1 hg hp hp2
  go_enter Try.func8, Try.ntmps8
  go_upto_region 1 with fail
  rw [← HW.out, ← HG.out]
  go_wp2_with fail
  with_reducible refine (HC.out).mono ?_
  rintro e w2 ⟨rfl, hb⟩
  have hk := HK.out.up hb
  obtain ⟨r0, r1, r2⟩ := hk.cells
  obtain ⟨f0, f1, f2⟩ := hk.loose
  have HB2 := Lib.hid (HB.out.trans (hb.mono HB.out.size))
  clear hb hk
  go_wp2_with fail
  refine bodyPost_ret (v := .tuple #[.int .i64 r.st, .agg #[.bool r.bad, .bool r.conn, .int .i64 r.code]]) (by simp [results, Try.results8, go_sem, r0, r1, r2]) rfl (HN.out _ HB2.out)
set_option maxRecDepth 100000 in
set_option maxHeartbeats 4000000 in
theorem vrc_2_0 (e : Bool) (w : World) : Calls Try.prog 8 #[.int .i64 2, .int .i64 0, .bool e] w (RPost w (recv 2 0 e)) := by
  obtain ⟨r, hp⟩ : ∃ r, r = rRemote 0 := ⟨_, rfl⟩
  have hp2 : recv 2 0 e = r := by rw [hp]; rfl
  obtain ⟨hk, hb⟩ := kf_of w false false 0
  obtain ⟨w1, hw1⟩ : ∃ x, x = w.alloc (.cells #[.bool false, .bool false, .int .i64 0] 24) := ⟨_, rfl⟩
  obtain ⟨g, hg⟩ : ∃ g, g = w.heap.size := ⟨_, rfl⟩
  rw [← hw1, ← hg] at hk
  rw [← hw1] at hb
  have HG := Lib.hid hg
  have HB := Lib.hid hb
  have HW := Lib.hid hw1
  have HK := Lib.hid hk
  have HC := Lib.hid (vremote_f 0 w1)
  rw [← hp] at HC
  have HN : Hid (∀ W, Below w.heap.size w W → RPost w (recv 2 0 e) (.returned (.tuple #[.int .i64 r.st, .agg #[.bool r.bad, .bool r.conn, .int .i64 r.code]])) (stF W g r.bad r.conn r.code)) := Lib.hid (fun W h => ⟨by rw [hp2], stF_below HG.out h _ _ _⟩)
  clear hk hb hw1 hg hp hp2
  go_enter Try.func8, Try.ntmps8
  go_upto_region 1 with fail
  rw [← HW.out, ← HG.out]
  go_wp2_with fail
  with_reducible refine (HC.out).mono ?_
  rintro e w2 ⟨rfl, hb⟩
  have hk := HK.out.up hb
  obtain ⟨r0, r1, r2⟩ := hk.cells
  obtain ⟨f0, f1, f2⟩ := hk.loose
  have HB2 := Lib.hid (HB.out.trans (hb.mono HB.out.size))
  clear hb hk
  go_wp2_with fail
  refine bodyPost_ret (v := .tuple #[.int .i64 r.st, .agg #[.bool r.bad, .bool r.conn, .int .i64 r.code]]) (by simp [results, Try.results8, go_sem, r0, r1, r2]) rfl (HN.out _ HB2.out)
set_option maxRecDepth 100000 in
set_option maxHeartbeats 4000000 in
theorem vrc_3_0 (e : Bool) (w : World) : Calls Try.prog 8 #[.int .i64 3, .int .i64 0, .bool e] w (RPost w (recv 3 0 e)) := by
  obtain ⟨r, hp⟩ : ∃ r, r = rOpen 0 e 3 4 := ⟨_, rfl⟩
  have hp2 : recv 3 0 e = r := by rw [hp]; rfl
  obtain ⟨hk, hb⟩ := kf_of w false false 0
  obtain ⟨w1, hw1⟩ : ∃ x, x = w.alloc (.cells #[.bool false, .bool false, .int .i64 0] 24) := ⟨_, rfl⟩
  obtain ⟨g, hg⟩ : ∃ g, g = w.heap.size := ⟨_, rfl⟩
  rw [← hw1, ← hg] at hk
  rw [← hw1] at hb
  have HG := Lib.hid hg
  have HB := Lib.hid hb
  have HW := Lib.hid hw1
  have HK := Lib.hid hk
  have HC := Lib.hid (vopen_f 0 e 3 4 w1)
  rw [← hp] at HC
  have HN : Hid (∀ W, Below w.heap.size w W → RPost w (recv 3 0 e) (.returned (.tuple #[.int .i64 r.st, .agg #[.bool r.bad, .bool r.conn, .int .i64 r.code]])) (stF W g r.bad r.conn r.code)) := Lib.hid (fun W h => ⟨by rw [hp2], stF_below HG.out h _ _ _⟩)
  clear hk hb hw1 hg hp hp2
  go_enter Try.func8, Try.ntmps8
  go_upto_region 1 with fail
  rw [← HW.out, ← HG.out]
  go_wp2_with fail
  with_reducible refine (HC.out).mono ?_
  rintro e w2 ⟨rfl, hb⟩
  have hk := HK.out.up hb
  obtain ⟨r0, r1, r2⟩ := hk.cells
  obtain ⟨f0, f1, f2⟩ := hk.loose
  have HB2 := Lib.hid (HB.out.trans (hb.mono HB.out.size))
  clear hb hk
  go_wp2_with fail
  refine bodyPost_ret (v := .tuple #[.int .i64 r.st, .agg #[.bool r.bad, .bool r.conn, .int .i64 r.code]]) (by simp [results, Try.results8, go_sem, r0, r1, r2]) rfl (HN.out _ HB2.out)
set_option maxRecDepth 100000 in
set_option maxHeartbeats 4000000 in
theorem vrc_4_0 (e : Bool) (w : World) : Calls Try.prog 8 #[.int .i64 4, .int .i64 0, .bool e] w (RPost w (recv 4 0 e)) := by
  obtain ⟨r, hp⟩ : ∃ r, r = rClosed 0 := ⟨_, rfl⟩
  have hp2 : recv 4 0 e = r := by rw [hp]; rfl
  obtain ⟨hk, hb⟩ := kf_of w false false 0
  obtain ⟨w1, hw1⟩ : ∃ x, x = w.alloc (.cells #[.bool false, .bool false, .int .i64 0] 24) := ⟨_, rfl⟩
  obtain ⟨g, hg⟩ : ∃ g, g = w.heap.size := ⟨_, rfl⟩
  rw [← hw1, ← hg] at hk
  rw [← hw1] at hb
  have HG := Lib.hid hg
  have HB := Lib.hid hb
  have HW := Lib.hid hw1
  have HK := Lib.hid hk
  have HC := Lib.hid (vclosed_f 0 w1)
  rw [← hp] at HC
  have HN : Hid (∀ W, Below w.heap.size w W → RPost w (recv 4 0 e) (.returned (.tuple #[.int .i64 r.st, .agg #[.bool r.bad, .bool r.conn, .int .i64 r.code]])) (stF W g r.bad r.conn r.code)) := Lib.hid (fun W h => ⟨by rw [hp2], stF_below HG.out h _ _ _⟩)
  clear hk hb hw1 hg hp hp2
  go_enter Try.func8, Try.ntmps8
  go_upto_region 1 with fail
  rw [← HW.out, ← HG.out]
  go_wp2_with fail
  with_reducible refine (HC.out).mono ?_
  rintro e w2 ⟨rfl, hb⟩
  have hk := HK.out.up hb
  obtain ⟨r0, r1, r2⟩ := hk.cells
  obtain ⟨f0, f1, f2⟩ := hk.loose
  have HB2 := Lib.hid (HB.out.trans (hb.mono HB.out.size))
  clear hb hk
  go_wp2_with fail
  refine bodyPost_ret (v := .tuple #[.int .i64 r.st, .agg #[.bool r.bad, .bool r.conn, .int .i64 r.code]]) (by simp [results, Try.results8, go_sem, r0, r1, r2]) rfl (HN.out _ HB2.out)
set_option maxRecDepth 100000 in
set_option maxHeartbeats 4000000 in
theorem vrc_5_0 (e : Bool) (w : World) : Calls Try.prog 8 #[.int .i64 5, .int .i64 0, .bool e] w (RPost w (recv 5 0 e)) := by
  have hp : recv 5 0 e = ⟨5, false, false, 0⟩ := by rfl
  obtain ⟨hk, hb⟩ := kf_of w false false 0
  obtain ⟨w1, hw1⟩ : ∃ x, x = w.alloc (.cells #[.bool false, .bool false, .int .i64 0] 24) := ⟨_, rfl⟩
  obtain ⟨g, hg⟩ : ∃ g, g = w.heap.size := ⟨_, rfl⟩
  rw [← hw1, ← hg] at hk
  rw [← hw1] at hb
  have HG := Lib.hid hg
  have HB := Lib.hid hb
  have HW := Lib.hid hw1
  obtain ⟨r0, r1, r2⟩ := hk.cells
  obtain ⟨f0, f1, f2⟩ := hk.loose
  have HN : Hid (RPost w (recv 5 0 e) (.returned (.tuple #[.int .i64 5, .agg #[.bool false, .bool false, .int .i64 0]])) (stF w1 g false false 0)) := Lib.hid ⟨by rw [hp], stF_below HG.out HB.out _ _ _⟩
  clear hk hb hw1 hg hp
  go_enter Try.func8, Try.ntmps8
  go_upto_region 1 with fail
  rw [← HW.out, ← HG.out]
  go_wp2_with fail
  refine bodyPost_ret (v := .tuple #[.int .i64 5, .agg #[.bool false, .bool false, .int .i64 0]]) (by simp [results, Try.results8, go_sem, r0, r1, r2]) rfl (HN.out)
set_option maxRecDepth 100000 in
set_option maxHeartbeats 4000000 in
theorem vrc_x_0 (s : Int) (e : Bool) (w : World) (h : ¬ s = 0 ∧ ¬ s = 1 ∧ ¬ s = 2 ∧ ¬ s = 3 ∧ ¬ s = 4 ∧ ¬ s = 5) : Calls Try.prog 8 #[.int .i64 s, .int .i64 0, .bool e] w (RPost w (recv s 0 e)) := by
  have hp : recv s 0 e = ⟨s, true, true, 1⟩ := by unfold recv; rw [if_pos (by decide), if_neg (by omega), if_neg (by omega), if_neg (by omega), if_neg (by omega), if_neg (by omega), if_neg (by omega)]
  have s0b : (s == 0) = false := bne (by omega)
  have s0n : (s != 0) = true := nbt (by omega)
  have s1b : (s == 1) = false := bne (by omega)
  have s1n : (s != 1) = true := nbt (by omega)
  have s2b : (s == 2) = false := bne (by omega)
  have s2n : (s != 2) = true := nbt (by omega)
  have s3b : (s == 3) = false := bne (by omega)
  have s3n : (s != 3) = true := nbt (by omega)
  have s4b : (s == 4) = false := bne (by omega)
  have s4n : (s != 4) = true := nbt (by omega)
  have s5b : (s == 5) = false := bne (by omega)
  have s5n : (s != 5) = true := nbt (by omega)
  obtain ⟨hk, hb⟩ := kf_of w false false 0
  obtain ⟨w1, hw1⟩ : ∃ x, x = w.alloc (.cells #[.bool false, .bool false, .int .i64 0] 24) := ⟨_, rfl⟩
  obtain ⟨g, hg⟩ : ∃ g, g = w.heap.size := ⟨_, rfl⟩
  rw [← hw1, ← hg] at hk
  rw [← hw1] at hb
  have HG := Lib.hid hg
  have HB := Lib.hid hb
  have HW := Lib.hid hw1
  have HK := Lib.hid hk
  have HC := Lib.hid (vofconn_f 1 w1)
  have HN : Hid (∀ W, Below w.heap.size w W → RPost w (recv s 0 e) (.returned (.tuple #[.int .i64 s, .agg #[.bool true, .bool true, .int .i64 1]])) (stF W g true true 1)) := Lib.hid (fun W h => ⟨by rw [hp], stF_below HG.out h _ _ _⟩)
  clear hk hb hw1 hg hp h
  go_enter Try.func8, Try.ntmps8
  go_upto_region 1 with fail
  rw [← HW.out, ← HG.out]
  go_wp2_with fail
  with_reducible refine (HC.out).mono ?_
  rintro e w2 ⟨rfl, hb⟩
  have hk := HK.out.up hb
  obtain ⟨r0, r1, r2⟩ := hk.cells
  obtain ⟨f0, f1, f2⟩ := hk.loose
  have HB2 := Lib.hid (HB.out.trans (hb.mono HB.out.size))
  clear hb hk
  go_wp2_with fail
  refine bodyPost_ret (v := .tuple #[.int .i64 s, .agg #[.bool true, .bool true, .int .i64 1]]) (by simp [results, Try.results8, go_sem, r0, r1, r2]) rfl (HN.out _ HB2.out)
set_option maxRecDepth 100000 in
set_option maxHeartbeats 4000000 in
theorem vrc_0_1 (e : Bool) (w : World) : Calls Try.prog 8 #[.int .i64 0, .int .i64 1, .bool e] w (RPost w (recv 0 1 e)) := by
  obtain ⟨r, hp⟩ : ∃ r, r = rIdle 1 e := ⟨_, rfl⟩
  have hp2 : recv 0 1 e = r := by rw [hp]; rfl
  obtain ⟨hk, hb⟩ := kf_of w false false 0
  obtain ⟨w1, hw1⟩ : ∃ x, x = w.alloc (.cells #[.bool false, .bool false, .int .i64 0] 24) := ⟨_, rfl⟩
  obtain ⟨g, hg⟩ : ∃ g, g = w.heap.size := ⟨_, rfl⟩
  rw [← hw1, ← hg] at hk
  rw [← hw1] at hb
  have HG := Lib.hid hg
  have HB := Lib.hid hb
  have HW := Lib.hid hw1
  have HK := Lib.hid hk
  have HC := Lib.hid (vidle_f 1 e w1)
  rw [← hp] at HC
  have HN : Hid (∀ W, Below w.heap.size w W → RPost w (recv 0 1 e) (.returned (.tuple #[.int .i64 r.st, .agg #[.bool r.bad, .bool r.conn, .int .i64 r.code]])) (stF W g r.bad r.conn r.code)) := Lib.hid (fun W h => ⟨by rw [hp2], stF_below HG.out h _ _ _⟩)
  clear hk hb hw1 hg hp hp2
  go_enter Try.func8, Try.ntmps8
  go_upto_region 1 with fail
  rw [← HW.out, ← HG.out]
  go_wp2_with fail
  with_reducible refine (HC.out).mono ?_
  rintro e w2 ⟨rfl, hb⟩
  have hk := HK.out.up hb
  obtain ⟨r0, r1, r2⟩ := hk.cells
  obtain ⟨f0, f1, f2⟩ := hk.loose
  have HB2 := Lib.hid (HB.out.trans (hb.mono HB.out.size))
  clear hb hk
  go_wp2_with fail
  refine bodyPost_ret (v := .tuple #[.int .i64 r.st, .agg #[.bool r.bad, .bool r.conn, .int .i64 r.code]]) (by simp [results, Try.results8, go_sem, r0, r1, r2]) rfl (HN.out _ HB2.out)
set_option maxRecDepth 100000 in
set_option maxHeartbeats 4000000 in
theorem vrc_1_1 (e : Bool) (w : World) : Calls Try.prog 8 #[.int .i64 1, .int .i64 1, .bool e] w (RPost w (recv 1 1 e)) := by
  obtain ⟨r, hp⟩ : ∃ r, r = rOpen 1 e 1 2 := ⟨_, rfl⟩
  have hp2 : recv 1 1 e = r := by rw [hp]; rfl
  obtain ⟨hk, hb⟩ := kf_of w false false 0
  obtain ⟨w1, hw1⟩ : ∃ x, x = w.alloc (.cells #[.bool false, .bool false, .int .i64 0] 24) := ⟨_, rfl⟩
  obtain ⟨g, hg⟩ : ∃ g, g = w.heap.size := ⟨_, rfl⟩
  rw [← hw1, ← hg] at hk
  rw [← hw1] at hb
  have HG := Lib.hid hg
  have HB := Lib.hid hb
  have HW := Lib.hid hw1
  have HK := Lib.hid hk
  have HC := Lib.hid (vopen_f 1 e 1 2 w1)
  rw [← hp] at HC
  have HN : Hid (∀ W, Below w.heap.size w W → RPost w (recv 1 1 e) (.returned (.tuple #[.int .i64 r.st, .agg #[.bool r.bad, .bool r.conn, .int .i64 r.code]])) (stF W g r.bad r.conn r.code)) := Lib.hid (fun W h => ⟨by rw [hp2], stF_below HG.out h _ _ _⟩)
  clear hk hb hw1 hg hp hp2
  go_enter Try.func8, Try.ntmps8
  go_upto_region 1 with fail
  rw [← HW.out, ← HG.out]
  go_wp2_with fail
  with_reducible refine (HC.out).mono ?_
  rintro e w2 ⟨rfl, hb⟩
  have hk := HK.out.up hb
  obtain ⟨r0, r1, r2⟩ := hk.cells
  obtain ⟨f0, f1, f2⟩ := hk.loose
  have HB2 := Lib.hid (HB.out.trans (hb.mono HB.out.size))
  clear hb hk
  go_wp2_with fail
  refine bodyPost_ret (v := .tuple #[.int .i64 r.st, .agg #[.bool r.bad, .bool r.conn, .int .i64 r.code]]) (by simp [results, Try.results8, go_sem, r0, r1, r2]) rfl (HN.out _ HB2.out)
set_option maxRecDepth 100000 in
set_option maxHeartbeats 4000000 in
theorem vrc_2_1 (e : Bool) (w : World) : Calls Try.prog 8 #[.int .i64 2, .int .i64 1, .bool e] w (RPost w (recv 2 1 e)) := by
  obtain ⟨r, hp⟩ : ∃ r, r = rRemote 1 := ⟨_, rfl⟩
  have hp2 : recv 2 1 e = r := by rw [hp]; rfl
  obtain ⟨hk, hb⟩ := kf_of w false false 0
  obtain ⟨w1, hw1⟩ : ∃ x, x = w.alloc (.cells #[.bool false, .bool false, .int .i64 0] 24) := ⟨_, rfl⟩
  obtain ⟨g, hg⟩ : ∃ g, g = w.heap.size := ⟨_, rfl⟩
  rw [← hw1, ← hg] at hk
  rw [← hw1] at hb
  have HG := Lib.hid hg
  have HB := Lib.hid hb
  have HW := Lib.hid hw1
  have HK := Lib.hid hk
  have HC := Lib.hid (vremote_f 1 w1)
  rw [← hp] at HC
  have HN : Hid (∀ W, Below w.heap.size w W → RPost w (recv 2 1 e) (.returned (.tuple #[.int .i64 r.st, .agg #[.bool r.bad, .bool r.conn, .int .i64 r.code]])) (stF W g r.bad r.conn r.code)) := Lib.hid (fun W h => ⟨by rw [hp2], stF_below HG.out h _ _ _⟩)
  clear hk hb hw1 hg hp hp2
  go_enter Try.func8, Try.ntmps8
  go_upto_region 1 with fail
  rw [← HW.out, ← HG.out]
  go_wp2_with fail
  with_reducible refine (HC.out).mono ?_
  rintro e w2 ⟨rfl, hb⟩
  have hk := HK.out.up hb
  obtain ⟨r0, r1, r2⟩ := hk.cells
  obtain ⟨f0, f1, f2⟩ := hk.loose
  have HB2 := Lib.hid (HB.out.trans (hb.mono HB.out.size))
  clear hb hk
  go_wp2_with fail
  refine bodyPost_ret (v := .tuple #[.int .i64 r.st, .agg #[.bool r.bad, .bool r.conn, .int .i64 r.code]]) (by simp [results, Try.results8, go_sem, r0, r1, r2]) rfl (HN.out _ HB2.out)
set_option maxRecDepth 100000 in
set_option maxHeartbeats 4000000 in
theorem vrc_3_1 (e : Bool) (w : World) : Calls Try.prog 8 #[.int .i64 3, .int .i64 1, .bool e] w (RPost w (recv 3 1 e)) := by
  obtain ⟨r, hp⟩ : ∃ r, r = rOpen 1 e 3 4 := ⟨_, rfl⟩
  have hp2 : recv 3 1 e = r := by rw [hp]; rfl
  obtain ⟨hk, hb⟩ := kf_of w false false 0
  obtain ⟨w1, hw1⟩ : ∃ x, x = w.alloc (.cells #[.bool false, .bool false, .int .i64 0] 24) := ⟨_, rfl⟩
  obtain ⟨g, hg⟩ : ∃ g, g = w.heap.size := ⟨_, rfl⟩
  rw [← hw1, ← hg] at hk
  rw [← hw1] at hb
  have HG := Lib.hid hg
  have HB := Lib.hid hb
  have HW := Lib.hid hw1
  have HK := Lib.hid hk
  have HC := Lib.hid (vopen_f 1 e 3 4 w1)
  rw [← hp] at HC
  have HN : Hid (∀ W, Below w.heap.size w W → RPost w (recv 3 1 e) (.returned (.tuple #[.int .i64 r.st, .agg #[.bool r.bad, .bool r.conn, .int .i64 r.code]])) (stF W g r.bad r.conn r.code)) := Lib.hid (fun W h => ⟨by rw [hp2], stF_below HG.out h _ _ _⟩)
  clear hk hb hw1 hg hp hp2
  go_enter Try.func8, Try.ntmps8
  go_upto_region 1 with fail
  rw [← HW.out, ← HG.out]
  go_wp2_with fail
  with_reducible refine (HC.out).mono ?_
  rintro e w2 ⟨rfl, hb⟩
  have hk := HK.out.up hb
  obtain ⟨r0, r1, r2⟩ := hk.cells
  obtain ⟨f0, f1, f2⟩ := hk.loose
  have HB2 := Lib.hid (HB.out.trans (hb.mono HB.out.size))
  clear hb hk
  go_wp2_with fail
  refine bodyPost_ret (v := .tuple #[.int .i64 r.st, .agg #[.bool r.bad, .bool r.conn, .int .i64 r.code]]) (by simp [results, Try.results8, go_sem, r0, r1, r2]) rfl (HN.out _ HB2.out)
set_option maxRecDepth 100000 in
set_option maxHeartbeats 4000000 in
theorem vrc_4_1 (e : Bool) (w : World) : Calls Try.prog 8 #[.int .i64 4, .int .i64 1, .bool e] w (RPost w (recv 4 1 e)) := by
  obtain ⟨r, hp⟩ : ∃ r, r = rClosed 1 := ⟨_, rfl⟩
  have hp2 : recv 4 1 e = r := by rw [hp]; rfl
  obtain ⟨hk, hb⟩ := kf_of w false false 0
  obtain ⟨w1, hw1⟩ : ∃ x, x = w.alloc (.cells #[.bool false, .bool false, .int .i64 0] 24) := ⟨_, rfl⟩
  obtain ⟨g, hg⟩ : ∃ g, g = w.heap.size := ⟨_, rfl⟩
  rw [← hw1, ← hg] at hk
  rw [← hw1] at hb
  have HG := Lib.hid hg
  have HB := Lib.hid hb
  have HW := Lib.hid hw1
  have HK := Lib.hid hk
  have HC := Lib.hid (vclosed_f 1 w1)
  rw [← hp] at HC
  have HN : Hid (∀ W, Below w.heap.size w W → RPost w (recv 4 1 e) (.returned (.tuple #[.int .i64 r.st, .agg #[.bool r.bad, .bool r.conn, .int .i64 r.code]])) (stF W g r.bad r.conn r.code)) := Lib.hid (fun W h => ⟨by rw [hp2], stF_below HG.out h _ _ _⟩)
  clear hk hb hw1 hg hp hp2
  go_enter Try.func8, Try.ntmps8
  go_upto_region 1 with fail
  rw [← HW.out, ← HG.out]
  go_wp2_with fail
  with_reducible refine (HC.out).mono ?_
  rintro e w2 ⟨rfl, hb⟩
  have hk := HK.out.up hb
  obtain ⟨r0, r1, r2⟩ := hk.cells
  obtain ⟨f0, f1, f2⟩ := hk.loose
  have HB2 := Lib.hid (HB.out.trans (hb.mono HB.out.size))
  clear hb hk
  go_wp2_with fail
  refine bodyPost_ret (v := .tuple #[.int .i64 r.st, .agg #[.bool r.bad, .bool r.conn, .int .i64 r.code]]) (by simp [results, Try.results8, go_sem, r0, r1, r2]) rfl (HN.out _ HB2.out)
set_option maxRecDepth 100000 in
set_option maxHeartbeats 4000000 in
theorem vrc_5_1 (e : Bool) (w : World) : Calls Try.prog 8 #[.int .i64 5, .int .i64 1, .bool e] w (RPost w (recv 5 1 e)) := by
  have hp : recv 5 1 e = ⟨5, false, false, 0⟩ := by rfl
  obtain ⟨hk, hb⟩ := kf_of w false false 0
  obtain ⟨w1, hw1⟩ : ∃ x, x = w.alloc (.cells #[.bool false, .bool false, .int .i64 0] 24) := ⟨_, rfl⟩
  obtain ⟨g, hg⟩ : ∃ g, g = w.heap.size := ⟨_, rfl⟩
  rw [← hw1, ← hg] at hk
  rw [← hw1] at hb
  have HG := Lib.hid hg
  have HB := Lib.hid hb
  have HW := Lib.hid hw1
  obtain ⟨r0, r1, r2⟩ := hk.cells
  obtain ⟨f0, f1, f2⟩ := hk.loose
  have HN : Hid (RPost w (recv 5 1 e) (.returned (.tuple #[.int .i64 5, .agg #[.bool false, .bool false, .int .i64 0]])) (stF w1 g false false 0)) := Lib.hid ⟨by rw [hp], stF_below HG.out HB.out _ _ _⟩
  clear hk hb hw1 hg hp
  go_enter Try.func8, Try.ntmps8
  go_upto_region 1 with fail
  rw [← HW.out, ← HG.out]
  go_wp2_with fail
  refine bodyPost_ret (v := .tuple #[.int .i64 5, .agg #[.bool false, .bool false, .int .i64 0]]) (by simp [results, Try.results8, go_sem, r0, r1, r2]) rfl (HN.out)
set_option maxRecDepth 100000 in
set_option maxHeartbeats 4000000 in
theorem vrc_x_1 (s : Int) (e : Bool) (w : World) (h : ¬ s = 0 ∧ ¬ s = 1 ∧ ¬ s = 2 ∧ ¬ s = 3 ∧ ¬ s = 4 ∧ ¬ s = 5) : Calls Try.prog 8 #[.int .i64 s, .int .i64 1, .bool e] w (RPost w (recv s 1 e)) := by
  have hp : recv s 1 e = ⟨s, true, true, 1⟩ := by unfold recv; rw [if_pos (by decide), if_neg (by omega), if_neg (by omega), if_neg (by omega), if_neg (by omega), if_neg (by omega), if_neg (by omega)]
  have s0b : (s == 0) = false := bne (by omega)
  have s0n : (s != 0) = true := nbt (by omega)
  have s1b : (s == 1) = false := bne (by omega)
  have s1n : (s != 1) = true := nbt (by omega)
  have s2b : (s == 2) = false := bne (by omega)
  have s2n : (s != 2) = true := nbt (by omega)
  have s3b : (s == 3) = false := bne (by omega)
  have s3n : (s != 3) = true := nbt (by omega)
  have s4b : (s == 4) = false := bne (by omega)
  have s4n : (s != 4) = true := nbt (by omega)
  have s5b : (s == 5) = false := bne (by omega)
  have s5n : (s != 5) = true := nbt (by omega)
  obtain ⟨hk, hb⟩ := kf_of w false false 0
  obtain ⟨w1, hw1⟩ : ∃ x, x = w.alloc (.cells #[.bool false, .bool false, .int .i64 0] 24) := ⟨_, rfl⟩
  obtain ⟨g, hg⟩ : ∃ g, g = w.heap.size := ⟨_, rfl⟩
  rw [← hw1, ← hg] at hk
  rw [← hw1] at hb
  have HG := Lib.hid hg
  have HB := Lib.hid hb
  have HW := Lib.hid hw1
  have HK := Lib.hid hk
  have HC := Lib.hid (vofconn_f 1 w1)
  have HN : Hid (∀ W, Below w.heap.size w W → RPost w (recv s 1 e) (.returned (.tuple #[.int .i64 s, .agg #[.bool true, .bool true, .int .i64 1]])) (stF W g true true 1)) := Lib.hid (fun W h => ⟨by rw [hp], stF_below HG.out h _ _ _⟩)
  clear hk hb hw1 hg hp h
  go_enter Try.func8, Try.ntmps8
  go_upto_region 1 with fail
  rw [← HW.out, ← HG.out]
  go_wp2_with fail
  with_reducible refine (HC.out).mono ?_
  rintro e w2 ⟨rfl, hb⟩
  have hk := HK.out.up hb
  obtain ⟨r0, r1, r2⟩ := hk.cells
  obtain ⟨f0, f1, f2⟩ := hk.loose
  have HB2 := Lib.hid (HB.out.trans (hb.mono HB.out.size))
  clear hb hk
  go_wp2_with fail
  refine bodyPost_ret (v := .tuple #[.int .i64 s, .agg #[.bool true, .bool true, .int .i64 1]]) (by simp [results, Try.results8, go_sem, r0, r1, r2]) rfl (HN.out _ HB2.out)
set_option maxRecDepth 100000 in
set_option maxHeartbeats 4000000 in
theorem vrc_0_2 (e : Bool) (w : World) : Calls Try.prog 8 #[.int .i64 0, .int .i64 2, .bool e] w (RPost w (recv 0 2 e)) := by
  obtain ⟨r, hp⟩ : ∃ r, r = rIdle 2 e := ⟨_, rfl⟩
  have hp2 : recv 0 2 e = r := by rw [hp]; rfl
  obtain ⟨hk, hb⟩ := kf_of w false false 0
  obtain ⟨w1, hw1⟩ : ∃ x, x = w.alloc (.cells #[.bool false, .bool false, .int .i64 0] 24) := ⟨_, rfl⟩
  obtain ⟨g, hg⟩ : ∃ g, g = w.heap.size := ⟨_, rfl⟩
  rw [← hw1, ← hg] at hk
  rw [← hw1] at hb
  have HG := Lib.hid hg
  have HB := Lib.hid hb
  have HW := Lib.hid hw1
  have HK := Lib.hid hk
  have HC := Lib.hid (vidle_f 2 e w1)
  rw [← hp] at HC
  have HN : Hid (∀ W, Below w.heap.size w W → RPost w (recv 0 2 e) (.returned (.tuple #[.int .i64 r.st, .agg #[.bool r.bad, .bool r.conn, .int .i64 r.code]])) (stF W g r.bad r.conn r.code)) := Lib.hid (fun W h => ⟨by rw [hp2], stF_below HG.out h _ _ _⟩)
  clear hk hb hw1 hg hp hp2
  go_enter Try.func8, Try.ntmps8
  go_upto_region 1 with fail
  rw [← HW.out, ← HG.out]
  go_wp2_with fail
  with_reducible refine (HC.out).mono ?_
  rintro e w2 ⟨rfl, hb⟩
  have hk := HK.out.up hb
  obtain ⟨r0, r1, r2⟩ := hk.cells
  obtain ⟨f0, f1, f2⟩ := hk.loose
  have HB2 := Lib.hid (HB.out.trans (hb.mono HB.out.size))
  clear hb hk
  go_wp2_with fail
  refine bodyPost_ret (v := .tuple #[.int .i64 r.st, .agg #[.bool r.bad, .bool r.conn, .int .i64 r.code]]) (by simp [results, Try.results8, go_sem, r0, r1, r2]) rfl (HN.out _ HB2.out)
set_option maxRecDepth 100000 in
set_option maxHeartbeats 4000000 in
theorem vrc_1_2 (e : Bool) (w : World) : Calls Try.prog 8 #[.int .i64 1, .int .i64 2, .bool e] w (RPost w (recv 1 2 e)) := by
  obtain ⟨r, hp⟩ : ∃ r, r = rOpen 2 e 1 2 := ⟨_, rfl⟩
  have hp2 : recv 1 2 e = r := by rw [hp]; rfl
  obtain ⟨hk, hb⟩ := kf_of w false false 0
  obtain ⟨w1, hw1⟩ : ∃ x, x = w.alloc (.cells #[.bool false, .bool false, .int .i64 0] 24) := ⟨_, rfl⟩
  obtain ⟨g, hg⟩ : ∃ g, g = w.heap.size := ⟨_, rfl⟩
  rw [← hw1, ← hg] at hk
  rw [← hw1] at hb
  have HG := Lib.hid hg
  have HB := Lib.hid hb
  have HW := Lib.hid hw1
  have HK := Lib.hid hk
  have HC := Lib.hid (vopen_f 2 e 1 2 w1)
  rw [← hp] at HC
  have HN : Hid (∀ W, Below w.heap.size w W → RPost w (recv 1 2 e) (.returned (.tuple #[.int .i64 r.st, .agg #[.bool r.bad, .bool r.conn, .int .i64 r.code]])) (stF W g r.bad r.conn r.code)) := Lib.hid (fun W h => ⟨by rw [hp2], stF_below HG.out h _ _ _⟩)
  clear hk hb hw1 hg hp hp2
  go_enter Try.func8, Try.ntmps8
  go_upto_region 1 with fail
  rw [← HW.out, ← HG.out]
  go_wp2_with fail
  with_reducible refine (HC.out).mono ?_
  rintro e w2 ⟨rfl, hb⟩
  have hk := HK.out.up hb
  obtain ⟨r0, r1, r2⟩ := hk.cells
  obtain ⟨f0, f1, f2⟩ := hk.loose
  have HB2 := Lib.hid (HB.out.trans (hb.mono HB.out.size))
  clear hb hk
  go_wp2_with fail
  refine bodyPost_ret (v := .tuple #[.int .i64 r.st, .agg #[.bool r.bad, .bool r.conn, .int .i64 r.code]]) (by simp [results, Try.results8, go_sem, r0, r1, r2]) rfl (HN.out _ HB2.out)
set_option maxRecDepth 100000 in
set_option maxHeartbeats 4000000 in
theorem vrc_2_2 (e : Bool) (w : World) : Calls Try.prog 8 #[.int .i64 2, .int .i64 2, .bool e] w (RPost w (recv 2 2 e)) := by
  obtain ⟨r, hp⟩ : ∃ r, r = rRemote 2 := ⟨_, rfl⟩
  have hp2 : recv 2 2 e = r := by rw [hp]; rfl
  obtain ⟨hk, hb⟩ := kf_of w false false 0
  obtain ⟨w1, hw1⟩ : ∃ x, x = w.alloc (.cells #[.bool false, .bool false, .int .i64 0] 24) := ⟨_, rfl⟩
  obtain ⟨g, hg⟩ : ∃ g, g = w.heap.size := ⟨_, rfl⟩
  rw [← hw1, ← hg] at hk
  rw [← hw1] at hb
  have HG := Lib.hid hg
  have HB := Lib.hid hb
  have HW := Lib.hid hw1
  have HK := Lib.hid hk
  have HC := Lib.hid (vremote_f 2 w1)
  rw [← hp] at HC
  have HN : Hid (∀ W, Below w.heap.size w W → RPost w (recv 2 2 e) (.returned (.tuple #[.int .i64 r.st, .agg #[.bool r.bad, .bool r.conn, .int .i64 r.code]])) (stF W g r.bad r.conn r.code)) := Lib.hid (fun W h => ⟨by rw [hp2], stF_below HG.out h _ _ _⟩)
  clear hk hb hw1 hg hp hp2
  go_enter Try.func8, Try.ntmps8
  go_upto_region 1 with fail
  rw [← HW.out, ← HG.out]
  go_wp2_with fail
  with_reducible refine (HC.out).mono ?_
  rintro e w2 ⟨rfl, hb⟩
  have hk := HK.out.up hb
  obtain ⟨r0, r1, r2⟩ := hk.cells
  obtain ⟨f0, f1, f2⟩ := hk.loose
  have HB2 := Lib.hid (HB.out.trans (hb.mono HB.out.size))
  clear hb hk
  go_wp2_with fail
  refine bodyPost_ret (v := .tuple #[.int .i64 r.st, .agg #[.bool r.bad, .bool r.conn, .int .i64 r.code]]) (by simp [results, Try.results8, go_sem, r0, r1, r2]) rfl (HN.out _ HB2.out)
set_option maxRecDepth 100000 in
set_option maxHeartbeats 4000000 in
theorem vrc_3_2 (e : Bool) (w : World) : Calls Try.prog 8 #[.int .i64 3, .int .i64 2, .bool e] w (RPost w (recv 3 2 e)) := by
  obtain ⟨r, hp⟩ : ∃ r, r = rOpen 2 e 3 4 := ⟨_, rfl⟩
  have hp2 : recv 3 2 e = r := by rw [hp]; rfl
  obtain ⟨hk, hb⟩ := kf_of w false false 0
  obtain ⟨w1, hw1⟩ : ∃ x, x = w.alloc (.cells #[.bool false, .bool false, .int .i64 0] 24) := ⟨_, rfl⟩
  obtain ⟨g, hg⟩ : ∃ g, g = w.heap.size := ⟨_, rfl⟩
  rw [← hw1, ← hg] at hk
  rw [← hw1] at hb
  have HG := Lib.hid hg
  have HB := Lib.hid hb
  have HW := Lib.hid hw1
  have HK := Lib.hid hk
  have HC := Lib.hid (vopen_f 2 e 3 4 w1)
  rw [← hp] at HC
  have HN : Hid (∀ W, Below w.heap.size w W → RPost w (recv 3 2 e) (.returned (.tuple #[.int .i64 r.st, .agg #[.bool r.bad, .bool r.conn, .int .i64 r.code]])) (stF W g r.bad r.conn r.code)) := Lib.hid (fun W h => ⟨by rw [hp2], stF_below HG.out h _ _ _⟩)
  clear hk hb hw1 hg hp hp2
  go_enter Try.func8, Try.ntmps8
  go_upto_region 1 with fail
  rw [← HW.out, ← HG.out]
  go_wp2_with fail
  with_reducible refine (HC.out).mono ?_
  rintro e w2 ⟨rfl, hb⟩
  have hk := HK.out.up hb
  obtain ⟨r0, r1, r2⟩ := hk.cells
  obtain ⟨f0, f1, f2⟩ := hk.loose
  have HB2 := Lib.hid (HB.out.trans (hb.mono HB.out.size))
  clear hb hk
  go_wp2_with fail
  refine bodyPost_ret (v := .tuple #[.int .i64 r.st, .agg #[.bool r.bad, .bool r.conn, .int .i64 r.code]]) (by simp [results, Try.results8, go_sem, r0, r1, r2]) rfl (HN.out _ HB2.out)
set_option maxRecDepth 100000 in
set_option maxHeartbeats 4000000 in
theorem vrc_4_2 (e : Bool) (w : World) : Calls Try.prog 8 #[.int .i64 4, .int .i64 2, .bool e] w (RPost w (recv 4 2 e)) := by
  obtain ⟨r, hp⟩ : ∃ r, r = rClosed 2 := ⟨_, rfl⟩
  have hp2 : recv 4 2 e = r := by rw [hp]; rfl
  obtain ⟨hk, hb⟩ := kf_of w false false 0
  obtain ⟨w1, hw1⟩ : ∃ x, x = w.alloc (.cells #[.bool false, .bool false, .int .i64 0] 24) := ⟨_, rfl⟩
  obtain ⟨g, hg⟩ : ∃ g, g = w.heap.size := ⟨_, rfl⟩
  rw [← hw1, ← hg] at hk
  rw [← hw1] at hb
  have HG := Lib.hid hg
  have HB := Lib.hid hb
  have HW := Lib.hid hw1
  have HK := Lib.hid hk
  have HC := Lib.hid (vclosed_f 2 w1)
  rw [← hp] at HC
  have HN : Hid (∀ W, Below w.heap.size w W → RPost w (recv 4 2 e) (.returned (.tuple #[.int .i64 r.st, .agg #[.bool r.bad, .bool r.conn, .int .i64 r.code]])) (stF W g r.bad r.conn r.code)) := Lib.hid (fun W h => ⟨by rw [hp2], stF_below HG.out h _ _ _⟩)
  clear hk hb hw1 hg hp hp2
  go_enter Try.func8, Try.ntmps8
  go_upto_region 1 with fail
  rw [← HW.out, ← HG.out]
  go_wp2_with fail
  with_reducible refine (HC.out).mono ?_
  rintro e w2 ⟨rfl, hb⟩
  have hk := HK.out.up hb
  obtain ⟨r0, r1, r2⟩ := hk.cells
  obtain ⟨f0, f1, f2⟩ := hk.loose
  have HB2 := Lib.hid (HB.out.trans (hb.mono HB.out.size))
  clear hb hk
  go_wp2_with fail
  refine bodyPost_ret (v := .tuple #[.int .i64 r.st, .agg #[.bool r.bad, .bool r.conn, .int .i64 r.code]]) (by simp [results, Try.results8, go_sem, r0, r1, r2]) rfl (HN.out _ HB2.out)
set_option maxRecDepth 100000 in
set_option maxHeartbeats 4000000 in
theorem vrc_5_2 (e : Bool) (w : World) : Calls Try.prog 8 #[.int .i64 5, .int .i64 2, .bool e] w (RPost w (recv 5 2 e)) := by
  have hp : recv 5 2 e = ⟨5, false, false, 0⟩ := by rfl
  obtain ⟨hk, hb⟩ := kf_of w false false 0
  obtain ⟨w1, hw1⟩ : ∃ x, x = w.alloc (.cells #[.bool false, .bool false, .int .i64 0] 24) := ⟨_, rfl⟩
  obtain ⟨g, hg⟩ : ∃ g, g = w.heap.size := ⟨_, rfl⟩
  rw [← hw1, ← hg] at hk
  rw [← hw1] at hb
  have HG := Lib.hid hg
  have HB := Lib.hid hb
  have HW := Lib.hid hw1
  obtain ⟨r0, r1, r2⟩ := hk.cells
  obtain ⟨f0, f1, f2⟩ := hk.loose
  have HN : Hid (RPost w (recv 5 2 e) (.returned (.tuple #[.int .i64 5, .agg #[.bool false, .bool false, .int .i64 0]])) (stF w1 g false false 0)) := Lib.hid ⟨by rw [hp], stF_below HG.out HB.out _ _ _⟩
  clear hk hb hw1 hg hp
  go_enter Try.func8, Try.ntmps8
  go_upto_region 1 with fail
  rw [← HW.out, ← HG.out]
  go_wp2_with fail
  refine bodyPost_ret (v := .tuple #[.int .i64 5, .agg #[.bool false, .bool false, .int .i64 0]]) (by simp [results, Try.results8, go_sem, r0, r1, r2]) rfl (HN.out)
set_option maxRecDepth 100000 in
set_option maxHeartbeats 4000000 in
theorem vrc_x_2 (s : Int) (e : Bool) (w : World) (h : ¬ s = 0 ∧ ¬ s = 1 ∧ ¬ s = 2 ∧ ¬ s = 3 ∧ ¬ s = 4 ∧ ¬ s = 5) : Calls Try.prog 8 #[.int .i64 s, .int .i64 2, .bool e] w (RPost w (recv s 2 e)) := by
  have hp : recv s 2 e = ⟨s, true, true, 1⟩ := by unfold recv; rw [if_pos (by decide), if_neg (by omega), if_neg (by omega), if_neg (by omega), if_neg (by omega), if_neg (by omega), if_neg (by omega)]
  have s0b : (s == 0) = false := bne (by omega)
  have s0n : (s != 0) = true := nbt (by omega)
  have s1b : (s == 1) = false := bne (by omega)
  have s1n : (s != 1) = true := nbt (by omega)
  have s2b : (s == 2) = false := bne (by omega)
  have s2n : (s != 2) = true := nbt (by omega)
  have s3b : (s == 3) = false := bne (by omega)
  have s3n : (s != 3) = true := nbt (by omega)
  have s4b : (s == 4) = false := bne (by omega)
  have s4n : (s != 4) = true := nbt (by omega)
  have s5b : (s == 5) = false := bne (by omega)
  have s5n : (s != 5) = true := nbt (by omega)
  obtain ⟨hk, hb⟩ := kf_of w false false 0
  obtain ⟨w1, hw1⟩ : ∃ x, x = w.alloc (.cells #[.bool false, .bool false, .int .i64 0] 24) := ⟨_, rfl⟩
  obtain ⟨g, hg⟩ : ∃ g, g = w.heap.size := ⟨_, rfl⟩
  rw [← hw1, ← hg] at hk
  rw [← hw1] at hb
  have HG := Lib.hid hg
  have HB := Lib.hid hb
  have HW := Lib.hid hw1
  have HK := Lib.hid hk
  have HC := Lib.hid (vofconn_f 1 w1)
  have HN : Hid (∀ W, Below w.heap.size w W → RPost w (recv s 2 e) (.returned (.tuple #[.int .i64 s, .agg #[.bool true, .bool true, .int .i64 1]])) (stF W g true true 1)) := Lib.hid (fun W h => ⟨by rw [hp], stF_below HG.out h _ _ _⟩)
  clear hk hb hw1 hg hp h
  go_enter Try.func8, Try.ntmps8
  go_upto_region 1 with fail
  rw [← HW.out, ← HG.out]
  go_wp2_with fail
  with_reducible refine (HC.out).mono ?_
  rintro e w2 ⟨rfl, hb⟩
  have hk := HK.out.up hb
  obtain ⟨r0, r1, r2⟩ := hk.cells
  obtain ⟨f0, f1, f2⟩ := hk.loose
  have HB2 := Lib.hid (HB.out.trans (hb.mono HB.out.size))
  clear hb hk
  go_wp2_with fail
  refine bodyPost_ret (v := .tuple #[.int .i64 s, .agg #[.bool true, .bool true, .int .i64 1]]) (by simp [results, Try.results8, go_sem, r0, r1, r2]) rfl (HN.out _ HB2.out)
set_option maxRecDepth 100000 in
set_option maxHeartbeats 4000000 in
theorem vrc_0_3 (e : Bool) (w : World) : Calls Try.prog 8 #[.int .i64 0, .int .i64 3, .bool e] w (RPost w (recv 0 3 e)) := by
  obtain ⟨r, hp⟩ : ∃ r, r = rIdle 3 e := ⟨_, rfl⟩
  have hp2 : recv 0 3 e = r := by rw [hp]; rfl
  obtain ⟨hk, hb⟩ := kf_of w false false 0
  obtain ⟨w1, hw1⟩ : ∃ x, x = w.alloc (.cells #[.bool false, .bool false, .int .i64 0] 24) := ⟨_, rfl⟩
  obtain ⟨g, hg⟩ : ∃ g, g = w.heap.size := ⟨_, rfl⟩
  rw [← hw1, ← hg] at hk
  rw [← hw1] at hb
  have HG := Lib.hid hg
  have HB := Lib.hid hb
  have HW := Lib.hid hw1
  have HK := Lib.hid hk
  have HC := Lib.hid (vidle_f 3 e w1)
  rw [← hp] at HC
  have HN : Hid (∀ W, Below w.heap.size w W → RPost w (recv 0 3 e) (.returned (.tuple #[.int .i64 r.st, .agg #[.bool r.bad, .bool r.conn, .int .i64 r.code]])) (stF W g r.bad r.conn r.code)) := Lib.hid (fun W h => ⟨by rw [hp2], stF_below HG.out h _ _ _⟩)
  clear hk hb hw1 hg hp hp2
  go_enter Try.func8, Try.ntmps8
  go_upto_region 1 with fail
  rw [← HW.out, ← HG.out]
  go_wp2_with fail
  with_reducible refine (HC.out).mono ?_
  rintro e w2 ⟨rfl, hb⟩
  have hk := HK.out.up hb
  obtain ⟨r0, r1, r2⟩ := hk.cells
  obtain ⟨f0, f1, f2⟩ := hk.loose
  have HB2 := Lib.hid (HB.out.trans (hb.mono HB.out.size))
  clear hb hk
  go_wp2_with fail
  refine bodyPost_ret (v := .tuple #[.int .i64 r.st, .agg #[.bool r.bad, .bool r.conn, .int .i64 r.code]]) (by simp [results, Try.results8, go_sem, r0, r1, r2]) rfl (HN.out _ HB2.out)
set_option maxRecDepth 100000 in
set_option maxHeartbeats 4000000 in
theorem vrc_1_3 (e : Bool) (w : World) : Calls Try.prog 8 #[.int .i64 1, .int .i64 3, .bool e] w (RPost w (recv 1 3 e)) := by
  obtain ⟨r, hp⟩ : ∃ r, r = rOpen 3 e 1 2 := ⟨_, rfl⟩
  have hp2 : recv 1 3 e = r := by rw [hp]; rfl
  obtain ⟨hk, hb⟩ := kf_of w false false 0
  obtain ⟨w1, hw1⟩ : ∃ x, x = w.alloc (.cells #[.bool false, .bool false, .int .i64 0] 24) := ⟨_, rfl⟩
  obtain ⟨g, hg⟩ : ∃ g, g = w.heap.size := ⟨_, rfl⟩
  rw [← hw1, ← hg] at hk
  rw [← hw1] at hb
  have HG := Lib.hid hg
  have HB := Lib.hid hb
  have HW := Lib.hid hw1
  have HK := Lib.hid hk
  have HC := Lib.hid (vopen_f 3 e 1 2 w1)
  rw [← hp] at HC
  have HN : Hid (∀ W, Below w.heap.size w W → RPost w (recv 1 3 e) (.returned (.tuple #[.int .i64 r.st, .agg #[.bool r.bad, .bool r.conn, .int .i64 r.code]])) (stF W g r.bad r.conn r.code)) := Lib.hid (fun W h => ⟨by rw [hp2], stF_below HG.out h _ _ _⟩)
  clear hk hb hw1 hg hp hp2
  go_enter Try.func8, Try.ntmps8
  go_upto_region 1 with fail
  rw [← HW.out, ← HG.out]
  go_wp2_with fail
  with_reducible refine (HC.out).mono ?_
  rintro e w2 ⟨rfl, hb⟩
  have hk := HK.out.up hb
  obtain ⟨r0, r1, r2⟩ := hk.cells
  obtain ⟨f0, f1, f2⟩ := hk.loose
  have HB2 := Lib.hid (HB.out.trans (hb.mono HB.out.size))
  clear hb hk
  go_wp2_with fail
  refine bodyPost_ret (v := .tuple #[.int .i64 r.st, .agg #[.bool r.bad, .bool r.conn, .int .i64 r.code]]) (by simp [results, Try.results8, go_sem, r0, r1, r2]) rfl (HN.out _ HB2.out)
set_option maxRecDepth 100000 in
set_option maxHeartbeats 4000000 in
theorem vrc_2_3 (e : Bool) (w : World) : Calls Try.prog 8 #[.int .i64 2, .int .i64 3, .bool e] w (RPost w (recv 2 3 e)) := by
  obtain ⟨r, hp⟩ : ∃ r, r = rRemote 3 := ⟨_, rfl⟩
  have hp2 : recv 2 3 e = r := by rw [hp]; rfl
  obtain ⟨hk, hb⟩ := kf_of w false false 0
  obtain ⟨w1, hw1⟩ : ∃ x, x = w.alloc (.cells #[.bool false, .bool false, .int .i64 0] 24) := ⟨_, rfl⟩
  obtain ⟨g, hg⟩ : ∃ g, g = w.heap.size := ⟨_, rfl⟩
  rw [← hw1, ← hg] at hk
  rw [← hw1] at hb
  have HG := Lib.hid hg
  have HB := Lib.hid hb
  have HW := Lib.hid hw1
  have HK := Lib.hid hk
  have HC := Lib.hid (vremote_f 3 w1)
  rw [← hp] at HC
  have HN : Hid (∀ W, Below w.heap.size w W → RPost w (recv 2 3 e) (.returned (.tuple #[.int .i64 r.st, .agg #[.bool r.bad, .bool r.conn, .int .i64 r.code]])) (stF W g r.bad r.conn r.code)) := Lib.hid (fun W h => ⟨by rw [hp2], stF_below HG.out h _ _ _⟩)
  clear hk hb hw1 hg hp hp2
  go_enter Try.func8, Try.ntmps8
  go_upto_region 1 with fail
  rw [← HW.out, ← HG.out]
  go_wp2_with fail
  with_reducible refine (HC.out).mono ?_
  rintro e w2 ⟨rfl, hb⟩
  have hk := HK.out.up hb
  obtain ⟨r0, r1, r2⟩ := hk.cells
  obtain ⟨f0, f1, f2⟩ := hk.loose
  have HB2 := Lib.hid (HB.out.trans (hb.mono HB.out.size))
  clear hb hk
  go_wp2_with fail
  refine bodyPost_ret (v := .tuple #[.int .i64 r.st, .agg #[.bool r.bad, .bool r.conn, .int .i64 r.code]]) (by simp [results, Try.results8, go_sem, r0, r1, r2]) rfl (HN.out _ HB2.out)
set_option maxRecDepth 100000 in
set_option maxHeartbeats 4000000 in
theorem vrc_3_3 (e : Bool) (w : World) : Calls Try.prog 8 #[.int .i64 3, .int .i64 3, .bool e] w (RPost w (recv 3 3 e)) := by
  obtain ⟨r, hp⟩ : ∃ r, r = rOpen 3 e 3 4 := ⟨_, rfl⟩
  have hp2 : recv 3 3 e = r := by rw [hp]; rfl
  obtain ⟨hk, hb⟩ := kf_of w false false 0
  obtain ⟨w1, hw1⟩ : ∃ x, x = w.alloc (.cells #[.bool false, .bool false, .int .i64 0] 24) := ⟨_, rfl⟩
  obtain ⟨g, hg⟩ : ∃ g, g = w.heap.size := ⟨_, rfl⟩
  rw [← hw1, ← hg] at hk
  rw [← hw1] at hb
  have HG := Lib.hid hg
  have HB := Lib.hid hb
  have HW := Lib.hid hw1
  have HK := Lib.hid hk
  have HC := Lib.hid (vopen_f 3 e 3 4 w1)
  rw [← hp] at HC
  have HN : Hid (∀ W, Below w.heap.size w W → RPost w (recv 3 3 e) (.returned (.tuple #[.int .i64 r.st, .agg #[.bool r.bad, .bool r.conn, .int .i64 r.code]])) (stF W g r.bad r.conn r.code)) := Lib.hid (fun W h => ⟨by rw [hp2], stF_below HG.out h _ _ _⟩)
  clear hk hb hw1 hg hp hp2
  go_enter Try.func8, Try.ntmps8
  go_upto_region 1 with fail
  rw [← HW.out, ← HG.out]
  go_wp2_with fail
  with_reducible refine (HC.out).mono ?_
  rintro e w2 ⟨rfl, hb⟩
  have hk := HK.out.up hb
  obtain ⟨r0, r1, r2⟩ := hk.cells
  obtain ⟨f0, f1, f2⟩ := hk.loose
  have HB2 := Lib.hid (HB.out.trans (hb.mono HB.out.size))
  clear hb hk
  go_wp2_with fail
  refine bodyPost_ret (v := .tuple #[.int .i64 r.st, .agg #[.bool r.bad, .bool r.conn, .int .i64 r.code]]) (by simp [results, Try.results8, go_sem, r0, r1, r2]) rfl (HN.out _ HB2.out)
set_option maxRecDepth 100000 in
set_option maxHeartbeats 4000000 in
theorem vrc_4_3 (e : Bool) (w : World) : Calls Try.prog 8 #[.int .i64 4, .int .i64 3, .bool e] w (RPost w (recv 4 3 e)) := by
  obtain ⟨r, hp⟩ : ∃ r, r = rClosed 3 := ⟨_, rfl⟩
  have hp2 : recv 4 3 e = r := by rw [hp]; rfl
  obtain ⟨hk, hb⟩ := kf_of w false false 0
  obtain ⟨w1, hw1⟩ : ∃ x, x = w.alloc (.cells #[.bool false, .bool false, .int .i64 0] 24) := ⟨_, rfl⟩
  obtain ⟨g, hg⟩ : ∃ g, g = w.heap.size := ⟨_, rfl⟩
  rw [← hw1, ← hg] at hk
  rw [← hw1] at hb
  have HG := Lib.hid hg
  have HB := Lib.hid hb
  have HW := Lib.hid hw1
  have HK := Lib.hid hk
  have HC := Lib.hid (vclosed_f 3 w1)
  rw [← hp] at HC
  have HN : Hid (∀ W, Below w.heap.size w W → RPost w (recv 4 3 e) (.returned (.tuple #[.int .i64 r.st, .agg #[.bool r.bad, .bool r.conn, .int .i64 r.code]])) (stF W g r.bad r.conn r.code)) := Lib.hid (fun W h => ⟨by rw [hp2], stF_below HG.out h _ _ _⟩)
  clear hk hb hw1 hg hp hp2
  go_enter Try.func8, Try.ntmps8
  go_upto_region 1 with fail
  rw [← HW.out, ← HG.out]
  go_wp2_with fail
  with_reducible refine (HC.out).mono ?_
  rintro e w2 ⟨rfl, hb⟩
  have hk := HK.out.up hb
  obtain ⟨r0, r1, r2⟩ := hk.cells
  obtain ⟨f0, f1, f2⟩ := hk.loose
  have HB2 := Lib.hid (HB.out.trans (hb.mono HB.out.size))
  clear hb hk
  go_wp2_with fail
  refine bodyPost_ret (v := .tuple #[.int .i64 r.st, .agg #[.bool r.bad, .bool r.conn, .int .i64 r.code]]) (by simp [results, Try.results8, go_sem, r0, r1, r2]) rfl (HN.out _ HB2.out)
set_option maxRecDepth 100000 in
set_option maxHeartbeats 4000000 in
theorem vrc_5_3 (e : Bool) (w : World) : Calls Try.prog 8 #[.int .i64 5, .int .i64 3, .bool e] w (RPost w (recv 5 3 e)) := by
  have hp : recv 5 3 e = ⟨5, false, false, 0⟩ := by rfl
  obtain ⟨hk, hb⟩ := kf_of w false false 0
  obtain ⟨w1, hw1⟩ : ∃ x, x = w.alloc (.cells #[.bool false, .bool false, .int .i64 0] 24) := ⟨_, rfl⟩
  obtain ⟨g, hg⟩ : ∃ g, g = w.heap.size := ⟨_, rfl⟩
  rw [← hw1, ← hg] at hk
  rw [← hw1] at hb
  have HG := Lib.hid hg
  have HB := Lib.hid hb
  have HW := Lib.hid hw1
  obtain ⟨r0, r1, r2⟩ := hk.cells
  obtain ⟨f0, f1, f2⟩ := hk.loose
  have HN : Hid (RPost w (recv 5 3 e) (.returned (.tuple #[.int .i64 5, .agg #[.bool false, .bool false, .int .i64 0]])) (stF w1 g false false 0)) := Lib.hid ⟨by rw [hp], stF_below HG.out HB.out _ _ _⟩
  clear hk hb hw1 hg hp
  go_enter Try.func8, Try.ntmps8
  go_upto_region 1 with fail
  rw [← HW.out, ← HG.out]
  go_wp2_with fail
  refine bodyPost_ret (v := .tuple #[.int .i64 5, .agg #[.bool false, .bool false, .int .i64 0]]) (by simp [results, Try.results8, go_sem, r0, r1, r2]) rfl (HN.out)
set_option maxRecDepth 100000 in
set_option maxHeartbeats 4000000 in
theorem vrc_x_3 (s : Int) (e : Bool) (w : World) (h : ¬ s = 0 ∧ ¬ s = 1 ∧ ¬ s = 2 ∧ ¬ s = 3 ∧ ¬ s = 4 ∧ ¬ s = 5) : Calls Try.prog 8 #[.int .i64 s, .int .i64 3, .bool e] w (RPost w (recv s 3 e)) := by
  have hp : recv s 3 e = ⟨s, true, true, 1⟩ := by unfold recv; rw [if_pos (by decide), if_neg (by omega), if_neg (by omega), if_neg (by omega), if_neg (by omega), if_neg (by omega), if_neg (by omega)]
  have s0b : (s == 0) = false := bne (by omega)
  have s0n : (s != 0) = true := nbt (by omega)
  have s1b : (s == 1) = false := bne (by omega)
  have s1n : (s != 1) = true := nbt (by omega)
  have s2b : (s == 2) = false := bne (by omega)
  have s2n : (s != 2) = true := nbt (by omega)
  have s3b : (s == 3) = false := bne (by omega)
  have s3n : (s != 3) = true := nbt (by omega)
  have s4b : (s == 4) = false := bne (by omega)
  have s4n : (s != 4) = true := nbt (by omega)
  have s5b : (s == 5) = false := bne (by omega)
  have s5n : (s != 5) = true := nbt (by omega)
  obtain ⟨hk, hb⟩ := kf_of w false false 0
  obtain ⟨w1, hw1⟩ : ∃ x, x = w.alloc (.cells #[.bool false, .bool false, .int .i64 0] 24) := ⟨_, rfl⟩
  obtain ⟨g, hg⟩ : ∃ g, g = w.heap.size := ⟨_, rfl⟩
  rw [← hw1, ← hg] at hk
  rw [← hw1] at hb
  have HG := Lib.hid hg
  have HB := Lib.hid hb
  have HW := Lib.hid hw1
  have HK := Lib.hid hk
  have HC := Lib.hid (vofconn_f 1 w1)
  have HN : Hid (∀ W, Below w.heap.size w W → RPost w (recv s 3 e) (.returned (.tuple #[.int .i64 s, .agg #[.bool true, .bool true, .int .i64 1]])) (stF W g true true 1)) := Lib.hid (fun W h => ⟨by rw [hp], stF_below HG.out h _ _ _⟩)
  clear hk hb hw1 hg hp h
  go_enter Try.func8, Try.ntmps8
  go_upto_region 1 with fail
  rw [← HW.out, ← HG.out]
  go_wp2_with fail
  with_reducible refine (HC.out).mono ?_
  rintro e w2 ⟨rfl, hb⟩
  have hk := HK.out.up hb
  obtain ⟨r0, r1, r2⟩ := hk.cells
  obtain ⟨f0, f1, f2⟩ := hk.loose
  have HB2 := Lib.hid (HB.out.trans (hb.mono HB.out.size))
  clear hb hk
  go_wp2_with fail
  refine bodyPost_ret (v := .tuple #[.int .i64 s, .agg #[.bool true, .bool true, .int .i64 1]]) (by simp [results, Try.results8, go_sem, r0, r1, r2]) rfl (HN.out _ HB2.out)
set_option maxRecDepth 100000 in
set_option maxHeartbeats 4000000 in
theorem vrc_0_8 (e : Bool) (w : World) : Calls Try.prog 8 #[.int .i64 0, .int .i64 8, .bool e] w (RPost w (recv 0 8 e)) := by
  obtain ⟨r, hp⟩ : ∃ r, r = rIdle 8 e := ⟨_, rfl⟩
  have hp2 : recv 0 8 e = r := by rw [hp]; rfl
  obtain ⟨hk, hb⟩ := kf_of w false false 0
  obtain ⟨w1, hw1⟩ : ∃ x, x = w.alloc (.cells #[.bool false, .bool false, .int .i64 0] 24) := ⟨_, rfl⟩
  obtain ⟨g, hg⟩ : ∃ g, g = w.heap.size := ⟨_, rfl⟩
  rw [← hw1, ← hg] at hk
  rw [← hw1] at hb
  have HG := Lib.hid hg
  have HB := Lib.hid hb
  have HW := Lib.hid hw1
  have HK := Lib.hid hk
  have HC := Lib.hid (vidle_f 8 e w1)
  rw [← hp] at HC
  have HN : Hid (∀ W, Below w.heap.size w W → RPost w (recv 0 8 e) (.returned (.tuple #[.int .i64 r.st, .agg #[.bool r.bad, .bool r.conn, .int .i64 r.code]])) (stF W g r.bad r.conn r.code)) := Lib.hid (fun W h => ⟨by rw [hp2], stF_below HG.out h _ _ _⟩)
  clear hk hb hw1 hg hp hp2
  go_enter Try.func8, Try.ntmps8
  go_upto_region 1 with fail
  rw [← HW.out, ← HG.out]
  go_wp2_with fail
  with_reducible refine (HC.out).mono ?_
  rintro e w2 ⟨rfl, hb⟩
  have hk := HK.out.up hb
  obtain ⟨r0, r1, r2⟩ := hk.cells
  obtain ⟨f0, f1, f2⟩ := hk.loose
  have HB2 := Lib.hid (HB.out.trans (hb.mono HB.out.size))
  clear hb hk
  go_wp2_with fail
  refine bodyPost_ret (v := .tuple #[.int .i64 r.st, .agg #[.bool r.bad, .bool r.conn, .int .i64 r.code]]) (by simp [results, Try.results8, go_sem, r0, r1, r2]) rfl (HN.out _ HB2.out)
set_option maxRecDepth 100000 in
set_option maxHeartbeats 4000000 in
theorem vrc_1_8 (e : Bool) (w : World) : Calls Try.prog 8 #[.int .i64 1, .int .i64 8, .bool e] w (RPost w (recv 1 8 e)) := by
  obtain ⟨r, hp⟩ : ∃ r, r = rOpen 8 e 1 2 := ⟨_, rfl⟩
  have hp2 : recv 1 8 e = r := by rw [hp]; rfl
  obtain ⟨hk, hb⟩ := kf_of w false false 0
  obtain ⟨w1, hw1⟩ : ∃ x, x = w.alloc (.cells #[.bool false, .bool false, .int .i64 0] 24) := ⟨_, rfl⟩
  obtain ⟨g, hg⟩ : ∃ g, g = w.heap.size := ⟨_, rfl⟩
  rw [← hw1, ← hg] at hk
  rw [← hw1] at hb
  have HG := Lib.hid hg
  have HB := Lib.hid hb
  have HW := Lib.hid hw1
  have HK := Lib.hid hk
  have HC := Lib.hid (vopen_f 8 e 1 2 w1)
  rw [← hp] at HC
  have HN : Hid (∀ W, Below w.heap.size w W → RPost w (recv 1 8 e) (.returned (.tuple #[.int .i64 r.st, .agg #[.bool r.bad, .bool r.conn, .int .i64 r.code]])) (stF W g r.bad r.conn r.code)) := Lib.hid (fun W h => ⟨by rw [hp2], stF_below HG.out h _ _ _⟩)
  clear hk hb hw1 hg hp hp2
  go_enter Try.func8, Try.ntmps8
  go_upto_region 1 with fail
  rw [← HW.out, ← HG.out]
  go_wp2_with fail
  with_reducible refine (HC.out).mono ?_
  rintro e w2 ⟨rfl, hb⟩
  have hk := HK.out.up hb
  obtain ⟨r0, r1, r2⟩ := hk.cells
  obtain ⟨f0, f1, f2⟩ := hk.loose
  have HB2 := Lib.hid (HB.out.trans (hb.mono HB.out.size))
  clear hb hk
  go_wp2_with fail
  refine bodyPost_ret (v := .tuple #[.int .i64 r.st, .agg #[.bool r.bad, .bool r.conn, .int .i64 r.code]]) (by simp [results, Try.results8, go_sem, r0, r1, r2]) rfl (HN.out _ HB2.out)
set_option maxRecDepth 100000 in
set_option maxHeartbeats 4000000 in
theorem vrc_2_8 (e : Bool) (w : World) : Calls Try.prog 8 #[.int .i64 2, .int .i64 8, .bool e] w (RPost w (recv 2 8 e)) := by
  obtain ⟨r, hp⟩ : ∃ r, r = rRemote 8 := ⟨_, rfl⟩
  have hp2 : recv 2 8 e = r := by rw [hp]; rfl
  obtain ⟨hk, hb⟩ := kf_of w false false 0
  obtain ⟨w1, hw1⟩ : ∃ x, x = w.alloc (.cells #[.bool false, .bool false, .int .i64 0] 24) := ⟨_, rfl⟩
  obtain ⟨g, hg⟩ : ∃ g, g = w.heap.size := ⟨_, rfl⟩
  rw [← hw1, ← hg] at hk
  rw [← hw1] at hb
  have HG := Lib.hid hg
  have HB := Lib.hid hb
  have HW := Lib.hid hw1
  have HK := Lib.hid hk
  have HC := Lib.hid (vremote_f 8 w1)
  rw [← hp] at HC
  have HN : Hid (∀ W, Below w.heap.size w W → RPost w (recv 2 8 e) (.returned (.tuple #[.int .i64 r.st, .agg #[.bool r.bad, .bool r.conn, .int .i64 r.code]])) (stF W g r.bad r.conn r.code)) := Lib.hid (fun W h => ⟨by rw [hp2], stF_below HG.out h _ _ _⟩)
  clear hk hb hw1 hg hp hp2
  go_enter Try.func8, Try.ntmps8
  go_upto_region 1 with fail
  rw [← HW.out, ← HG.out]
  go_wp2_with fail
  with_reducible refine (HC.out).mono ?_
  rintro e w2 ⟨rfl, hb⟩
  have hk := HK.out.up hb
  obtain ⟨r0, r1, r2⟩ := hk.cells
  obtain ⟨f0, f1, f2⟩ := hk.loose
  have HB2 := Lib.hid (HB.out.trans (hb.mono HB.out.size))
  clear hb hk
  go_wp2_with fail
  refine bodyPost_ret (v := .tuple #[.int .i64 r.st, .agg #[.bool r.bad, .bool r.conn, .int .i64 r.code]]) (by simp [results, Try.results8, go_sem, r0, r1, r2]) rfl (HN.out _ HB2.out)
set_option maxRecDepth 100000 in
set_option maxHeartbeats 4000000 in
theorem vrc_3_8 (e : Bool) (w : World) : Calls Try.prog 8 #[.int .i64 3, .int .i64 8, .bool e] w (RPost w (recv 3 8 e)) := by
  obtain ⟨r, hp⟩ : ∃ r, r = rOpen 8 e 3 4 := ⟨_, rfl⟩
  have hp2 : recv 3 8 e = r := by rw [hp]; rfl
  obtain ⟨hk, hb⟩ := kf_of w false false 0
  obtain ⟨w1, hw1⟩ : ∃ x, x = w.alloc (.cells #[.bool false, .bool false, .int .i64 0] 24) := ⟨_, rfl⟩
  obtain ⟨g, hg⟩ : ∃ g, g = w.heap.size := ⟨_, rfl⟩
  rw [← hw1, ← hg] at hk
  rw [← hw1] at hb
  have HG := Lib.hid hg
  have HB := Lib.hid hb
  have HW := Lib.hid hw1
  have HK := Lib.hid hk
  have HC := Lib.hid (vopen_f 8 e 3 4 w1)
  rw [← hp] at HC
  have HN : Hid (∀ W, Below w.heap.size w W → RPost w (recv 3 8 e) (.returned (.tuple #[.int .i64 r.st, .agg #[.bool r.bad, .bool r.conn, .int .i64 r.code]])) (stF W g r.bad r.conn r.code)) := Lib.hid (fun W h => ⟨by rw [hp2], stF_below HG.out h _ _ _⟩)
  clear hk hb hw1 hg hp hp2
  go_enter Try.func8, Try.ntmps8
  go_upto_region 1 with fail
  rw [← HW.out, ← HG.out]
  go_wp2_with fail
  with_reducible refine (HC.out).mono ?_
  rintro e w2 ⟨rfl, hb⟩
  have hk := HK.out.up hb
  obtain ⟨r0, r1, r2⟩ := hk.cells
  obtain ⟨f0, f1, f2⟩ := hk.loose
  have HB2 := Lib.hid (HB.out.trans (hb.mono HB.out.size))
  clear hb hk
  go_wp2_with fail
  refine bodyPost_ret (v := .tuple #[.int .i64 r.st, .agg #[.bool r.bad, .bool r.conn, .int .i64 r.code]]) (by simp [results, Try.results8, go_sem, r0, r1, r2]) rfl (HN.out _ HB2.out)
set_option maxRecDepth 100000 in
set_option maxHeartbeats 4000000 in
theorem vrc_4_8 (e : Bool) (w : World) : Calls Try.prog 8 #[.int .i64 4, .int .i64 8, .bool e] w (RPost w (recv 4 8 e)) := by
  obtain ⟨r, hp⟩ : ∃ r, r = rClosed 8 := ⟨_, rfl⟩
  have hp2 : recv 4 8 e = r := by rw [hp]; rfl
  obtain ⟨hk, hb⟩ := kf_of w false false 0
  obtain ⟨w1, hw1⟩ : ∃ x, x = w.alloc (.cells #[.bool false, .bool false, .int .i64 0] 24) := ⟨_, rfl⟩
  obtain ⟨g, hg⟩ : ∃ g, g = w.heap.size := ⟨_, rfl⟩
  rw [← hw1, ← hg] at hk
  rw [← hw1] at hb
  have HG := Lib.hid hg
  have HB := Lib.hid hb
  have HW := Lib.hid hw1
  have HK := Lib.hid hk
  have HC := Lib.hid (vclosed_f 8 w1)
  rw [← hp] at HC
  have HN : Hid (∀ W, Below w.heap.size w W → RPost w (recv 4 8 e) (.returned (.tuple #[.int .i64 r.st, .agg #[.bool r.bad, .bool r.conn, .int .i64 r.code]])) (stF W g r.bad r.conn r.code)) := Lib.hid (fun W h => ⟨by rw [hp2], stF_below HG.out h _ _ _⟩)
  clear hk hb hw1 hg hp hp2
  go_enter Try.func8, Try.ntmps8
  go_upto_region 1 with fail
  rw [← HW.out, ← HG.out]
  go_wp2_with fail
  with_reducible refine (HC.out).mono ?_
  rintro e w2 ⟨rfl, hb⟩
  have hk := HK.out.up hb
  obtain ⟨r0, r1, r2⟩ := hk.cells
  obtain ⟨f0, f1, f2⟩ := hk.loose
  have HB2 := Lib.hid (HB.out.trans (hb.mono HB.out.size))
  clear hb hk
  go_wp2_with fail
  refine bodyPost_ret (v := .tuple #[.int .i64 r.st, .agg #[.bool r.bad, .bool r.conn, .int .i64 r.code]]) (by simp [results, Try.results8, go_sem, r0, r1, r2]) rfl (HN.out _ HB2.out)
set_option maxRecDepth 100000 in
set_option maxHeartbeats 4000000 in
theorem vrc_5_8 (e : Bool) (w : World) : Calls Try.prog 8 #[.int .i64 5, .int .i64 8, .bool e] w (RPost w (recv 5 8 e)) := by
  have hp : recv 5 8 e = ⟨5, false, false, 0⟩ := by rfl
  obtain ⟨hk, hb⟩ := kf_of w false false 0
  obtain ⟨w1, hw1⟩ : ∃ x, x = w.alloc (.cells #[.bool false, .bool false, .int .i64 0] 24) := ⟨_, rfl⟩
  obtain ⟨g, hg⟩ : ∃ g, g = w.heap.size := ⟨_, rfl⟩
  rw [← hw1, ← hg] at hk
  rw [← hw1] at hb
  have HG := Lib.hid hg
  have HB := Lib.hid hb
  have HW := Lib.hid hw1
  obtain ⟨r0, r1, r2⟩ := hk.cells
  obtain ⟨f0, f1, f2⟩ := hk.loose
  have HN : Hid (RPost w (recv 5 8 e) (.returned (.tuple #[.int .i64 5, .agg #[.bool false, .bool false, .int .i64 0]])) (stF w1 g false false 0)) := Lib.hid ⟨by rw [hp], stF_below HG.out HB.out _ _ _⟩
  clear hk hb hw1 hg hp
  go_enter Try.func8, Try.ntmps8
  go_upto_region 1 with fail
  rw [← HW.out, ← HG.out]
  go_wp2_with fail
  refine bodyPost_ret (v := .tuple #[.int .i64 5, .agg #[.bool false, .bool false, .int .i64 0]]) (by simp [results, Try.results8, go_sem, r0, r1, r2]) rfl (HN.out)
set_option maxRecDepth 100000 in
set_option maxHeartbeats 4000000 in
theorem vrc_x_8 (s : Int) (e : Bool) (w : World) (h : ¬ s = 0 ∧ ¬ s = 1 ∧ ¬ s = 2 ∧ ¬ s = 3 ∧ ¬ s = 4 ∧ ¬ s = 5) : Calls Try.prog 8 #[.int .i64 s, .int .i64 8, .bool e] w (RPost w (recv s 8 e)) := by
  have hp : recv s 8 e = ⟨s, true, true, 1⟩ := by unfold recv; rw [if_pos (by decide), if_neg (by omega), if_neg (by omega), if_neg (by omega), if_neg (by omega), if_neg (by omega), if_neg (by omega)]
  have s0b : (s == 0) = false := bne (by omega)
  have s0n : (s != 0) = true := nbt (by omega)
  have s1b : (s == 1) = false := bne (by omega)
  have s1n : (s != 1) = true := nbt (by omega)
  have s2b : (s == 2) = false := bne (by omega)
  have s2n : (s != 2) = true := nbt (by omega)
  have s3b : (s == 3) = false := bne (by omega)
  have s3n : (s != 3) = true := nbt (by omega)
  have s4b : (s == 4) = false := bne (by omega)
  have s4n : (s != 4) = true := nbt (by omega)
  have s5b : (s == 5) = false := bne (by omega)
  have s5n : (s != 5) = true := nbt (by omega)
  obtain ⟨hk, hb⟩ := kf_of w false false 0
  obtain ⟨w1, hw1⟩ : ∃ x, x = w.alloc (.cells #[.bool false, .bool false, .int .i64 0] 24) := ⟨_, rfl⟩
  obtain ⟨g, hg⟩ : ∃ g, g = w.heap.size := ⟨_, rfl⟩
  rw [← hw1, ← hg] at hk
  rw [← hw1] at hb
  have HG := Lib.hid hg
  have HB := Lib.hid hb
  have HW := Lib.hid hw1
  have HK := Lib.hid hk
  have HC := Lib.hid (vofconn_f 1 w1)
  have HN : Hid (∀ W, Below w.heap.size w W → RPost w (recv s 8 e) (.returned (.tuple #[.int .i64 s, .agg #[.bool true, .bool true, .int .i64 1]])) (stF W g true true 1)) := Lib.hid (fun W h => ⟨by rw [hp], stF_below HG.out h _ _ _⟩)
  clear hk hb hw1 hg hp h
  go_enter Try.func8, Try.ntmps8
  go_upto_region 1 with fail
  rw [← HW.out, ← HG.out]
  go_wp2_with fail
  with_reducible refine (HC.out).mono ?_
  rintro e w2 ⟨rfl, hb⟩
  have hk := HK.out.up hb
  obtain ⟨r0, r1, r2⟩ := hk.cells
  obtain ⟨f0, f1, f2⟩ := hk.loose
  have HB2 := Lib.hid (HB.out.trans (hb.mono HB.out.size))
  clear hb hk
  go_wp2_with fail
  refine bodyPost_ret (v := .tuple #[.int .i64 s, .agg #[.bool true, .bool true, .int .i64 1]]) (by simp [results, Try.results8, go_sem, r0, r1, r2]) rfl (HN.out _ HB2.out)
theorem vrecv_f (s k : Int) (e : Bool) (w : World) : Calls Try.prog 8 #[.int .i64 s, .int .i64 k, .bool e] w (RPost w (recv s k e)) := by
  by_cases k0 : k = 0
  · subst k0
    by_cases s0 : s = 0
    · subst s0; exact vrc_0_0 e w
    by_cases s1 : s = 1
    · subst s1; exact vrc_1_0 e w
    by_cases s2 : s = 2
    · subst s2; exact vrc_2_0 e w
    by_cases s3 : s = 3
    · subst s3; exact vrc_3_0 e w
    by_cases s4 : s = 4
    · subst s4; exact vrc_4_0 e w
    by_cases s5 : s = 5
    · subst s5; exact vrc_5_0 e w
    exact vrc_x_0 s e w ⟨s0, s1, s2, s3, s4, s5⟩
  by_cases k1 : k = 1
  · subst k1
    by_cases s0 : s = 0
    · subst s0; exact vrc_0_1 e w
    by_cases s1 : s = 1
    · subst s1; exact vrc_1_1 e w
    by_cases s2 : s = 2
    · subst s2; exact vrc_2_1 e w
    by_cases s3 : s = 3
    · subst s3; exact vrc_3_1 e w
    by_cases s4 : s = 4
    · subst s4; exact vrc_4_1 e w
    by_cases s5 : s = 5
    · subst s5; exact vrc_5_1 e w
    exact vrc_x_1 s e w ⟨s0, s1, s2, s3, s4, s5⟩
  by_cases k2 : k = 2
  · subst k2
    by_cases s0 : s = 0
    · subst s0; exact vrc_0_2 e w
    by_cases s1 : s = 1
    · subst s1; exact vrc_1_2 e w
    by_cases s2 : s = 2
    · subst s2; exact vrc_2_2 e w
    by_cases s3 : s = 3
    · subst s3; exact vrc_3_2 e w
    by_cases s4 : s = 4
    · subst s4; exact vrc_4_2 e w
    by_cases s5 : s = 5
    · subst s5; exact vrc_5_2 e w
    exact vrc_x_2 s e w ⟨s0, s1, s2, s3, s4, s5⟩
  by_cases k3 : k = 3
  · subst k3
    by_cases s0 : s = 0
    · subst s0; exact vrc_0_3 e w
    by_cases s1 : s = 1
    · subst s1; exact vrc_1_3 e w
    by_cases s2 : s = 2
    · subst s2; exact vrc_2_3 e w
    by_cases s3 : s = 3
    · subst s3; exact vrc_3_3 e w
    by_cases s4 : s = 4
    · subst s4; exact vrc_4_3 e w
    by_cases s5 : s = 5
    · subst s5; exact vrc_5_3 e w
    exact vrc_x_3 s e w ⟨s0, s1, s2, s3, s4, s5⟩
  by_cases k8 : k = 8
  · subst k8
    by_cases s0 : s = 0
    · subst s0; exact vrc_0_8 e w
    by_cases s1 : s = 1
    · subst s1; exact vrc_1_8 e w
    by_cases s2 : s = 2
    · subst s2; exact vrc_2_8 e w
    by_cases s3 : s = 3
    · subst s3; exact vrc_3_8 e w
    by_cases s4 : s = 4
    · subst s4; exact vrc_4_8 e w
    by_cases s5 : s = 5
    · subst s5; exact vrc_5_8 e w
    exact vrc_x_8 s e w ⟨s0, s1, s2, s3, s4, s5⟩
  exact vrc_k s k e w ⟨k0, k1, k2, k3, k8⟩
set_option maxRecDepth 100000 in
set_option maxHeartbeats 4000000 in
theorem vmo_1t (w : World) : Calls Try.prog 18 #[.int .i64 1, .bool true] w (SdPost w (sMore 1 true)) := by
  have hp : sMore 1 true = (3, true) := by rfl
  rw [hp]
  clear hp
  go_enter Try.func18, Try.ntmps18
  go_wp2_with fail
  go_ret2
  exact ⟨rfl, Below.refl _ _⟩
set_option maxRecDepth 100000 in
set_option maxHeartbeats 4000000 in
theorem vmo_1f (w : World) : Calls Try.prog 18 #[.int .i64 1, .bool false] w (SdPost w (sMore 1 false)) := by
  have hp : sMore 1 false = (1, true) := by rfl
  rw [hp]
  clear hp
  go_enter Try.func18, Try.ntmps18
  go_wp2_with fail
  go_ret2
  exact ⟨rfl, Below.refl _ _⟩
set_option maxRecDepth 100000 in
set_option maxHeartbeats 4000000 in
theorem vmo_2t (w : World) : Calls Try.prog 18 #[.int .i64 2, .bool true] w (SdPost w (sMore 2 true)) := by
  have hp : sMore 2 true = (4, true) := by rfl
  rw [hp]
  clear hp
  go_enter Try.func18, Try.ntmps18
  go_wp2_with fail
  go_ret2
  exact ⟨rfl, Below.refl _ _⟩
set_option maxRecDepth 100000 in
set_option maxHeartbeats 4000000 in
theorem vmo_2f (w : World) : Calls Try.prog 18 #[.int .i64 2, .bool false] w (SdPost w (sMore 2 false)) := by
  have hp : sMore 2 false = (2, true) := by rfl
  rw [hp]
  clear hp
  go_enter Try.func18, Try.ntmps18
  go_wp2_with fail
  go_ret2
  exact ⟨rfl, Below.refl _ _⟩
set_option maxRecDepth 100000 in
set_option maxHeartbeats 4000000 in
theorem vmo_x (s : Int) (e : Bool) (w : World) (h : ¬ s = 1 ∧ ¬ s = 2) : Calls Try.prog 18 #[.int .i64 s, .bool e] w (SdPost w (sMore s e)) := by
  have hp : sMore s e = (s, false) := by unfold sMore; rw [if_neg h.1, if_neg h.2]
  rw [hp]
  have s1b : (s == 1) = false := bne (by omega)
  have s1n : (s != 1) = true := nbt (by omega)
  have s2b : (s == 2) = false := bne (by omega)
  have s2n : (s != 2) = true := nbt (by omega)
  clear hp h
  go_enter Try.func18, Try.ntmps18
  go_wp2_with fail
  go_ret2
  exact ⟨rfl, Below.refl _ _⟩
theorem vmore_f (s : Int) (e : Bool) (w : World) : Calls Try.prog 18 #[.int .i64 s, .bool e] w (SdPost w (sMore s e)) := by
  by_cases h1 : s = 1
  · subst h1; cases e
    · exact vmo_1f w
    · exact vmo_1t w
  by_cases h2 : s = 2
  · subst h2; cases e
    · exact vmo_2f w
    · exact vmo_2t w
  exact vmo_x s e w ⟨h1, h2⟩
set_option maxRecDepth 100000 in
set_option maxHeartbeats 4000000 in
theorem vsr_1 (w : World) : Calls Try.prog 19 #[.int .i64 1] w (SdPost w (sRst 1)) := by
  have hp : sRst 1 = (5, true) := by rfl
  rw [hp]
  clear hp
  go_enter Try.func19, Try.ntmps19
  go_wp2_with fail
  go_ret2
  exact ⟨rfl, Below.refl _ _⟩
set_option maxRecDepth 100000 in
set_option maxHeartbeats 4000000 in
theorem vsr_2 (w : World) : Calls Try.prog 19 #[.int .i64 2] w (SdPost w (sRst 2)) := by
  have hp : sRst 2 = (5, true) := by rfl
  rw [hp]
  clear hp
  go_enter Try.func19, Try.ntmps19
  go_wp2_with fail
  go_ret2
  exact ⟨rfl, Below.refl _ _⟩
set_option maxRecDepth 100000 in
set_option maxHeartbeats 4000000 in
theorem vsr_3 (w : World) : Calls Try.prog 19 #[.int .i64 3] w (SdPost w (sRst 3)) := by
  have hp : sRst 3 = (5, true) := by rfl
  rw [hp]
  clear hp
  go_enter Try.func19, Try.ntmps19
  go_wp2_with fail
  go_ret2
  exact ⟨rfl, Below.refl _ _⟩
set_option maxRecDepth 100000 in
set_option maxHeartbeats 4000000 in
theorem vsu_1 (w : World) : Calls Try.prog 20 #[.int .i64 1] w (SdPost w (sUpd 1)) := by
  have hp : sUpd 1 = (1, true) := by rfl
  rw [hp]
  clear hp
  go_enter Try.func20, Try.ntmps20
  go_wp2_with fail
  go_ret2
  exact ⟨rfl, Below.refl _ _⟩
set_option maxRecDepth 100000 in
set_option maxHeartbeats 4000000 in
theorem vsu_3 (w : World) : Calls Try.prog 20 #[.int .i64 3] w (SdPost w (sUpd 3)) := by
  have hp : sUpd 3 = (3, true) := by rfl
  rw [hp]
  clear hp
  go_enter Try.func20, Try.ntmps20
  go_wp2_with fail
  go_ret2
  exact ⟨rfl, Below.refl _ _⟩
set_option maxRecDepth 100000 in
set_option maxHeartbeats 4000000 in
theorem vsr_x (s : Int) (w : World) (h : ¬ s = 1 ∧ ¬ s = 2 ∧ ¬ s = 3) : Calls Try.prog 19 #[.int .i64 s] w (SdPost w (sRst s)) := by
  have hp : sRst s = (s, false) := by unfold sRst; rw [if_neg (by omega)]
  rw [hp]
  have s1b : (s == 1) = false := bne (by omega)
  have s1n : (s != 1) = true := nbt (by omega)
  have s2b : (s == 2) = false := bne (by omega)
  have s2n : (s != 2) = true := nbt (by omega)
  have s3b : (s == 3) = false := bne (by omega)
  have s3n : (s != 3) = true := nbt (by omega)
  clear hp h
  go_enter Try.func19, Try.ntmps19
  go_wp2_with fail
  go_ret2
  exact ⟨rfl, Below.refl _ _⟩
set_option maxRecDepth 100000 in
set_option maxHeartbeats 4000000 in
theorem vsu_x (s : Int) (w : World) (h : ¬ s = 1 ∧ ¬ s = 3) : Calls Try.prog 20 #[.int .i64 s] w (SdPost w (sUpd s)) := by
  have hp : sUpd s = (s, false) := by unfold sUpd; rw [if_neg (by omega)]
  rw [hp]
  have s1b : (s == 1) = false := bne (by omega)
  have s1n : (s != 1) = true := nbt (by omega)
  have s3b : (s == 3) = false := bne (by omega)
  have s3n : (s != 3) = true := nbt (by omega)
  clear hp h
  go_enter Try.func20, Try.ntmps20
  go_wp2_with fail
  go_ret2
  exact ⟨rfl, Below.refl _ _⟩
theorem vsrst_f (s : Int) (w : World) : Calls Try.prog 19 #[.int .i64 s] w (SdPost w (sRst s)) := by
  by_cases h1 : s = 1
  · subst h1; exact vsr_1 w
  by_cases h2 : s = 2
  · subst h2; exact vsr_2 w
  by_cases h3 : s = 3
  · subst h3; exact vsr_3 w
  exact vsr_x s w ⟨h1, h2, h3⟩
theorem vsupd_f (s : Int) (w : World) : Calls Try.prog 20 #[.int .i64 s] w (SdPost w (sUpd s)) := by
  by_cases h1 : s = 1
  · subst h1; exact vsu_1 w
  by_cases h3 : s = 3
  · subst h3; exact vsu_3 w
  exact vsu_x s w ⟨h1, h3⟩
set_option maxRecDepth 100000 in
set_option maxHeartbeats 4000000 in
theorem vsd_0 (s : Int) (e : Bool) (w : World) : Calls Try.prog 10 #[.int .i64 s, .int .i64 0, .bool e] w (SdPost w (send s 0 e)) := by
  obtain ⟨r, hp⟩ : ∃ r, r = sMore s e := ⟨_, rfl⟩
  have hp2 : send s 0 e = r := by rw [hp]; rfl
  rw [hp2]
  have HC := Lib.hid (vmore_f s e w)
  rw [← hp] at HC
  clear hp hp2
  go_enter Try.func10, Try.ntmps10
  go_wp2_with fail
  with_reducible refine (HC.out).mono ?_
  rintro e w2 ⟨rfl, hb⟩
  have HB := Lib.hid hb
  clear hb
  go_wp2_with fail
  go_ret2
  exact ⟨rfl, HB.out⟩
set_option maxRecDepth 100000 in
set_option maxHeartbeats 4000000 in
theorem vsd_1 (s : Int) (e : Bool) (w : World) : Calls Try.prog 10 #[.int .i64 s, .int .i64 1, .bool e] w (SdPost w (send s 1 e)) := by
  obtain ⟨r, hp⟩ : ∃ r, r = sMore s e := ⟨_, rfl⟩
  have hp2 : send s 1 e = r := by rw [hp]; rfl
  rw [hp2]
  have HC := Lib.hid (vmore_f s e w)
  rw [← hp] at HC
  clear hp hp2
  go_enter Try.func10, Try.ntmps10
  go_wp2_with fail
  with_reducible refine (HC.out).mono ?_
  rintro e w2 ⟨rfl, hb⟩
  have HB := Lib.hid hb
  clear hb
  go_wp2_with fail
  go_ret2
  exact ⟨rfl, HB.out⟩
set_option maxRecDepth 100000 in
set_option maxHeartbeats 4000000 in
theorem vsd_3 (s : Int) (e : Bool) (w : World) : Calls Try.prog 10 #[.int .i64 s, .int .i64 3, .bool e] w (SdPost w (send s 3 e)) := by
  obtain ⟨r, hp⟩ : ∃ r, r = sRst s := ⟨_, rfl⟩
  have hp2 : send s 3 e = r := by rw [hp]; rfl
  rw [hp2]
  have HC := Lib.hid (vsrst_f s w)
  rw [← hp] at HC
  clear hp hp2
  go_enter Try.func10, Try.ntmps10
  go_wp2_with fail
  with_reducible refine (HC.out).mono ?_
  rintro e w2 ⟨rfl, hb⟩
  have HB := Lib.hid hb
  clear hb
  go_wp2_with fail
  go_ret2
  exact ⟨rfl, HB.out⟩
set_option maxRecDepth 100000 in
set_option maxHeartbeats 4000000 in
theorem vsd_8 (s : Int) (e : Bool) (w : World) : Calls Try.prog 10 #[.int .i64 s, .int .i64 8, .bool e] w (SdPost w (send s 8 e)) := by
  obtain ⟨r, hp⟩ : ∃ r, r = sUpd s := ⟨_, rfl⟩
  have hp2 : send s 8 e = r := by rw [hp]; rfl
  rw [hp2]
  have HC := Lib.hid (vsupd_f s w)
  rw [← hp] at HC
  clear hp hp2
  go_enter Try.func10, Try.ntmps10
  go_wp2_with fail
  with_reducible refine (HC.out).mono ?_
  rintro e w2 ⟨rfl, hb⟩
  have HB := Lib.hid hb
  clear hb
  go_wp2_with fail
  go_ret2
  exact ⟨rfl, HB.out⟩
set_option maxRecDepth 100000 in
set_option maxHeartbeats 4000000 in
theorem vsd_x (s k : Int) (e : Bool) (w : World) (h : ¬ k = 0 ∧ ¬ k = 1 ∧ ¬ k = 3 ∧ ¬ k = 8) : Calls Try.prog 10 #[.int .i64 s, .int .i64 k, .bool e] w (SdPost w (send s k e)) := by
  have hp : send s k e = (s, true) := by unfold send; rw [if_neg (by omega), if_neg (by omega), if_neg (by omega)]
  rw [hp]
  have k0b : (k == 0) = false := bne (by omega)
  have k0n : (k != 0) = true := nbt (by omega)
  have k1b : (k == 1) = false := bne (by omega)
  have k1n : (k != 1) = true := nbt (by omega)
  have k3b : (k == 3) = false := bne (by omega)
  have k3n : (k != 3) = true := nbt (by omega)
  have k8b : (k == 8) = false := bne (by omega)
  have k8n : (k != 8) = true := nbt (by omega)
  clear hp h
  go_enter Try.func10, Try.ntmps10
  go_wp2_with fail
  go_ret2
  exact ⟨rfl, Below.refl _ _⟩
theorem vsend_f (s k : Int) (e : Bool) (w : World) : Calls Try.prog 10 #[.int .i64 s, .int .i64 k, .bool e] w (SdPost w (send s k e)) := by
  by_cases h0 : k = 0
  · subst h0; exact vsd_0 s e w
  by_cases h1 : k = 1
  · subst h1; exact vsd_1 s e w
  by_cases h3 : k = 3
  · subst h3; exact vsd_3 s e w
  by_cases h8 : k = 8
  · subst h8; exact vsd_8 s e w
  exact vsd_x s k e w ⟨h0, h1, h3, h8⟩
end Go.Proofs.Ytkncolgdjnhcoaa
