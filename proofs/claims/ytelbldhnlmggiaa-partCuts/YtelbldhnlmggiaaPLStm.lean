/- The landed ofStream. -/
import Derived.Test.YtelbldhnlmggiaaPLNum
import Derived.Test.YtelbldhnlmggiaaPLSmall
import Derived.Test.YtelbldhnlmggiaaLJump
import Derived.Test.YtelbldhnlmggiaaFVal
import Derived.Test.YtelbldhnlmggiaaLClone
import Derived.Deep.DeepCutAuto
namespace Go.Proofs.Ytelbldhnlmggiaa
open Go.RowKit Fr

set_option maxRecDepth 100000 in
set_option maxHeartbeats 4000000 in
theorem pstm2_a (F S : Int) (l : List Nat) (A : Option Addr) (n c : Nat) (w : World) (hs : S = 0) :
    Calls Try.prog 18 #[.agg #[.int .i64 2, .int .i64 F, .int .i64 S, .slice A n c]] w (PtPost w (noPrt, ⟨true, true, 1⟩)) := by
  have k1 : (S == 0) = true := by rw [hs]; rfl
  have k2 : (S != 0) = false := by rw [hs]; rfl
  clear hs
  obtain ⟨T0, hbl, hsz⟩ := four_of w (⟨2, F, S, l⟩ : Frm) A n c
  obtain ⟨g, hg⟩ : ∃ g, g = w.heap.size := ⟨_, rfl⟩
  obtain ⟨w1, hw1⟩ : ∃ w1, w1 = w4of w (⟨2, F, S, l⟩ : Frm) A n c := ⟨_, rfl⟩
  rw [← hw1, ← hg] at T0
  rw [← hw1] at hbl hsz
  have hw1' : w1 = ((((w.alloc (.cells #[.int .i64 2, .int .i64 F, .int .i64 S, .slice A n c] 34)).alloc (.cells #[.slice none 0 0, .int .i64 0, .int .i64 0, .int .i64 0, .int .i64 0, .slice none 0 0, .bool false, .bool false, .bool false] 28)).alloc (.cells #[.bool false, .bool false, .int .i64 0] 30)).alloc (.cells #[.slice none 0 0, .int .i64 0, .int .i64 0, .int .i64 0, .int .i64 0, .slice none 0 0, .bool false, .bool false, .bool false] 28)) := hw1
  obtain ⟨x0, x1, x2, x3⟩ := three_frm T0.1
  simp only [] at x0 x1 x2 x3
  have HT := Lib.hid T0
  have HW := Lib.hid hw1'
  have HG := Lib.hid hg
  have HBL := Lib.hid hbl
  have HSZ : Hid (w1.heap.size = g + 1 + 1 + 1 + 1) := Lib.hid (by rw [hsz, hg])
  clear T0 hw1' hw1 hg hbl hsz
  go_enter Try.func18, Try.ntmps18
  go_wp2
  refine wp_scope_fuel 4 ?_
  go_upto_region 2 with fail
  rw [← HW.out, ← HG.out]
  go_wp2
  go_step3
  refine JF.go (k := 3) rfl ?_
  go_wp2_with fail
  with_reducible refine (pfault_any 1 w1).mono ?_
  rintro e w9 ⟨rfl, hb9⟩
  have T9 := HT.out.up hb9
  have r0 : w9.cell? ⟨g + 1, 0, none⟩ = some (.slice none 0 0) := cell_of_row _ (g + 1) 0 _ 28 _ T9.1.2.1
  have r1 : w9.cell? ⟨g + 1, 1, none⟩ = some (.int .i64 0) := cell_of_row _ (g + 1) 1 _ 28 _ T9.1.2.1
  have r2 : w9.cell? ⟨g + 1, 2, none⟩ = some (.int .i64 0) := cell_of_row _ (g + 1) 2 _ 28 _ T9.1.2.1
  have r3 : w9.cell? ⟨g + 1, 3, none⟩ = some (.int .i64 0) := cell_of_row _ (g + 1) 3 _ 28 _ T9.1.2.1
  have r4 : w9.cell? ⟨g + 1, 4, none⟩ = some (.int .i64 0) := cell_of_row _ (g + 1) 4 _ 28 _ T9.1.2.1
  have r5 : w9.cell? ⟨g + 1, 5, none⟩ = some (.slice none 0 0) := cell_of_row _ (g + 1) 5 _ 28 _ T9.1.2.1
  have r6 : w9.cell? ⟨g + 1, 6, none⟩ = some (.bool false) := cell_of_row _ (g + 1) 6 _ 28 _ T9.1.2.1
  have r7 : w9.cell? ⟨g + 1, 7, none⟩ = some (.bool false) := cell_of_row _ (g + 1) 7 _ 28 _ T9.1.2.1
  have r8 : w9.cell? ⟨g + 1, 8, none⟩ = some (.bool false) := cell_of_row _ (g + 1) 8 _ 28 _ T9.1.2.1
  have t0 : w9.cell? ⟨g + 1 + 1, 0, none⟩ = some (.bool false) := cell_of_row _ (g + 1 + 1) 0 _ 30 _ T9.1.2.2
  have t1 : w9.cell? ⟨g + 1 + 1, 1, none⟩ = some (.bool false) := cell_of_row _ (g + 1 + 1) 1 _ 30 _ T9.1.2.2
  have t2 : w9.cell? ⟨g + 1 + 1, 2, none⟩ = some (.int .i64 0) := cell_of_row _ (g + 1 + 1) 2 _ 30 _ T9.1.2.2
  obtain ⟨f0, f1, f2, f3, f4, f5, f6, f7, f8, u0, u1, u2⟩ := three_froz T9.1
  have HN : Hid (PtPost w (noPrt, ⟨true, true, 1⟩) (.returned (.tuple #[.agg #[.slice none 0 0, .int .i64 0, .int .i64 0, .int .i64 0, .int .i64 0, .slice none 0 0, .bool false, .bool false, .bool false], .agg #[.bool true, .bool true, .int .i64 1]])) (stores w9 g (.slice none 0 0) (.int .i64 0) (.int .i64 0) (.int .i64 0) (.int .i64 0) (.slice none 0 0) (.bool false) (.bool false) (.bool false) (.bool true) (.bool true) (.int .i64 1))) := Lib.hid (rd_bare HG.out (HBL.out.trans (hb9.mono HBL.out.size)) rfl rfl _ _ _ _ _ _ _ _ _ _ _ _)
  clear T9 hb9
  go_wp2
  simp only [jumpsTo]
  refine bodyPost_ret (v := .tuple #[.agg #[.slice none 0 0, .int .i64 0, .int .i64 0, .int .i64 0, .int .i64 0, .slice none 0 0, .bool false, .bool false, .bool false], .agg #[.bool true, .bool true, .int .i64 1]]) (by simp [results, Try.results18, go_sem, r0, r1, r2, r3, r4, r5, r6, r7, r8, t0, t1, t2]) rfl HN.out
set_option maxRecDepth 100000 in
set_option maxHeartbeats 4000000 in
theorem pstm3_a (F S : Int) (l : List Nat) (A : Option Addr) (n c : Nat) (w : World) (hs : S = 0) :
    Calls Try.prog 18 #[.agg #[.int .i64 3, .int .i64 F, .int .i64 S, .slice A n c]] w (PtPost w (noPrt, ⟨true, true, 1⟩)) := by
  have k1 : (S == 0) = true := by rw [hs]; rfl
  have k2 : (S != 0) = false := by rw [hs]; rfl
  clear hs
  obtain ⟨T0, hbl, hsz⟩ := four_of w (⟨3, F, S, l⟩ : Frm) A n c
  obtain ⟨g, hg⟩ : ∃ g, g = w.heap.size := ⟨_, rfl⟩
  obtain ⟨w1, hw1⟩ : ∃ w1, w1 = w4of w (⟨3, F, S, l⟩ : Frm) A n c := ⟨_, rfl⟩
  rw [← hw1, ← hg] at T0
  rw [← hw1] at hbl hsz
  have hw1' : w1 = ((((w.alloc (.cells #[.int .i64 3, .int .i64 F, .int .i64 S, .slice A n c] 34)).alloc (.cells #[.slice none 0 0, .int .i64 0, .int .i64 0, .int .i64 0, .int .i64 0, .slice none 0 0, .bool false, .bool false, .bool false] 28)).alloc (.cells #[.bool false, .bool false, .int .i64 0] 30)).alloc (.cells #[.slice none 0 0, .int .i64 0, .int .i64 0, .int .i64 0, .int .i64 0, .slice none 0 0, .bool false, .bool false, .bool false] 28)) := hw1
  obtain ⟨x0, x1, x2, x3⟩ := three_frm T0.1
  simp only [] at x0 x1 x2 x3
  have HT := Lib.hid T0
  have HW := Lib.hid hw1'
  have HG := Lib.hid hg
  have HBL := Lib.hid hbl
  have HSZ : Hid (w1.heap.size = g + 1 + 1 + 1 + 1) := Lib.hid (by rw [hsz, hg])
  clear T0 hw1' hw1 hg hbl hsz
  go_enter Try.func18, Try.ntmps18
  go_wp2
  refine wp_scope_fuel 4 ?_
  go_upto_region 2 with fail
  rw [← HW.out, ← HG.out]
  go_wp2
  go_step3
  refine JF.go (k := 3) rfl ?_
  go_wp2_with fail
  with_reducible refine (pfault_any 1 w1).mono ?_
  rintro e w9 ⟨rfl, hb9⟩
  have T9 := HT.out.up hb9
  have r0 : w9.cell? ⟨g + 1, 0, none⟩ = some (.slice none 0 0) := cell_of_row _ (g + 1) 0 _ 28 _ T9.1.2.1
  have r1 : w9.cell? ⟨g + 1, 1, none⟩ = some (.int .i64 0) := cell_of_row _ (g + 1) 1 _ 28 _ T9.1.2.1
  have r2 : w9.cell? ⟨g + 1, 2, none⟩ = some (.int .i64 0) := cell_of_row _ (g + 1) 2 _ 28 _ T9.1.2.1
  have r3 : w9.cell? ⟨g + 1, 3, none⟩ = some (.int .i64 0) := cell_of_row _ (g + 1) 3 _ 28 _ T9.1.2.1
  have r4 : w9.cell? ⟨g + 1, 4, none⟩ = some (.int .i64 0) := cell_of_row _ (g + 1) 4 _ 28 _ T9.1.2.1
  have r5 : w9.cell? ⟨g + 1, 5, none⟩ = some (.slice none 0 0) := cell_of_row _ (g + 1) 5 _ 28 _ T9.1.2.1
  have r6 : w9.cell? ⟨g + 1, 6, none⟩ = some (.bool false) := cell_of_row _ (g + 1) 6 _ 28 _ T9.1.2.1
  have r7 : w9.cell? ⟨g + 1, 7, none⟩ = some (.bool false) := cell_of_row _ (g + 1) 7 _ 28 _ T9.1.2.1
  have r8 : w9.cell? ⟨g + 1, 8, none⟩ = some (.bool false) := cell_of_row _ (g + 1) 8 _ 28 _ T9.1.2.1
  have t0 : w9.cell? ⟨g + 1 + 1, 0, none⟩ = some (.bool false) := cell_of_row _ (g + 1 + 1) 0 _ 30 _ T9.1.2.2
  have t1 : w9.cell? ⟨g + 1 + 1, 1, none⟩ = some (.bool false) := cell_of_row _ (g + 1 + 1) 1 _ 30 _ T9.1.2.2
  have t2 : w9.cell? ⟨g + 1 + 1, 2, none⟩ = some (.int .i64 0) := cell_of_row _ (g + 1 + 1) 2 _ 30 _ T9.1.2.2
  obtain ⟨f0, f1, f2, f3, f4, f5, f6, f7, f8, u0, u1, u2⟩ := three_froz T9.1
  have HN : Hid (PtPost w (noPrt, ⟨true, true, 1⟩) (.returned (.tuple #[.agg #[.slice none 0 0, .int .i64 0, .int .i64 0, .int .i64 0, .int .i64 0, .slice none 0 0, .bool false, .bool false, .bool false], .agg #[.bool true, .bool true, .int .i64 1]])) (stores w9 g (.slice none 0 0) (.int .i64 0) (.int .i64 0) (.int .i64 0) (.int .i64 0) (.slice none 0 0) (.bool false) (.bool false) (.bool false) (.bool true) (.bool true) (.int .i64 1))) := Lib.hid (rd_bare HG.out (HBL.out.trans (hb9.mono HBL.out.size)) rfl rfl _ _ _ _ _ _ _ _ _ _ _ _)
  clear T9 hb9
  go_wp2
  simp only [jumpsTo]
  refine bodyPost_ret (v := .tuple #[.agg #[.slice none 0 0, .int .i64 0, .int .i64 0, .int .i64 0, .int .i64 0, .slice none 0 0, .bool false, .bool false, .bool false], .agg #[.bool true, .bool true, .int .i64 1]]) (by simp [results, Try.results18, go_sem, r0, r1, r2, r3, r4, r5, r6, r7, r8, t0, t1, t2]) rfl HN.out
set_option maxRecDepth 100000 in
set_option maxHeartbeats 4000000 in
theorem pstm9_a (F S : Int) (l : List Nat) (A : Option Addr) (n c : Nat) (w : World) (hs : S = 0) :
    Calls Try.prog 18 #[.agg #[.int .i64 9, .int .i64 F, .int .i64 S, .slice A n c]] w (PtPost w (noPrt, ⟨true, true, 1⟩)) := by
  have k1 : (S == 0) = true := by rw [hs]; rfl
  have k2 : (S != 0) = false := by rw [hs]; rfl
  clear hs
  obtain ⟨T0, hbl, hsz⟩ := four_of w (⟨9, F, S, l⟩ : Frm) A n c
  obtain ⟨g, hg⟩ : ∃ g, g = w.heap.size := ⟨_, rfl⟩
  obtain ⟨w1, hw1⟩ : ∃ w1, w1 = w4of w (⟨9, F, S, l⟩ : Frm) A n c := ⟨_, rfl⟩
  rw [← hw1, ← hg] at T0
  rw [← hw1] at hbl hsz
  have hw1' : w1 = ((((w.alloc (.cells #[.int .i64 9, .int .i64 F, .int .i64 S, .slice A n c] 34)).alloc (.cells #[.slice none 0 0, .int .i64 0, .int .i64 0, .int .i64 0, .int .i64 0, .slice none 0 0, .bool false, .bool false, .bool false] 28)).alloc (.cells #[.bool false, .bool false, .int .i64 0] 30)).alloc (.cells #[.slice none 0 0, .int .i64 0, .int .i64 0, .int .i64 0, .int .i64 0, .slice none 0 0, .bool false, .bool false, .bool false] 28)) := hw1
  obtain ⟨x0, x1, x2, x3⟩ := three_frm T0.1
  simp only [] at x0 x1 x2 x3
  have HT := Lib.hid T0
  have HW := Lib.hid hw1'
  have HG := Lib.hid hg
  have HBL := Lib.hid hbl
  have HSZ : Hid (w1.heap.size = g + 1 + 1 + 1 + 1) := Lib.hid (by rw [hsz, hg])
  clear T0 hw1' hw1 hg hbl hsz
  go_enter Try.func18, Try.ntmps18
  go_wp2
  refine wp_scope_fuel 4 ?_
  go_upto_region 2 with fail
  rw [← HW.out, ← HG.out]
  go_wp2
  go_step3
  refine JF.go (k := 3) rfl ?_
  go_wp2_with fail
  with_reducible refine (pfault_any 1 w1).mono ?_
  rintro e w9 ⟨rfl, hb9⟩
  have T9 := HT.out.up hb9
  have r0 : w9.cell? ⟨g + 1, 0, none⟩ = some (.slice none 0 0) := cell_of_row _ (g + 1) 0 _ 28 _ T9.1.2.1
  have r1 : w9.cell? ⟨g + 1, 1, none⟩ = some (.int .i64 0) := cell_of_row _ (g + 1) 1 _ 28 _ T9.1.2.1
  have r2 : w9.cell? ⟨g + 1, 2, none⟩ = some (.int .i64 0) := cell_of_row _ (g + 1) 2 _ 28 _ T9.1.2.1
  have r3 : w9.cell? ⟨g + 1, 3, none⟩ = some (.int .i64 0) := cell_of_row _ (g + 1) 3 _ 28 _ T9.1.2.1
  have r4 : w9.cell? ⟨g + 1, 4, none⟩ = some (.int .i64 0) := cell_of_row _ (g + 1) 4 _ 28 _ T9.1.2.1
  have r5 : w9.cell? ⟨g + 1, 5, none⟩ = some (.slice none 0 0) := cell_of_row _ (g + 1) 5 _ 28 _ T9.1.2.1
  have r6 : w9.cell? ⟨g + 1, 6, none⟩ = some (.bool false) := cell_of_row _ (g + 1) 6 _ 28 _ T9.1.2.1
  have r7 : w9.cell? ⟨g + 1, 7, none⟩ = some (.bool false) := cell_of_row _ (g + 1) 7 _ 28 _ T9.1.2.1
  have r8 : w9.cell? ⟨g + 1, 8, none⟩ = some (.bool false) := cell_of_row _ (g + 1) 8 _ 28 _ T9.1.2.1
  have t0 : w9.cell? ⟨g + 1 + 1, 0, none⟩ = some (.bool false) := cell_of_row _ (g + 1 + 1) 0 _ 30 _ T9.1.2.2
  have t1 : w9.cell? ⟨g + 1 + 1, 1, none⟩ = some (.bool false) := cell_of_row _ (g + 1 + 1) 1 _ 30 _ T9.1.2.2
  have t2 : w9.cell? ⟨g + 1 + 1, 2, none⟩ = some (.int .i64 0) := cell_of_row _ (g + 1 + 1) 2 _ 30 _ T9.1.2.2
  obtain ⟨f0, f1, f2, f3, f4, f5, f6, f7, f8, u0, u1, u2⟩ := three_froz T9.1
  have HN : Hid (PtPost w (noPrt, ⟨true, true, 1⟩) (.returned (.tuple #[.agg #[.slice none 0 0, .int .i64 0, .int .i64 0, .int .i64 0, .int .i64 0, .slice none 0 0, .bool false, .bool false, .bool false], .agg #[.bool true, .bool true, .int .i64 1]])) (stores w9 g (.slice none 0 0) (.int .i64 0) (.int .i64 0) (.int .i64 0) (.int .i64 0) (.slice none 0 0) (.bool false) (.bool false) (.bool false) (.bool true) (.bool true) (.int .i64 1))) := Lib.hid (rd_bare HG.out (HBL.out.trans (hb9.mono HBL.out.size)) rfl rfl _ _ _ _ _ _ _ _ _ _ _ _)
  clear T9 hb9
  go_wp2
  simp only [jumpsTo]
  refine bodyPost_ret (v := .tuple #[.agg #[.slice none 0 0, .int .i64 0, .int .i64 0, .int .i64 0, .int .i64 0, .slice none 0 0, .bool false, .bool false, .bool false], .agg #[.bool true, .bool true, .int .i64 1]]) (by simp [results, Try.results18, go_sem, r0, r1, r2, r3, r4, r5, r6, r7, r8, t0, t1, t2]) rfl HN.out
set_option maxRecDepth 100000 in
set_option maxHeartbeats 4000000 in
theorem pstm2_b (F S : Int) (l : List Nat) (A : Option Addr) (n c : Nat) (w : World) (hs : S ≠ 0) (hm : n ≠ 5) :
    Calls Try.prog 18 #[.agg #[.int .i64 2, .int .i64 F, .int .i64 S, .slice A n c]] w (PtPost w (noPrt, ⟨true, false, 6⟩)) := by
  have k1 : (S == 0) = false := by rw [beq_eq_false_iff_ne]; exact hs
  have k2 : (S != 0) = true := by rw [bne_iff_ne]; exact hs
  clear hs
  have k3 : ((n : Int) == 5) = false := by rw [beq_eq_false_iff_ne]; omega
  have k4 : ((n : Int) != 5) = true := by rw [bne_iff_ne]; omega
  clear hm
  obtain ⟨T0, hbl, hsz⟩ := four_of w (⟨2, F, S, l⟩ : Frm) A n c
  obtain ⟨g, hg⟩ : ∃ g, g = w.heap.size := ⟨_, rfl⟩
  obtain ⟨w1, hw1⟩ : ∃ w1, w1 = w4of w (⟨2, F, S, l⟩ : Frm) A n c := ⟨_, rfl⟩
  rw [← hw1, ← hg] at T0
  rw [← hw1] at hbl hsz
  have hw1' : w1 = ((((w.alloc (.cells #[.int .i64 2, .int .i64 F, .int .i64 S, .slice A n c] 34)).alloc (.cells #[.slice none 0 0, .int .i64 0, .int .i64 0, .int .i64 0, .int .i64 0, .slice none 0 0, .bool false, .bool false, .bool false] 28)).alloc (.cells #[.bool false, .bool false, .int .i64 0] 30)).alloc (.cells #[.slice none 0 0, .int .i64 0, .int .i64 0, .int .i64 0, .int .i64 0, .slice none 0 0, .bool false, .bool false, .bool false] 28)) := hw1
  obtain ⟨x0, x1, x2, x3⟩ := three_frm T0.1
  simp only [] at x0 x1 x2 x3
  have HT := Lib.hid T0
  have HW := Lib.hid hw1'
  have HG := Lib.hid hg
  have HBL := Lib.hid hbl
  have HSZ : Hid (w1.heap.size = g + 1 + 1 + 1 + 1) := Lib.hid (by rw [hsz, hg])
  clear T0 hw1' hw1 hg hbl hsz
  go_enter Try.func18, Try.ntmps18
  go_wp2
  refine wp_scope_fuel 4 ?_
  go_upto_region 2 with fail
  rw [← HW.out, ← HG.out]
  have r0 : w1.cell? ⟨g + 1, 0, none⟩ = some (.slice none 0 0) := cell_of_row _ (g + 1) 0 _ 28 _ HT.out.1.2.1
  have r1 : w1.cell? ⟨g + 1, 1, none⟩ = some (.int .i64 0) := cell_of_row _ (g + 1) 1 _ 28 _ HT.out.1.2.1
  have r2 : w1.cell? ⟨g + 1, 2, none⟩ = some (.int .i64 0) := cell_of_row _ (g + 1) 2 _ 28 _ HT.out.1.2.1
  have r3 : w1.cell? ⟨g + 1, 3, none⟩ = some (.int .i64 0) := cell_of_row _ (g + 1) 3 _ 28 _ HT.out.1.2.1
  have r4 : w1.cell? ⟨g + 1, 4, none⟩ = some (.int .i64 0) := cell_of_row _ (g + 1) 4 _ 28 _ HT.out.1.2.1
  have r5 : w1.cell? ⟨g + 1, 5, none⟩ = some (.slice none 0 0) := cell_of_row _ (g + 1) 5 _ 28 _ HT.out.1.2.1
  have r6 : w1.cell? ⟨g + 1, 6, none⟩ = some (.bool false) := cell_of_row _ (g + 1) 6 _ 28 _ HT.out.1.2.1
  have r7 : w1.cell? ⟨g + 1, 7, none⟩ = some (.bool false) := cell_of_row _ (g + 1) 7 _ 28 _ HT.out.1.2.1
  have r8 : w1.cell? ⟨g + 1, 8, none⟩ = some (.bool false) := cell_of_row _ (g + 1) 8 _ 28 _ HT.out.1.2.1
  have t0 : w1.cell? ⟨g + 1 + 1, 0, none⟩ = some (.bool false) := cell_of_row _ (g + 1 + 1) 0 _ 30 _ HT.out.1.2.2
  have t1 : w1.cell? ⟨g + 1 + 1, 1, none⟩ = some (.bool false) := cell_of_row _ (g + 1 + 1) 1 _ 30 _ HT.out.1.2.2
  have t2 : w1.cell? ⟨g + 1 + 1, 2, none⟩ = some (.int .i64 0) := cell_of_row _ (g + 1 + 1) 2 _ 30 _ HT.out.1.2.2
  obtain ⟨f0, f1, f2, f3, f4, f5, f6, f7, f8, u0, u1, u2⟩ := three_froz HT.out.1
  have HN : Hid (PtPost w (noPrt, ⟨true, false, 6⟩) (.returned (.tuple #[.agg #[.slice none 0 0, .int .i64 0, .int .i64 0, .int .i64 0, .int .i64 0, .slice none 0 0, .bool false, .bool false, .bool false], .agg #[.bool true, .bool false, .int .i64 6]])) (stores w1 g (.slice none 0 0) (.int .i64 0) (.int .i64 0) (.int .i64 0) (.int .i64 0) (.slice none 0 0) (.bool false) (.bool false) (.bool false) (.bool true) (.bool false) (.int .i64 6))) := Lib.hid (rd_bare HG.out HBL.out rfl rfl _ _ _ _ _ _ _ _ _ _ _ _)
  go_wp2
  simp only [jumpsTo]
  refine bodyPost_ret (v := .tuple #[.agg #[.slice none 0 0, .int .i64 0, .int .i64 0, .int .i64 0, .int .i64 0, .slice none 0 0, .bool false, .bool false, .bool false], .agg #[.bool true, .bool false, .int .i64 6]]) (by simp [results, Try.results18, go_sem, r0, r1, r2, r3, r4, r5, r6, r7, r8, t0, t1, t2]) rfl HN.out
set_option maxRecDepth 100000 in
set_option maxHeartbeats 4000000 in
theorem pstm2_c (F S : Int) (l : List Nat) (A : Option Addr) (n c : Nat) (w : World) (hs : S ≠ 0) (hm : n = 5) :
    Calls Try.prog 18 #[.agg #[.int .i64 2, .int .i64 F, .int .i64 S, .slice A n c]] w (PtPost w (noPrt, noFlt)) := by
  have k1 : (S == 0) = false := by rw [beq_eq_false_iff_ne]; exact hs
  have k2 : (S != 0) = true := by rw [bne_iff_ne]; exact hs
  clear hs
  have k3 : ((n : Int) == 5) = true := by rw [hm]; rfl
  have k4 : ((n : Int) != 5) = false := by rw [hm]; rfl
  clear hm
  obtain ⟨T0, hbl, hsz⟩ := four_of w (⟨2, F, S, l⟩ : Frm) A n c
  obtain ⟨g, hg⟩ : ∃ g, g = w.heap.size := ⟨_, rfl⟩
  obtain ⟨w1, hw1⟩ : ∃ w1, w1 = w4of w (⟨2, F, S, l⟩ : Frm) A n c := ⟨_, rfl⟩
  rw [← hw1, ← hg] at T0
  rw [← hw1] at hbl hsz
  have hw1' : w1 = ((((w.alloc (.cells #[.int .i64 2, .int .i64 F, .int .i64 S, .slice A n c] 34)).alloc (.cells #[.slice none 0 0, .int .i64 0, .int .i64 0, .int .i64 0, .int .i64 0, .slice none 0 0, .bool false, .bool false, .bool false] 28)).alloc (.cells #[.bool false, .bool false, .int .i64 0] 30)).alloc (.cells #[.slice none 0 0, .int .i64 0, .int .i64 0, .int .i64 0, .int .i64 0, .slice none 0 0, .bool false, .bool false, .bool false] 28)) := hw1
  obtain ⟨x0, x1, x2, x3⟩ := three_frm T0.1
  simp only [] at x0 x1 x2 x3
  have HT := Lib.hid T0
  have HW := Lib.hid hw1'
  have HG := Lib.hid hg
  have HBL := Lib.hid hbl
  have HSZ : Hid (w1.heap.size = g + 1 + 1 + 1 + 1) := Lib.hid (by rw [hsz, hg])
  clear T0 hw1' hw1 hg hbl hsz
  go_enter Try.func18, Try.ntmps18
  go_wp2
  refine wp_scope_fuel 4 ?_
  go_upto_region 2 with fail
  rw [← HW.out, ← HG.out]
  have p0 : w1.cell? ⟨g + 1 + 1 + 1, 0, none⟩ = some (.slice none 0 0) := cell_of_row _ (g + 1 + 1 + 1) 0 _ 28 _ HT.out.2
  have p1 : w1.cell? ⟨g + 1 + 1 + 1, 1, none⟩ = some (.int .i64 0) := cell_of_row _ (g + 1 + 1 + 1) 1 _ 28 _ HT.out.2
  have p2 : w1.cell? ⟨g + 1 + 1 + 1, 2, none⟩ = some (.int .i64 0) := cell_of_row _ (g + 1 + 1 + 1) 2 _ 28 _ HT.out.2
  have p3 : w1.cell? ⟨g + 1 + 1 + 1, 3, none⟩ = some (.int .i64 0) := cell_of_row _ (g + 1 + 1 + 1) 3 _ 28 _ HT.out.2
  have p4 : w1.cell? ⟨g + 1 + 1 + 1, 4, none⟩ = some (.int .i64 0) := cell_of_row _ (g + 1 + 1 + 1) 4 _ 28 _ HT.out.2
  have p5 : w1.cell? ⟨g + 1 + 1 + 1, 5, none⟩ = some (.slice none 0 0) := cell_of_row _ (g + 1 + 1 + 1) 5 _ 28 _ HT.out.2
  have p6 : w1.cell? ⟨g + 1 + 1 + 1, 6, none⟩ = some (.bool false) := cell_of_row _ (g + 1 + 1 + 1) 6 _ 28 _ HT.out.2
  have p7 : w1.cell? ⟨g + 1 + 1 + 1, 7, none⟩ = some (.bool false) := cell_of_row _ (g + 1 + 1 + 1) 7 _ 28 _ HT.out.2
  have p8 : w1.cell? ⟨g + 1 + 1 + 1, 8, none⟩ = some (.bool false) := cell_of_row _ (g + 1 + 1 + 1) 8 _ 28 _ HT.out.2
  have r0 : w1.cell? ⟨g + 1, 0, none⟩ = some (.slice none 0 0) := cell_of_row _ (g + 1) 0 _ 28 _ HT.out.1.2.1
  have r1 : w1.cell? ⟨g + 1, 1, none⟩ = some (.int .i64 0) := cell_of_row _ (g + 1) 1 _ 28 _ HT.out.1.2.1
  have r2 : w1.cell? ⟨g + 1, 2, none⟩ = some (.int .i64 0) := cell_of_row _ (g + 1) 2 _ 28 _ HT.out.1.2.1
  have r3 : w1.cell? ⟨g + 1, 3, none⟩ = some (.int .i64 0) := cell_of_row _ (g + 1) 3 _ 28 _ HT.out.1.2.1
  have r4 : w1.cell? ⟨g + 1, 4, none⟩ = some (.int .i64 0) := cell_of_row _ (g + 1) 4 _ 28 _ HT.out.1.2.1
  have r5 : w1.cell? ⟨g + 1, 5, none⟩ = some (.slice none 0 0) := cell_of_row _ (g + 1) 5 _ 28 _ HT.out.1.2.1
  have r6 : w1.cell? ⟨g + 1, 6, none⟩ = some (.bool false) := cell_of_row _ (g + 1) 6 _ 28 _ HT.out.1.2.1
  have r7 : w1.cell? ⟨g + 1, 7, none⟩ = some (.bool false) := cell_of_row _ (g + 1) 7 _ 28 _ HT.out.1.2.1
  have r8 : w1.cell? ⟨g + 1, 8, none⟩ = some (.bool false) := cell_of_row _ (g + 1) 8 _ 28 _ HT.out.1.2.1
  have t0 : w1.cell? ⟨g + 1 + 1, 0, none⟩ = some (.bool false) := cell_of_row _ (g + 1 + 1) 0 _ 30 _ HT.out.1.2.2
  have t1 : w1.cell? ⟨g + 1 + 1, 1, none⟩ = some (.bool false) := cell_of_row _ (g + 1 + 1) 1 _ 30 _ HT.out.1.2.2
  have t2 : w1.cell? ⟨g + 1 + 1, 2, none⟩ = some (.int .i64 0) := cell_of_row _ (g + 1 + 1) 2 _ 30 _ HT.out.1.2.2
  obtain ⟨f0, f1, f2, f3, f4, f5, f6, f7, f8, u0, u1, u2⟩ := three_froz HT.out.1
  have HN : Hid (PtPost w (noPrt, noFlt) (.returned (.tuple #[.agg #[.slice none 0 0, .int .i64 0, .int .i64 0, .int .i64 0, .int .i64 0, .slice none 0 0, .bool false, .bool false, .bool false], .agg #[.bool false, .bool false, .int .i64 0]])) (stores w1 g (.slice none 0 0) (.int .i64 0) (.int .i64 0) (.int .i64 0) (.int .i64 0) (.slice none 0 0) (.bool false) (.bool false) (.bool false) (.bool false) (.bool false) (.int .i64 0))) := Lib.hid (rd_bare HG.out HBL.out rfl rfl _ _ _ _ _ _ _ _ _ _ _ _)
  go_wp2
  simp only [jumpsTo]
  refine bodyPost_ret (v := .tuple #[.agg #[.slice none 0 0, .int .i64 0, .int .i64 0, .int .i64 0, .int .i64 0, .slice none 0 0, .bool false, .bool false, .bool false], .agg #[.bool false, .bool false, .int .i64 0]]) (by simp [results, Try.results18, go_sem, r0, r1, r2, r3, r4, r5, r6, r7, r8, t0, t1, t2]) rfl HN.out
set_option maxRecDepth 100000 in
set_option maxHeartbeats 4000000 in
theorem pstm3_b (F S : Int) (l : List Nat) (A : Option Addr) (n c : Nat) (w : World) (hs : S ≠ 0) (hm : n ≠ 4) :
    Calls Try.prog 18 #[.agg #[.int .i64 3, .int .i64 F, .int .i64 S, .slice A n c]] w (PtPost w (noPrt, ⟨true, true, 6⟩)) := by
  have k1 : (S == 0) = false := by rw [beq_eq_false_iff_ne]; exact hs
  have k2 : (S != 0) = true := by rw [bne_iff_ne]; exact hs
  clear hs
  have k3 : ((n : Int) == 4) = false := by rw [beq_eq_false_iff_ne]; omega
  have k4 : ((n : Int) != 4) = true := by rw [bne_iff_ne]; omega
  clear hm
  obtain ⟨T0, hbl, hsz⟩ := four_of w (⟨3, F, S, l⟩ : Frm) A n c
  obtain ⟨g, hg⟩ : ∃ g, g = w.heap.size := ⟨_, rfl⟩
  obtain ⟨w1, hw1⟩ : ∃ w1, w1 = w4of w (⟨3, F, S, l⟩ : Frm) A n c := ⟨_, rfl⟩
  rw [← hw1, ← hg] at T0
  rw [← hw1] at hbl hsz
  have hw1' : w1 = ((((w.alloc (.cells #[.int .i64 3, .int .i64 F, .int .i64 S, .slice A n c] 34)).alloc (.cells #[.slice none 0 0, .int .i64 0, .int .i64 0, .int .i64 0, .int .i64 0, .slice none 0 0, .bool false, .bool false, .bool false] 28)).alloc (.cells #[.bool false, .bool false, .int .i64 0] 30)).alloc (.cells #[.slice none 0 0, .int .i64 0, .int .i64 0, .int .i64 0, .int .i64 0, .slice none 0 0, .bool false, .bool false, .bool false] 28)) := hw1
  obtain ⟨x0, x1, x2, x3⟩ := three_frm T0.1
  simp only [] at x0 x1 x2 x3
  have HT := Lib.hid T0
  have HW := Lib.hid hw1'
  have HG := Lib.hid hg
  have HBL := Lib.hid hbl
  have HSZ : Hid (w1.heap.size = g + 1 + 1 + 1 + 1) := Lib.hid (by rw [hsz, hg])
  clear T0 hw1' hw1 hg hbl hsz
  go_enter Try.func18, Try.ntmps18
  go_wp2
  refine wp_scope_fuel 4 ?_
  go_upto_region 2 with fail
  rw [← HW.out, ← HG.out]
  go_wp2
  go_step3
  refine JF.go (k := 3) rfl ?_
  go_wp2_with fail
  with_reducible refine (pfault_any 6 w1).mono ?_
  rintro e w9 ⟨rfl, hb9⟩
  have T9 := HT.out.up hb9
  have r0 : w9.cell? ⟨g + 1, 0, none⟩ = some (.slice none 0 0) := cell_of_row _ (g + 1) 0 _ 28 _ T9.1.2.1
  have r1 : w9.cell? ⟨g + 1, 1, none⟩ = some (.int .i64 0) := cell_of_row _ (g + 1) 1 _ 28 _ T9.1.2.1
  have r2 : w9.cell? ⟨g + 1, 2, none⟩ = some (.int .i64 0) := cell_of_row _ (g + 1) 2 _ 28 _ T9.1.2.1
  have r3 : w9.cell? ⟨g + 1, 3, none⟩ = some (.int .i64 0) := cell_of_row _ (g + 1) 3 _ 28 _ T9.1.2.1
  have r4 : w9.cell? ⟨g + 1, 4, none⟩ = some (.int .i64 0) := cell_of_row _ (g + 1) 4 _ 28 _ T9.1.2.1
  have r5 : w9.cell? ⟨g + 1, 5, none⟩ = some (.slice none 0 0) := cell_of_row _ (g + 1) 5 _ 28 _ T9.1.2.1
  have r6 : w9.cell? ⟨g + 1, 6, none⟩ = some (.bool false) := cell_of_row _ (g + 1) 6 _ 28 _ T9.1.2.1
  have r7 : w9.cell? ⟨g + 1, 7, none⟩ = some (.bool false) := cell_of_row _ (g + 1) 7 _ 28 _ T9.1.2.1
  have r8 : w9.cell? ⟨g + 1, 8, none⟩ = some (.bool false) := cell_of_row _ (g + 1) 8 _ 28 _ T9.1.2.1
  have t0 : w9.cell? ⟨g + 1 + 1, 0, none⟩ = some (.bool false) := cell_of_row _ (g + 1 + 1) 0 _ 30 _ T9.1.2.2
  have t1 : w9.cell? ⟨g + 1 + 1, 1, none⟩ = some (.bool false) := cell_of_row _ (g + 1 + 1) 1 _ 30 _ T9.1.2.2
  have t2 : w9.cell? ⟨g + 1 + 1, 2, none⟩ = some (.int .i64 0) := cell_of_row _ (g + 1 + 1) 2 _ 30 _ T9.1.2.2
  obtain ⟨f0, f1, f2, f3, f4, f5, f6, f7, f8, u0, u1, u2⟩ := three_froz T9.1
  have HN : Hid (PtPost w (noPrt, ⟨true, true, 6⟩) (.returned (.tuple #[.agg #[.slice none 0 0, .int .i64 0, .int .i64 0, .int .i64 0, .int .i64 0, .slice none 0 0, .bool false, .bool false, .bool false], .agg #[.bool true, .bool true, .int .i64 6]])) (stores w9 g (.slice none 0 0) (.int .i64 0) (.int .i64 0) (.int .i64 0) (.int .i64 0) (.slice none 0 0) (.bool false) (.bool false) (.bool false) (.bool true) (.bool true) (.int .i64 6))) := Lib.hid (rd_bare HG.out (HBL.out.trans (hb9.mono HBL.out.size)) rfl rfl _ _ _ _ _ _ _ _ _ _ _ _)
  clear T9 hb9
  go_wp2
  simp only [jumpsTo]
  refine bodyPost_ret (v := .tuple #[.agg #[.slice none 0 0, .int .i64 0, .int .i64 0, .int .i64 0, .int .i64 0, .slice none 0 0, .bool false, .bool false, .bool false], .agg #[.bool true, .bool true, .int .i64 6]]) (by simp [results, Try.results18, go_sem, r0, r1, r2, r3, r4, r5, r6, r7, r8, t0, t1, t2]) rfl HN.out
set_option maxRecDepth 100000 in
set_option maxHeartbeats 4000000 in
theorem pstm3_c (F S : Int) (l : List Nat) (A : Option Addr) (n c : Nat) (w : World) (hs : S ≠ 0) (hm : n = 4) (hA : At .u8 w w.heap.size A l) (hb : ∀ x ∈ l, x < 256) (hl : l.length = n) :
    Calls Try.prog 18 #[.agg #[.int .i64 3, .int .i64 F, .int .i64 S, .slice A n c]] w (PtPost w (⟨[], 0, val l, 0, 0, [], false, false, false⟩, noFlt)) := by
  obtain ⟨V, hV⟩ : ∃ V, V = val l := ⟨_, rfl⟩
  have hVb : V < 4294967296 := by
    have := val_lt l hb
    rw [hl, hm] at this
    rw [hV]
    exact this
  have HV : Hid (∀ W, Below w.heap.size w W → Calls Try.prog 29 #[.slice A n c] W fun e w' => e = .returned (.int .i64 (V : Int)) ∧ Below W.heap.size W w') := Lib.hid (fun W hb' => by
    rw [hV]
    refine (pnumber_any A l n c W (hA.up hb') hb hl (by omega)).mono ?_
    rintro e w' ⟨rfl, k, rfl⟩
    rw [List.take_of_length_le (by omega)]
    exact ⟨rfl, below_drewN (Below.refl _ _) _⟩)
  have HV0 := Lib.hid hV
  clear hA hb hl hV hVb
  rw [← HV0.out]
  have k1 : (S == 0) = false := by rw [beq_eq_false_iff_ne]; exact hs
  have k2 : (S != 0) = true := by rw [bne_iff_ne]; exact hs
  clear hs
  have k3 : ((n : Int) == 4) = true := by rw [hm]; rfl
  have k4 : ((n : Int) != 4) = false := by rw [hm]; rfl
  clear hm
  obtain ⟨T0, hbl, hsz⟩ := four_of w (⟨3, F, S, l⟩ : Frm) A n c
  obtain ⟨g, hg⟩ : ∃ g, g = w.heap.size := ⟨_, rfl⟩
  obtain ⟨w1, hw1⟩ : ∃ w1, w1 = w4of w (⟨3, F, S, l⟩ : Frm) A n c := ⟨_, rfl⟩
  rw [← hw1, ← hg] at T0
  rw [← hw1] at hbl hsz
  have hw1' : w1 = ((((w.alloc (.cells #[.int .i64 3, .int .i64 F, .int .i64 S, .slice A n c] 34)).alloc (.cells #[.slice none 0 0, .int .i64 0, .int .i64 0, .int .i64 0, .int .i64 0, .slice none 0 0, .bool false, .bool false, .bool false] 28)).alloc (.cells #[.bool false, .bool false, .int .i64 0] 30)).alloc (.cells #[.slice none 0 0, .int .i64 0, .int .i64 0, .int .i64 0, .int .i64 0, .slice none 0 0, .bool false, .bool false, .bool false] 28)) := hw1
  obtain ⟨x0, x1, x2, x3⟩ := three_frm T0.1
  simp only [] at x0 x1 x2 x3
  have HT := Lib.hid T0
  have HW := Lib.hid hw1'
  have HG := Lib.hid hg
  have HBL := Lib.hid hbl
  have HSZ : Hid (w1.heap.size = g + 1 + 1 + 1 + 1) := Lib.hid (by rw [hsz, hg])
  clear T0 hw1' hw1 hg hbl hsz
  go_enter Try.func18, Try.ntmps18
  go_wp2
  refine wp_scope_fuel 4 ?_
  go_upto_region 2 with fail
  rw [← HW.out, ← HG.out]
  go_wp2_with fail
  with_reducible refine (HV.out w1 HBL.out).mono ?_
  rintro e w2 ⟨rfl, hb2⟩
  have T2 := HT.out.up hb2
  have hbw2 := HBL.out.trans (hb2.mono HBL.out.size)
  have HT2 := Lib.hid T2
  have HB2 := Lib.hid hbw2
  have p2 : w2.cell? ⟨g + 1 + 1 + 1, 2, none⟩ = some (.int .i64 0) := cell_of_row _ (g + 1 + 1 + 1) 2 _ 28 _ HT2.out.2
  have z2 : w2.frozen? ⟨g + 1 + 1 + 1, 2, none⟩ = false := frozen_of_row _ (g + 1 + 1 + 1) 2 _ 28 HT2.out.2
  clear hb2 T2 hbw2
  obtain ⟨w3, hw3⟩ : ∃ w3, w3 = w2.setCell ⟨g + 1 + 1 + 1, 2, none⟩ (.int .i64 (V : Int)) := ⟨_, rfl⟩
  have T3 := HT2.out.set 2 (.int .i64 (V : Int))
  have B3 : Below w.heap.size w w3 := by rw [hw3]; exact HB2.out.setCell (p := ⟨g + 1 + 1 + 1, 2, none⟩) (show w.heap.size ≤ g + 1 + 1 + 1 by have := HG.out; omega) _
  rw [← hw3] at T3
  have HT3 := Lib.hid T3
  have HB3 := Lib.hid B3
  have HW3 := Lib.hid hw3
  clear T3 B3 hw3
  go_upto_region 13 with fail
  rw [← HW3.out]
  clear p2 z2
  have p0 : w3.cell? ⟨g + 1 + 1 + 1, 0, none⟩ = some (.slice none 0 0) := cell_of_row _ (g + 1 + 1 + 1) 0 _ 28 _ HT3.out.2
  have p1 : w3.cell? ⟨g + 1 + 1 + 1, 1, none⟩ = some (.int .i64 0) := cell_of_row _ (g + 1 + 1 + 1) 1 _ 28 _ HT3.out.2
  have p2 : w3.cell? ⟨g + 1 + 1 + 1, 2, none⟩ = some (.int .i64 (V : Int)) := cell_of_row _ (g + 1 + 1 + 1) 2 _ 28 _ HT3.out.2
  have p3 : w3.cell? ⟨g + 1 + 1 + 1, 3, none⟩ = some (.int .i64 0) := cell_of_row _ (g + 1 + 1 + 1) 3 _ 28 _ HT3.out.2
  have p4 : w3.cell? ⟨g + 1 + 1 + 1, 4, none⟩ = some (.int .i64 0) := cell_of_row _ (g + 1 + 1 + 1) 4 _ 28 _ HT3.out.2
  have p5 : w3.cell? ⟨g + 1 + 1 + 1, 5, none⟩ = some (.slice none 0 0) := cell_of_row _ (g + 1 + 1 + 1) 5 _ 28 _ HT3.out.2
  have p6 : w3.cell? ⟨g + 1 + 1 + 1, 6, none⟩ = some (.bool false) := cell_of_row _ (g + 1 + 1 + 1) 6 _ 28 _ HT3.out.2
  have p7 : w3.cell? ⟨g + 1 + 1 + 1, 7, none⟩ = some (.bool false) := cell_of_row _ (g + 1 + 1 + 1) 7 _ 28 _ HT3.out.2
  have p8 : w3.cell? ⟨g + 1 + 1 + 1, 8, none⟩ = some (.bool false) := cell_of_row _ (g + 1 + 1 + 1) 8 _ 28 _ HT3.out.2
  have r0 : w3.cell? ⟨g + 1, 0, none⟩ = some (.slice none 0 0) := cell_of_row _ (g + 1) 0 _ 28 _ HT3.out.1.2.1
  have r1 : w3.cell? ⟨g + 1, 1, none⟩ = some (.int .i64 0) := cell_of_row _ (g + 1) 1 _ 28 _ HT3.out.1.2.1
  have r2 : w3.cell? ⟨g + 1, 2, none⟩ = some (.int .i64 0) := cell_of_row _ (g + 1) 2 _ 28 _ HT3.out.1.2.1
  have r3 : w3.cell? ⟨g + 1, 3, none⟩ = some (.int .i64 0) := cell_of_row _ (g + 1) 3 _ 28 _ HT3.out.1.2.1
  have r4 : w3.cell? ⟨g + 1, 4, none⟩ = some (.int .i64 0) := cell_of_row _ (g + 1) 4 _ 28 _ HT3.out.1.2.1
  have r5 : w3.cell? ⟨g + 1, 5, none⟩ = some (.slice none 0 0) := cell_of_row _ (g + 1) 5 _ 28 _ HT3.out.1.2.1
  have r6 : w3.cell? ⟨g + 1, 6, none⟩ = some (.bool false) := cell_of_row _ (g + 1) 6 _ 28 _ HT3.out.1.2.1
  have r7 : w3.cell? ⟨g + 1, 7, none⟩ = some (.bool false) := cell_of_row _ (g + 1) 7 _ 28 _ HT3.out.1.2.1
  have r8 : w3.cell? ⟨g + 1, 8, none⟩ = some (.bool false) := cell_of_row _ (g + 1) 8 _ 28 _ HT3.out.1.2.1
  have t0 : w3.cell? ⟨g + 1 + 1, 0, none⟩ = some (.bool false) := cell_of_row _ (g + 1 + 1) 0 _ 30 _ HT3.out.1.2.2
  have t1 : w3.cell? ⟨g + 1 + 1, 1, none⟩ = some (.bool false) := cell_of_row _ (g + 1 + 1) 1 _ 30 _ HT3.out.1.2.2
  have t2 : w3.cell? ⟨g + 1 + 1, 2, none⟩ = some (.int .i64 0) := cell_of_row _ (g + 1 + 1) 2 _ 30 _ HT3.out.1.2.2
  obtain ⟨f0, f1, f2, f3, f4, f5, f6, f7, f8, u0, u1, u2⟩ := three_froz HT3.out.1
  have HN : Hid (PtPost w (⟨[], 0, V, 0, 0, [], false, false, false⟩, noFlt) (.returned (.tuple #[.agg #[.slice none 0 0, .int .i64 0, .int .i64 (V : Int), .int .i64 0, .int .i64 0, .slice none 0 0, .bool false, .bool false, .bool false], .agg #[.bool false, .bool false, .int .i64 0]])) (stores w3 g (.slice none 0 0) (.int .i64 0) (.int .i64 (V : Int)) (.int .i64 0) (.int .i64 0) (.slice none 0 0) (.bool false) (.bool false) (.bool false) (.bool false) (.bool false) (.int .i64 0))) := Lib.hid (rd_bare HG.out HB3.out rfl rfl _ _ _ _ _ _ _ _ _ _ _ _)
  go_wp2
  simp only [jumpsTo]
  refine bodyPost_ret (v := .tuple #[.agg #[.slice none 0 0, .int .i64 0, .int .i64 (V : Int), .int .i64 0, .int .i64 0, .slice none 0 0, .bool false, .bool false, .bool false], .agg #[.bool false, .bool false, .int .i64 0]]) (by simp [results, Try.results18, go_sem, r0, r1, r2, r3, r4, r5, r6, r7, r8, t0, t1, t2]) rfl HN.out
set_option maxRecDepth 100000 in
set_option maxHeartbeats 4000000 in
theorem pstm9_c (F S : Int) (l : List Nat) (A : Option Addr) (n c : Nat) (w : World) (hs : S ≠ 0) (hA : At .u8 w w.heap.size A l) (hl : l.length = n) (hc : A = none → c = 0) (hn : n ≤ 100000) :
    Calls Try.prog 18 #[.agg #[.int .i64 9, .int .i64 F, .int .i64 S, .slice A n c]] w (PtPost w (⟨l, 0, 0, 0, 0, [], false, false, bit F 2⟩, noFlt)) := by
  have HCP : Hid (∀ W, Below w.heap.size w W → Calls Try.prog 28 #[.slice A n c] W (RowPost W.heap.size W l)) := Lib.hid (fun W hb' => bclone_any A l n c W (hA.up hb') hl hc (by omega))
  have HL := Lib.hid hl
  have e1 := and_on F 2 (by omega)
  rw [show ((2 ^ 2 : Nat) : Int) = 4 from rfl] at e1
  clear hA hl hc hn
  have k1 : (S == 0) = false := by rw [beq_eq_false_iff_ne]; exact hs
  have k2 : (S != 0) = true := by rw [bne_iff_ne]; exact hs
  clear hs
  obtain ⟨T0, hbl, hsz⟩ := four_of w (⟨9, F, S, l⟩ : Frm) A n c
  obtain ⟨g, hg⟩ : ∃ g, g = w.heap.size := ⟨_, rfl⟩
  obtain ⟨w1, hw1⟩ : ∃ w1, w1 = w4of w (⟨9, F, S, l⟩ : Frm) A n c := ⟨_, rfl⟩
  rw [← hw1, ← hg] at T0
  rw [← hw1] at hbl hsz
  have hw1' : w1 = ((((w.alloc (.cells #[.int .i64 9, .int .i64 F, .int .i64 S, .slice A n c] 34)).alloc (.cells #[.slice none 0 0, .int .i64 0, .int .i64 0, .int .i64 0, .int .i64 0, .slice none 0 0, .bool false, .bool false, .bool false] 28)).alloc (.cells #[.bool false, .bool false, .int .i64 0] 30)).alloc (.cells #[.slice none 0 0, .int .i64 0, .int .i64 0, .int .i64 0, .int .i64 0, .slice none 0 0, .bool false, .bool false, .bool false] 28)) := hw1
  obtain ⟨x0, x1, x2, x3⟩ := three_frm T0.1
  simp only [] at x0 x1 x2 x3
  have HT := Lib.hid T0
  have HW := Lib.hid hw1'
  have HG := Lib.hid hg
  have HBL := Lib.hid hbl
  have HSZ : Hid (w1.heap.size = g + 1 + 1 + 1 + 1) := Lib.hid (by rw [hsz, hg])
  clear T0 hw1' hw1 hg hbl hsz
  go_enter Try.func18, Try.ntmps18
  go_wp2
  refine wp_scope_fuel 4 ?_
  go_upto_region 2 with fail
  rw [← HW.out, ← HG.out]
  go_wp2_with fail
  with_reducible refine (HCP.out w1 HBL.out).mono ?_
  rintro e w2 ⟨v2, rfl, hr2, hb2⟩
  obtain ⟨Ax, cx, hv2⟩ := own_shape hr2
  rw [HL.out] at hv2 hr2
  subst hv2
  have T2 := HT.out.up hb2
  have hbw2 := HBL.out.trans (hb2.mono HBL.out.size)
  have HT2 := Lib.hid T2
  have HB2 := Lib.hid hbw2
  have HR2 := Lib.hid hr2
  have p0 : w2.cell? ⟨g + 1 + 1 + 1, 0, none⟩ = some (.slice none 0 0) := cell_of_row _ (g + 1 + 1 + 1) 0 _ 28 _ HT2.out.2
  have z0 : w2.frozen? ⟨g + 1 + 1 + 1, 0, none⟩ = false := frozen_of_row _ (g + 1 + 1 + 1) 0 _ 28 HT2.out.2
  clear hb2 T2 hbw2 hr2
  obtain ⟨w3, hw3⟩ : ∃ w3, w3 = w2.setCell ⟨g + 1 + 1 + 1, 0, none⟩ (.slice Ax n cx) := ⟨_, rfl⟩
  have T3 := HT2.out.set 0 (.slice Ax n cx)
  have B3 : Below w.heap.size w w3 := by rw [hw3]; exact HB2.out.setCell (p := ⟨g + 1 + 1 + 1, 0, none⟩) (show w.heap.size ≤ g + 1 + 1 + 1 by have := HG.out; omega) _
  rw [← hw3] at T3
  have R3 : w3.ownsRow w1.heap.size 5 1 (.slice Ax n cx) n (cn .u8 l) := by
    rw [hw3]
    exact row_keeps HR2.out ((Keeps.refl (fun k => k = g + 1 + 1 + 1) w2).setCell (S := fun k => k = g + 1 + 1 + 1) (p := ⟨g + 1 + 1 + 1, 0, none⟩) rfl _) (fun k hk e => by have := own_block HR2.out k hk; have := HSZ.out; omega)
  have HT3 := Lib.hid T3
  have HB3 := Lib.hid B3
  have HR3 := Lib.hid R3
  have HW3 := Lib.hid hw3
  clear T3 B3 R3 hw3
  go_upto_region 12 with fail
  rw [← HW3.out]
  clear p0 z0
  have p8 : w3.cell? ⟨g + 1 + 1 + 1, 8, none⟩ = some (.bool false) := cell_of_row _ (g + 1 + 1 + 1) 8 _ 28 _ HT3.out.2
  have z8 : w3.frozen? ⟨g + 1 + 1 + 1, 8, none⟩ = false := frozen_of_row _ (g + 1 + 1 + 1) 8 _ 28 HT3.out.2
  have x1' : w3.cell? ⟨g, 1, none⟩ = some (.int .i64 F) := (three_frm HT3.out.1).2.1
  obtain ⟨w4, hw4⟩ : ∃ w4, w4 = w3.setCell ⟨g + 1 + 1 + 1, 8, none⟩ (.bool (bit F 2)) := ⟨_, rfl⟩
  have T4 := HT3.out.set 8 (.bool (bit F 2))
  have B4 : Below w.heap.size w w4 := by rw [hw4]; exact HB3.out.setCell (p := ⟨g + 1 + 1 + 1, 8, none⟩) (show w.heap.size ≤ g + 1 + 1 + 1 by have := HG.out; omega) _
  rw [← hw4] at T4
  have R4 : w4.ownsRow w1.heap.size 5 1 (.slice Ax n cx) n (cn .u8 l) := by
    rw [hw4]
    exact row_keeps HR3.out ((Keeps.refl (fun k => k = g + 1 + 1 + 1) w3).setCell (S := fun k => k = g + 1 + 1 + 1) (p := ⟨g + 1 + 1 + 1, 8, none⟩) rfl _) (fun k hk e => by have := own_block HR3.out k hk; have := HSZ.out; omega)
  have HT4 := Lib.hid T4
  have HB4 := Lib.hid B4
  have HR4 := Lib.hid R4
  have HW4 := Lib.hid hw4
  clear T4 B4 R4 hw4
  go_upto_region 13 with fail
  rw [← HW4.out]
  clear p8 z8
  have p0 : w4.cell? ⟨g + 1 + 1 + 1, 0, none⟩ = some (.slice Ax n cx) := cell_of_row _ (g + 1 + 1 + 1) 0 _ 28 _ HT4.out.2
  have p1 : w4.cell? ⟨g + 1 + 1 + 1, 1, none⟩ = some (.int .i64 0) := cell_of_row _ (g + 1 + 1 + 1) 1 _ 28 _ HT4.out.2
  have p2 : w4.cell? ⟨g + 1 + 1 + 1, 2, none⟩ = some (.int .i64 0) := cell_of_row _ (g + 1 + 1 + 1) 2 _ 28 _ HT4.out.2
  have p3 : w4.cell? ⟨g + 1 + 1 + 1, 3, none⟩ = some (.int .i64 0) := cell_of_row _ (g + 1 + 1 + 1) 3 _ 28 _ HT4.out.2
  have p4 : w4.cell? ⟨g + 1 + 1 + 1, 4, none⟩ = some (.int .i64 0) := cell_of_row _ (g + 1 + 1 + 1) 4 _ 28 _ HT4.out.2
  have p5 : w4.cell? ⟨g + 1 + 1 + 1, 5, none⟩ = some (.slice none 0 0) := cell_of_row _ (g + 1 + 1 + 1) 5 _ 28 _ HT4.out.2
  have p6 : w4.cell? ⟨g + 1 + 1 + 1, 6, none⟩ = some (.bool false) := cell_of_row _ (g + 1 + 1 + 1) 6 _ 28 _ HT4.out.2
  have p7 : w4.cell? ⟨g + 1 + 1 + 1, 7, none⟩ = some (.bool false) := cell_of_row _ (g + 1 + 1 + 1) 7 _ 28 _ HT4.out.2
  have p8 : w4.cell? ⟨g + 1 + 1 + 1, 8, none⟩ = some (.bool (bit F 2)) := cell_of_row _ (g + 1 + 1 + 1) 8 _ 28 _ HT4.out.2
  have r0 : w4.cell? ⟨g + 1, 0, none⟩ = some (.slice none 0 0) := cell_of_row _ (g + 1) 0 _ 28 _ HT4.out.1.2.1
  have r1 : w4.cell? ⟨g + 1, 1, none⟩ = some (.int .i64 0) := cell_of_row _ (g + 1) 1 _ 28 _ HT4.out.1.2.1
  have r2 : w4.cell? ⟨g + 1, 2, none⟩ = some (.int .i64 0) := cell_of_row _ (g + 1) 2 _ 28 _ HT4.out.1.2.1
  have r3 : w4.cell? ⟨g + 1, 3, none⟩ = some (.int .i64 0) := cell_of_row _ (g + 1) 3 _ 28 _ HT4.out.1.2.1
  have r4 : w4.cell? ⟨g + 1, 4, none⟩ = some (.int .i64 0) := cell_of_row _ (g + 1) 4 _ 28 _ HT4.out.1.2.1
  have r5 : w4.cell? ⟨g + 1, 5, none⟩ = some (.slice none 0 0) := cell_of_row _ (g + 1) 5 _ 28 _ HT4.out.1.2.1
  have r6 : w4.cell? ⟨g + 1, 6, none⟩ = some (.bool false) := cell_of_row _ (g + 1) 6 _ 28 _ HT4.out.1.2.1
  have r7 : w4.cell? ⟨g + 1, 7, none⟩ = some (.bool false) := cell_of_row _ (g + 1) 7 _ 28 _ HT4.out.1.2.1
  have r8 : w4.cell? ⟨g + 1, 8, none⟩ = some (.bool false) := cell_of_row _ (g + 1) 8 _ 28 _ HT4.out.1.2.1
  have t0 : w4.cell? ⟨g + 1 + 1, 0, none⟩ = some (.bool false) := cell_of_row _ (g + 1 + 1) 0 _ 30 _ HT4.out.1.2.2
  have t1 : w4.cell? ⟨g + 1 + 1, 1, none⟩ = some (.bool false) := cell_of_row _ (g + 1 + 1) 1 _ 30 _ HT4.out.1.2.2
  have t2 : w4.cell? ⟨g + 1 + 1, 2, none⟩ = some (.int .i64 0) := cell_of_row _ (g + 1 + 1) 2 _ 30 _ HT4.out.1.2.2
  obtain ⟨f0, f1, f2, f3, f4, f5, f6, f7, f8, u0, u1, u2⟩ := three_froz HT4.out.1
  have HN : Hid (PtPost w (⟨l, 0, 0, 0, 0, [], false, false, bit F 2⟩, noFlt) (.returned (.tuple #[.agg #[.slice Ax n cx, .int .i64 0, .int .i64 0, .int .i64 0, .int .i64 0, .slice none 0 0, .bool false, .bool false, .bool (bit F 2)], .agg #[.bool false, .bool false, .int .i64 0]])) (stores w4 g (.slice Ax n cx) (.int .i64 0) (.int .i64 0) (.int .i64 0) (.int .i64 0) (.slice none 0 0) (.bool false) (.bool false) (.bool (bit F 2)) (.bool false) (.bool false) (.int .i64 0))) := Lib.hid (by
    have hl := HL.out
    have hr := HR4.out
    subst hl
    exact rd_data (P := ⟨l, 0, 0, 0, 0, [], false, false, bit F 2⟩) (A := Ax) (c := cx) (B := w1.heap.size) HG.out HB4.out rfl (by have := HSZ.out; omega) hr _ _ _ _ _ _ _ _ _ _ _ _)
  go_wp2
  simp only [jumpsTo]
  refine bodyPost_ret (v := .tuple #[.agg #[.slice Ax n cx, .int .i64 0, .int .i64 0, .int .i64 0, .int .i64 0, .slice none 0 0, .bool false, .bool false, .bool (bit F 2)], .agg #[.bool false, .bool false, .int .i64 0]]) (by simp [results, Try.results18, go_sem, r0, r1, r2, r3, r4, r5, r6, r7, r8, t0, t1, t2]) rfl HN.out
end Go.Proofs.Ytelbldhnlmggiaa
