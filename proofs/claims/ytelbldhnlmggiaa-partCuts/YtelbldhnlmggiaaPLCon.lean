/- The landed ofConn: Ping, Goaway. -/
import Derived.Test.YtelbldhnlmggiaaPLNum
import Derived.Test.YtelbldhnlmggiaaPLSmall
import Derived.Test.YtelbldhnlmggiaaLJump
import Derived.Test.YtelbldhnlmggiaaFVal
import Derived.Test.YtelbldhnlmggiaaLClone
import Derived.Test.YtelbldhnlmggiaaLCut
import Derived.Test.YtelbldhnlmggiaaPLSets
import Derived.Test.YtelbldhnlmggiaaPtRead4
import Derived.Test.YtelbldhnlmggiaaPtSteps
import Derived.Deep.DeepCutAuto
import Derived.Deep.RegionHeld3
namespace Go.Proofs.Ytelbldhnlmggiaa
open Go.RowKit Fr

set_option maxRecDepth 100000 in
set_option maxHeartbeats 4000000 in
theorem pcon4_a (F S : Int) (l : List Nat) (A : Option Addr) (n c : Nat) (w : World) (hs : S ≠ 0) :
    Calls Try.prog 19 #[.agg #[.int .i64 4, .int .i64 F, .int .i64 S, .slice A n c]] w (PtPost w (noPrt, ⟨true, true, 1⟩)) := by
  have k1 : (S == 0) = false := by rw [beq_eq_false_iff_ne]; exact hs
  have k2 : (S != 0) = true := by rw [bne_iff_ne]; exact hs
  clear hs
  have e1 : (bits .and .i64 F 1 != 0) = bit F 0 := by
    have := and_on F 0 (by omega)
    rw [show ((2 ^ 0 : Nat) : Int) = 1 from rfl] at this
    exact this
  obtain ⟨T0, hbl, hsz⟩ := four_of w (⟨4, F, S, l⟩ : Frm) A n c
  obtain ⟨g, hg⟩ : ∃ g, g = w.heap.size := ⟨_, rfl⟩
  obtain ⟨w1, hw1⟩ : ∃ w1, w1 = w4of w (⟨4, F, S, l⟩ : Frm) A n c := ⟨_, rfl⟩
  rw [← hw1, ← hg] at T0
  rw [← hw1] at hbl hsz
  have hw1' : w1 = ((((w.alloc (.cells #[.int .i64 4, .int .i64 F, .int .i64 S, .slice A n c] 34)).alloc (.cells #[.slice none 0 0, .int .i64 0, .int .i64 0, .int .i64 0, .int .i64 0, .slice none 0 0, .bool false, .bool false, .bool false] 28)).alloc (.cells #[.bool false, .bool false, .int .i64 0] 30)).alloc (.cells #[.slice none 0 0, .int .i64 0, .int .i64 0, .int .i64 0, .int .i64 0, .slice none 0 0, .bool false, .bool false, .bool false] 28)) := hw1
  obtain ⟨x0, x1, x2, x3⟩ := three_frm T0.1
  simp only [] at x0 x1 x2 x3
  have HT := Lib.hid T0
  have HW := Lib.hid hw1'
  have HG := Lib.hid hg
  have HBL := Lib.hid hbl
  have HSZ : Hid (w1.heap.size = g + 1 + 1 + 1 + 1) := Lib.hid (by rw [hsz, hg])
  clear T0 hw1' hw1 hg hbl hsz
  go_enter Try.func19, Try.ntmps19
  go_wp2
  refine wp_scope_fuel 4 ?_
  go_upto_region 2 with fail
  rw [← HW.out, ← HG.out]
  go_wp2
  go_step3
  refine JF.go (k := 3) rfl ?_
  go_wp2_with fail
  with_reducible refine (pfault_any 1 w1).mono ?_
  rintro e w9 ⟨rfl, hb9⟩
  have T9 := HT.out.up hb9
  have r0 : w9.cell? ⟨g + 1, 0, none⟩ = some (.slice none 0 0) := cell_of_row _ (g + 1) 0 _ 28 _ T9.1.2.1
  have r1 : w9.cell? ⟨g + 1, 1, none⟩ = some (.int .i64 0) := cell_of_row _ (g + 1) 1 _ 28 _ T9.1.2.1
  have r2 : w9.cell? ⟨g + 1, 2, none⟩ = some (.int .i64 0) := cell_of_row _ (g + 1) 2 _ 28 _ T9.1.2.1
  have r3 : w9.cell? ⟨g + 1, 3, none⟩ = some (.int .i64 0) := cell_of_row _ (g + 1) 3 _ 28 _ T9.1.2.1
  have r4 : w9.cell? ⟨g + 1, 4, none⟩ = some (.int .i64 0) := cell_of_row _ (g + 1) 4 _ 28 _ T9.1.2.1
  have r5 : w9.cell? ⟨g + 1, 5, none⟩ = some (.slice none 0 0) := cell_of_row _ (g + 1) 5 _ 28 _ T9.1.2.1
  have r6 : w9.cell? ⟨g + 1, 6, none⟩ = some (.bool false) := cell_of_row _ (g + 1) 6 _ 28 _ T9.1.2.1
  have r7 : w9.cell? ⟨g + 1, 7, none⟩ = some (.bool false) := cell_of_row _ (g + 1) 7 _ 28 _ T9.1.2.1
  have r8 : w9.cell? ⟨g + 1, 8, none⟩ = some (.bool false) := cell_of_row _ (g + 1) 8 _ 28 _ T9.1.2.1
  have t0 : w9.cell? ⟨g + 1 + 1, 0, none⟩ = some (.bool false) := cell_of_row _ (g + 1 + 1) 0 _ 30 _ T9.1.2.2
  have t1 : w9.cell? ⟨g + 1 + 1, 1, none⟩ = some (.bool false) := cell_of_row _ (g + 1 + 1) 1 _ 30 _ T9.1.2.2
  have t2 : w9.cell? ⟨g + 1 + 1, 2, none⟩ = some (.int .i64 0) := cell_of_row _ (g + 1 + 1) 2 _ 30 _ T9.1.2.2
  obtain ⟨f0, f1, f2, f3, f4, f5, f6, f7, f8, u0, u1, u2⟩ := three_froz T9.1
  have HN : Hid (PtPost w (noPrt, ⟨true, true, 1⟩) (.returned (.tuple #[.agg #[.slice none 0 0, .int .i64 0, .int .i64 0, .int .i64 0, .int .i64 0, .slice none 0 0, .bool false, .bool false, .bool false], .agg #[.bool true, .bool true, .int .i64 1]])) (stores w9 g (.slice none 0 0) (.int .i64 0) (.int .i64 0) (.int .i64 0) (.int .i64 0) (.slice none 0 0) (.bool false) (.bool false) (.bool false) (.bool true) (.bool true) (.int .i64 1))) := Lib.hid (rd_bare HG.out (HBL.out.trans (hb9.mono HBL.out.size)) rfl rfl _ _ _ _ _ _ _ _ _ _ _ _)
  clear T9 hb9
  go_wp2
  simp only [jumpsTo]
  refine bodyPost_ret (v := .tuple #[.agg #[.slice none 0 0, .int .i64 0, .int .i64 0, .int .i64 0, .int .i64 0, .slice none 0 0, .bool false, .bool false, .bool false], .agg #[.bool true, .bool true, .int .i64 1]]) (by simp [results, Try.results19, go_sem, r0, r1, r2, r3, r4, r5, r6, r7, r8, t0, t1, t2]) rfl HN.out
set_option maxRecDepth 100000 in
set_option maxHeartbeats 4000000 in
theorem pcon6_a (F S : Int) (l : List Nat) (A : Option Addr) (n c : Nat) (w : World) (hs : S ≠ 0) :
    Calls Try.prog 19 #[.agg #[.int .i64 6, .int .i64 F, .int .i64 S, .slice A n c]] w (PtPost w (noPrt, ⟨true, true, 1⟩)) := by
  have k1 : (S == 0) = false := by rw [beq_eq_false_iff_ne]; exact hs
  have k2 : (S != 0) = true := by rw [bne_iff_ne]; exact hs
  clear hs
  have e1 : (bits .and .i64 F 1 != 0) = bit F 0 := by
    have := and_on F 0 (by omega)
    rw [show ((2 ^ 0 : Nat) : Int) = 1 from rfl] at this
    exact this
  obtain ⟨T0, hbl, hsz⟩ := four_of w (⟨6, F, S, l⟩ : Frm) A n c
  obtain ⟨g, hg⟩ : ∃ g, g = w.heap.size := ⟨_, rfl⟩
  obtain ⟨w1, hw1⟩ : ∃ w1, w1 = w4of w (⟨6, F, S, l⟩ : Frm) A n c := ⟨_, rfl⟩
  rw [← hw1, ← hg] at T0
  rw [← hw1] at hbl hsz
  have hw1' : w1 = ((((w.alloc (.cells #[.int .i64 6, .int .i64 F, .int .i64 S, .slice A n c] 34)).alloc (.cells #[.slice none 0 0, .int .i64 0, .int .i64 0, .int .i64 0, .int .i64 0, .slice none 0 0, .bool false, .bool false, .bool false] 28)).alloc (.cells #[.bool false, .bool false, .int .i64 0] 30)).alloc (.cells #[.slice none 0 0, .int .i64 0, .int .i64 0, .int .i64 0, .int .i64 0, .slice none 0 0, .bool false, .bool false, .bool false] 28)) := hw1
  obtain ⟨x0, x1, x2, x3⟩ := three_frm T0.1
  simp only [] at x0 x1 x2 x3
  have HT := Lib.hid T0
  have HW := Lib.hid hw1'
  have HG := Lib.hid hg
  have HBL := Lib.hid hbl
  have HSZ : Hid (w1.heap.size = g + 1 + 1 + 1 + 1) := Lib.hid (by rw [hsz, hg])
  clear T0 hw1' hw1 hg hbl hsz
  go_enter Try.func19, Try.ntmps19
  go_wp2
  refine wp_scope_fuel 4 ?_
  go_upto_region 2 with fail
  rw [← HW.out, ← HG.out]
  go_wp2
  go_step3
  refine JF.go (k := 3) rfl ?_
  go_wp2_with fail
  with_reducible refine (pfault_any 1 w1).mono ?_
  rintro e w9 ⟨rfl, hb9⟩
  have T9 := HT.out.up hb9
  have r0 : w9.cell? ⟨g + 1, 0, none⟩ = some (.slice none 0 0) := cell_of_row _ (g + 1) 0 _ 28 _ T9.1.2.1
  have r1 : w9.cell? ⟨g + 1, 1, none⟩ = some (.int .i64 0) := cell_of_row _ (g + 1) 1 _ 28 _ T9.1.2.1
  have r2 : w9.cell? ⟨g + 1, 2, none⟩ = some (.int .i64 0) := cell_of_row _ (g + 1) 2 _ 28 _ T9.1.2.1
  have r3 : w9.cell? ⟨g + 1, 3, none⟩ = some (.int .i64 0) := cell_of_row _ (g + 1) 3 _ 28 _ T9.1.2.1
  have r4 : w9.cell? ⟨g + 1, 4, none⟩ = some (.int .i64 0) := cell_of_row _ (g + 1) 4 _ 28 _ T9.1.2.1
  have r5 : w9.cell? ⟨g + 1, 5, none⟩ = some (.slice none 0 0) := cell_of_row _ (g + 1) 5 _ 28 _ T9.1.2.1
  have r6 : w9.cell? ⟨g + 1, 6, none⟩ = some (.bool false) := cell_of_row _ (g + 1) 6 _ 28 _ T9.1.2.1
  have r7 : w9.cell? ⟨g + 1, 7, none⟩ = some (.bool false) := cell_of_row _ (g + 1) 7 _ 28 _ T9.1.2.1
  have r8 : w9.cell? ⟨g + 1, 8, none⟩ = some (.bool false) := cell_of_row _ (g + 1) 8 _ 28 _ T9.1.2.1
  have t0 : w9.cell? ⟨g + 1 + 1, 0, none⟩ = some (.bool false) := cell_of_row _ (g + 1 + 1) 0 _ 30 _ T9.1.2.2
  have t1 : w9.cell? ⟨g + 1 + 1, 1, none⟩ = some (.bool false) := cell_of_row _ (g + 1 + 1) 1 _ 30 _ T9.1.2.2
  have t2 : w9.cell? ⟨g + 1 + 1, 2, none⟩ = some (.int .i64 0) := cell_of_row _ (g + 1 + 1) 2 _ 30 _ T9.1.2.2
  obtain ⟨f0, f1, f2, f3, f4, f5, f6, f7, f8, u0, u1, u2⟩ := three_froz T9.1
  have HN : Hid (PtPost w (noPrt, ⟨true, true, 1⟩) (.returned (.tuple #[.agg #[.slice none 0 0, .int .i64 0, .int .i64 0, .int .i64 0, .int .i64 0, .slice none 0 0, .bool false, .bool false, .bool false], .agg #[.bool true, .bool true, .int .i64 1]])) (stores w9 g (.slice none 0 0) (.int .i64 0) (.int .i64 0) (.int .i64 0) (.int .i64 0) (.slice none 0 0) (.bool false) (.bool false) (.bool false) (.bool true) (.bool true) (.int .i64 1))) := Lib.hid (rd_bare HG.out (HBL.out.trans (hb9.mono HBL.out.size)) rfl rfl _ _ _ _ _ _ _ _ _ _ _ _)
  clear T9 hb9
  go_wp2
  simp only [jumpsTo]
  refine bodyPost_ret (v := .tuple #[.agg #[.slice none 0 0, .int .i64 0, .int .i64 0, .int .i64 0, .int .i64 0, .slice none 0 0, .bool false, .bool false, .bool false], .agg #[.bool true, .bool true, .int .i64 1]]) (by simp [results, Try.results19, go_sem, r0, r1, r2, r3, r4, r5, r6, r7, r8, t0, t1, t2]) rfl HN.out
set_option maxRecDepth 100000 in
set_option maxHeartbeats 4000000 in
theorem pcon7_a (F S : Int) (l : List Nat) (A : Option Addr) (n c : Nat) (w : World) (hs : S ≠ 0) :
    Calls Try.prog 19 #[.agg #[.int .i64 7, .int .i64 F, .int .i64 S, .slice A n c]] w (PtPost w (noPrt, ⟨true, true, 1⟩)) := by
  have k1 : (S == 0) = false := by rw [beq_eq_false_iff_ne]; exact hs
  have k2 : (S != 0) = true := by rw [bne_iff_ne]; exact hs
  clear hs
  have e1 : (bits .and .i64 F 1 != 0) = bit F 0 := by
    have := and_on F 0 (by omega)
    rw [show ((2 ^ 0 : Nat) : Int) = 1 from rfl] at this
    exact this
  obtain ⟨T0, hbl, hsz⟩ := four_of w (⟨7, F, S, l⟩ : Frm) A n c
  obtain ⟨g, hg⟩ : ∃ g, g = w.heap.size := ⟨_, rfl⟩
  obtain ⟨w1, hw1⟩ : ∃ w1, w1 = w4of w (⟨7, F, S, l⟩ : Frm) A n c := ⟨_, rfl⟩
  rw [← hw1, ← hg] at T0
  rw [← hw1] at hbl hsz
  have hw1' : w1 = ((((w.alloc (.cells #[.int .i64 7, .int .i64 F, .int .i64 S, .slice A n c] 34)).alloc (.cells #[.slice none 0 0, .int .i64 0, .int .i64 0, .int .i64 0, .int .i64 0, .slice none 0 0, .bool false, .bool false, .bool false] 28)).alloc (.cells #[.bool false, .bool false, .int .i64 0] 30)).alloc (.cells #[.slice none 0 0, .int .i64 0, .int .i64 0, .int .i64 0, .int .i64 0, .slice none 0 0, .bool false, .bool false, .bool false] 28)) := hw1
  obtain ⟨x0, x1, x2, x3⟩ := three_frm T0.1
  simp only [] at x0 x1 x2 x3
  have HT := Lib.hid T0
  have HW := Lib.hid hw1'
  have HG := Lib.hid hg
  have HBL := Lib.hid hbl
  have HSZ : Hid (w1.heap.size = g + 1 + 1 + 1 + 1) := Lib.hid (by rw [hsz, hg])
  clear T0 hw1' hw1 hg hbl hsz
  go_enter Try.func19, Try.ntmps19
  go_wp2
  refine wp_scope_fuel 4 ?_
  go_upto_region 2 with fail
  rw [← HW.out, ← HG.out]
  go_wp2
  go_step3
  refine JF.go (k := 3) rfl ?_
  go_wp2_with fail
  with_reducible refine (pfault_any 1 w1).mono ?_
  rintro e w9 ⟨rfl, hb9⟩
  have T9 := HT.out.up hb9
  have r0 : w9.cell? ⟨g + 1, 0, none⟩ = some (.slice none 0 0) := cell_of_row _ (g + 1) 0 _ 28 _ T9.1.2.1
  have r1 : w9.cell? ⟨g + 1, 1, none⟩ = some (.int .i64 0) := cell_of_row _ (g + 1) 1 _ 28 _ T9.1.2.1
  have r2 : w9.cell? ⟨g + 1, 2, none⟩ = some (.int .i64 0) := cell_of_row _ (g + 1) 2 _ 28 _ T9.1.2.1
  have r3 : w9.cell? ⟨g + 1, 3, none⟩ = some (.int .i64 0) := cell_of_row _ (g + 1) 3 _ 28 _ T9.1.2.1
  have r4 : w9.cell? ⟨g + 1, 4, none⟩ = some (.int .i64 0) := cell_of_row _ (g + 1) 4 _ 28 _ T9.1.2.1
  have r5 : w9.cell? ⟨g + 1, 5, none⟩ = some (.slice none 0 0) := cell_of_row _ (g + 1) 5 _ 28 _ T9.1.2.1
  have r6 : w9.cell? ⟨g + 1, 6, none⟩ = some (.bool false) := cell_of_row _ (g + 1) 6 _ 28 _ T9.1.2.1
  have r7 : w9.cell? ⟨g + 1, 7, none⟩ = some (.bool false) := cell_of_row _ (g + 1) 7 _ 28 _ T9.1.2.1
  have r8 : w9.cell? ⟨g + 1, 8, none⟩ = some (.bool false) := cell_of_row _ (g + 1) 8 _ 28 _ T9.1.2.1
  have t0 : w9.cell? ⟨g + 1 + 1, 0, none⟩ = some (.bool false) := cell_of_row _ (g + 1 + 1) 0 _ 30 _ T9.1.2.2
  have t1 : w9.cell? ⟨g + 1 + 1, 1, none⟩ = some (.bool false) := cell_of_row _ (g + 1 + 1) 1 _ 30 _ T9.1.2.2
  have t2 : w9.cell? ⟨g + 1 + 1, 2, none⟩ = some (.int .i64 0) := cell_of_row _ (g + 1 + 1) 2 _ 30 _ T9.1.2.2
  obtain ⟨f0, f1, f2, f3, f4, f5, f6, f7, f8, u0, u1, u2⟩ := three_froz T9.1
  have HN : Hid (PtPost w (noPrt, ⟨true, true, 1⟩) (.returned (.tuple #[.agg #[.slice none 0 0, .int .i64 0, .int .i64 0, .int .i64 0, .int .i64 0, .slice none 0 0, .bool false, .bool false, .bool false], .agg #[.bool true, .bool true, .int .i64 1]])) (stores w9 g (.slice none 0 0) (.int .i64 0) (.int .i64 0) (.int .i64 0) (.int .i64 0) (.slice none 0 0) (.bool false) (.bool false) (.bool false) (.bool true) (.bool true) (.int .i64 1))) := Lib.hid (rd_bare HG.out (HBL.out.trans (hb9.mono HBL.out.size)) rfl rfl _ _ _ _ _ _ _ _ _ _ _ _)
  clear T9 hb9
  go_wp2
  simp only [jumpsTo]
  refine bodyPost_ret (v := .tuple #[.agg #[.slice none 0 0, .int .i64 0, .int .i64 0, .int .i64 0, .int .i64 0, .slice none 0 0, .bool false, .bool false, .bool false], .agg #[.bool true, .bool true, .int .i64 1]]) (by simp [results, Try.results19, go_sem, r0, r1, r2, r3, r4, r5, r6, r7, r8, t0, t1, t2]) rfl HN.out
set_option maxRecDepth 100000 in
set_option maxHeartbeats 4000000 in
theorem pcon6_b (F S : Int) (l : List Nat) (A : Option Addr) (n c : Nat) (w : World) (hs : S = 0) (hm : n ≠ 8) :
    Calls Try.prog 19 #[.agg #[.int .i64 6, .int .i64 F, .int .i64 S, .slice A n c]] w (PtPost w (noPrt, ⟨true, true, 6⟩)) := by
  have k1 : (S == 0) = true := by rw [hs]; rfl
  have k2 : (S != 0) = false := by rw [hs]; rfl
  clear hs
  have e1 : (bits .and .i64 F 1 != 0) = bit F 0 := by
    have := and_on F 0 (by omega)
    rw [show ((2 ^ 0 : Nat) : Int) = 1 from rfl] at this
    exact this
  have k3 : ((n : Int) == 8) = false := by rw [beq_eq_false_iff_ne]; omega
  have k4 : ((n : Int) != 8) = true := by rw [bne_iff_ne]; omega
  clear hm
  obtain ⟨T0, hbl, hsz⟩ := four_of w (⟨6, F, S, l⟩ : Frm) A n c
  obtain ⟨g, hg⟩ : ∃ g, g = w.heap.size := ⟨_, rfl⟩
  obtain ⟨w1, hw1⟩ : ∃ w1, w1 = w4of w (⟨6, F, S, l⟩ : Frm) A n c := ⟨_, rfl⟩
  rw [← hw1, ← hg] at T0
  rw [← hw1] at hbl hsz
  have hw1' : w1 = ((((w.alloc (.cells #[.int .i64 6, .int .i64 F, .int .i64 S, .slice A n c] 34)).alloc (.cells #[.slice none 0 0, .int .i64 0, .int .i64 0, .int .i64 0, .int .i64 0, .slice none 0 0, .bool false, .bool false, .bool false] 28)).alloc (.cells #[.bool false, .bool false, .int .i64 0] 30)).alloc (.cells #[.slice none 0 0, .int .i64 0, .int .i64 0, .int .i64 0, .int .i64 0, .slice none 0 0, .bool false, .bool false, .bool false] 28)) := hw1
  obtain ⟨x0, x1, x2, x3⟩ := three_frm T0.1
  simp only [] at x0 x1 x2 x3
  have HT := Lib.hid T0
  have HW := Lib.hid hw1'
  have HG := Lib.hid hg
  have HBL := Lib.hid hbl
  have HSZ : Hid (w1.heap.size = g + 1 + 1 + 1 + 1) := Lib.hid (by rw [hsz, hg])
  clear T0 hw1' hw1 hg hbl hsz
  go_enter Try.func19, Try.ntmps19
  go_wp2
  refine wp_scope_fuel 4 ?_
  go_upto_region 2 with fail
  rw [← HW.out, ← HG.out]
  go_wp2
  go_step3
  refine JF.go (k := 3) rfl ?_
  go_wp2_with fail
  with_reducible refine (pfault_any 6 w1).mono ?_
  rintro e w9 ⟨rfl, hb9⟩
  have T9 := HT.out.up hb9
  have r0 : w9.cell? ⟨g + 1, 0, none⟩ = some (.slice none 0 0) := cell_of_row _ (g + 1) 0 _ 28 _ T9.1.2.1
  have r1 : w9.cell? ⟨g + 1, 1, none⟩ = some (.int .i64 0) := cell_of_row _ (g + 1) 1 _ 28 _ T9.1.2.1
  have r2 : w9.cell? ⟨g + 1, 2, none⟩ = some (.int .i64 0) := cell_of_row _ (g + 1) 2 _ 28 _ T9.1.2.1
  have r3 : w9.cell? ⟨g + 1, 3, none⟩ = some (.int .i64 0) := cell_of_row _ (g + 1) 3 _ 28 _ T9.1.2.1
  have r4 : w9.cell? ⟨g + 1, 4, none⟩ = some (.int .i64 0) := cell_of_row _ (g + 1) 4 _ 28 _ T9.1.2.1
  have r5 : w9.cell? ⟨g + 1, 5, none⟩ = some (.slice none 0 0) := cell_of_row _ (g + 1) 5 _ 28 _ T9.1.2.1
  have r6 : w9.cell? ⟨g + 1, 6, none⟩ = some (.bool false) := cell_of_row _ (g + 1) 6 _ 28 _ T9.1.2.1
  have r7 : w9.cell? ⟨g + 1, 7, none⟩ = some (.bool false) := cell_of_row _ (g + 1) 7 _ 28 _ T9.1.2.1
  have r8 : w9.cell? ⟨g + 1, 8, none⟩ = some (.bool false) := cell_of_row _ (g + 1) 8 _ 28 _ T9.1.2.1
  have t0 : w9.cell? ⟨g + 1 + 1, 0, none⟩ = some (.bool false) := cell_of_row _ (g + 1 + 1) 0 _ 30 _ T9.1.2.2
  have t1 : w9.cell? ⟨g + 1 + 1, 1, none⟩ = some (.bool false) := cell_of_row _ (g + 1 + 1) 1 _ 30 _ T9.1.2.2
  have t2 : w9.cell? ⟨g + 1 + 1, 2, none⟩ = some (.int .i64 0) := cell_of_row _ (g + 1 + 1) 2 _ 30 _ T9.1.2.2
  obtain ⟨f0, f1, f2, f3, f4, f5, f6, f7, f8, u0, u1, u2⟩ := three_froz T9.1
  have HN : Hid (PtPost w (noPrt, ⟨true, true, 6⟩) (.returned (.tuple #[.agg #[.slice none 0 0, .int .i64 0, .int .i64 0, .int .i64 0, .int .i64 0, .slice none 0 0, .bool false, .bool false, .bool false], .agg #[.bool true, .bool true, .int .i64 6]])) (stores w9 g (.slice none 0 0) (.int .i64 0) (.int .i64 0) (.int .i64 0) (.int .i64 0) (.slice none 0 0) (.bool false) (.bool false) (.bool false) (.bool true) (.bool true) (.int .i64 6))) := Lib.hid (rd_bare HG.out (HBL.out.trans (hb9.mono HBL.out.size)) rfl rfl _ _ _ _ _ _ _ _ _ _ _ _)
  clear T9 hb9
  go_wp2
  simp only [jumpsTo]
  refine bodyPost_ret (v := .tuple #[.agg #[.slice none 0 0, .int .i64 0, .int .i64 0, .int .i64 0, .int .i64 0, .slice none 0 0, .bool false, .bool false, .bool false], .agg #[.bool true, .bool true, .int .i64 6]]) (by simp [results, Try.results19, go_sem, r0, r1, r2, r3, r4, r5, r6, r7, r8, t0, t1, t2]) rfl HN.out
set_option maxRecDepth 100000 in
set_option maxHeartbeats 4000000 in
theorem pcon6_c (F S : Int) (l : List Nat) (A : Option Addr) (n c : Nat) (w : World) (hs : S = 0) (hm : n = 8) (hA : At .u8 w w.heap.size A l) (hl : l.length = n) (hc : A = none → c = 0) (_ : n ≤ 100000) :
    Calls Try.prog 19 #[.agg #[.int .i64 6, .int .i64 F, .int .i64 S, .slice A n c]] w (PtPost w (⟨l, 0, 0, 0, 0, [], false, bit F 0, false⟩, noFlt)) := by
  have HCP : Hid (∀ W, Below w.heap.size w W → Calls Try.prog 28 #[.slice A n c] W (RowPost W.heap.size W l)) := Lib.hid (fun W hb' => bclone_any A l n c W (hA.up hb') hl hc (by omega))
  have HL := Lib.hid hl
  have e1 := and_on F 0 (by omega)
  rw [show ((2 ^ 0 : Nat) : Int) = 1 from rfl] at e1
  clear hA hl hc
  have k1 : (S == 0) = true := by rw [hs]; rfl
  have k2 : (S != 0) = false := by rw [hs]; rfl
  clear hs
  have k3 : ((n : Int) == 8) = true := by rw [hm]; rfl
  have k4 : ((n : Int) != 8) = false := by rw [hm]; rfl
  clear hm
  obtain ⟨T0, hbl, hsz⟩ := four_of w (⟨6, F, S, l⟩ : Frm) A n c
  obtain ⟨g, hg⟩ : ∃ g, g = w.heap.size := ⟨_, rfl⟩
  obtain ⟨w1, hw1⟩ : ∃ w1, w1 = w4of w (⟨6, F, S, l⟩ : Frm) A n c := ⟨_, rfl⟩
  rw [← hw1, ← hg] at T0
  rw [← hw1] at hbl hsz
  have hw1' : w1 = ((((w.alloc (.cells #[.int .i64 6, .int .i64 F, .int .i64 S, .slice A n c] 34)).alloc (.cells #[.slice none 0 0, .int .i64 0, .int .i64 0, .int .i64 0, .int .i64 0, .slice none 0 0, .bool false, .bool false, .bool false] 28)).alloc (.cells #[.bool false, .bool false, .int .i64 0] 30)).alloc (.cells #[.slice none 0 0, .int .i64 0, .int .i64 0, .int .i64 0, .int .i64 0, .slice none 0 0, .bool false, .bool false, .bool false] 28)) := hw1
  obtain ⟨x0, x1, x2, x3⟩ := three_frm T0.1
  simp only [] at x0 x1 x2 x3
  have HT := Lib.hid T0
  have HW := Lib.hid hw1'
  have HG := Lib.hid hg
  have HBL := Lib.hid hbl
  have HSZ : Hid (w1.heap.size = g + 1 + 1 + 1 + 1) := Lib.hid (by rw [hsz, hg])
  clear T0 hw1' hw1 hg hbl hsz
  go_enter Try.func19, Try.ntmps19
  go_wp2
  refine wp_scope_fuel 4 ?_
  go_upto_region 2 with fail
  rw [← HW.out, ← HG.out]
  go_wp2_with fail
  with_reducible refine (HCP.out w1 HBL.out).mono ?_
  rintro e w2 ⟨v2, rfl, hr2, hb2⟩
  obtain ⟨Ax, cx, hv2⟩ := own_shape hr2
  rw [HL.out] at hv2 hr2
  subst hv2
  have T2 := HT.out.up hb2
  have hbw2 := HBL.out.trans (hb2.mono HBL.out.size)
  have HT2 := Lib.hid T2
  have HB2 := Lib.hid hbw2
  have HR2 := Lib.hid hr2
  have p0 : w2.cell? ⟨g + 1 + 1 + 1, 0, none⟩ = some (.slice none 0 0) := cell_of_row _ (g + 1 + 1 + 1) 0 _ 28 _ HT2.out.2
  have z0 : w2.frozen? ⟨g + 1 + 1 + 1, 0, none⟩ = false := frozen_of_row _ (g + 1 + 1 + 1) 0 _ 28 HT2.out.2
  have p7 : w2.cell? ⟨g + 1 + 1 + 1, 7, none⟩ = some (.bool false) := cell_of_row _ (g + 1 + 1 + 1) 7 _ 28 _ HT2.out.2
  have z7 : w2.frozen? ⟨g + 1 + 1 + 1, 7, none⟩ = false := frozen_of_row _ (g + 1 + 1 + 1) 7 _ 28 HT2.out.2
  clear hb2 T2 hbw2 hr2
  obtain ⟨w3, hw3⟩ : ∃ w3, w3 = w2.setCell ⟨g + 1 + 1 + 1, 0, none⟩ (.slice Ax n cx) := ⟨_, rfl⟩
  have T3 := HT2.out.set 0 (.slice Ax n cx)
  have B3 : Below w.heap.size w w3 := by rw [hw3]; exact HB2.out.setCell (p := ⟨g + 1 + 1 + 1, 0, none⟩) (show w.heap.size ≤ g + 1 + 1 + 1 by have := HG.out; omega) _
  rw [← hw3] at T3
  have R3 : w3.ownsRow w1.heap.size 5 1 (.slice Ax n cx) n (cn .u8 l) := by
    rw [hw3]
    exact row_keeps HR2.out ((Keeps.refl (fun k => k = g + 1 + 1 + 1) w2).setCell (S := fun k => k = g + 1 + 1 + 1) (p := ⟨g + 1 + 1 + 1, 0, none⟩) rfl _) (fun k hk e => by have := own_block HR2.out k hk; have := HSZ.out; omega)
  obtain ⟨w4, hw4⟩ : ∃ w4, w4 = w3.setCell ⟨g + 1 + 1 + 1, 7, none⟩ (.bool (bit F 0)) := ⟨_, rfl⟩
  have T4 := T3.set 7 (.bool (bit F 0))
  have B4 : Below w.heap.size w w4 := by rw [hw4]; exact B3.setCell (p := ⟨g + 1 + 1 + 1, 7, none⟩) (show w.heap.size ≤ g + 1 + 1 + 1 by have := HG.out; omega) _
  rw [← hw4] at T4
  have R4 : w4.ownsRow w1.heap.size 5 1 (.slice Ax n cx) n (cn .u8 l) := by
    rw [hw4]
    exact row_keeps R3 ((Keeps.refl (fun k => k = g + 1 + 1 + 1) w3).setCell (S := fun k => k = g + 1 + 1 + 1) (p := ⟨g + 1 + 1 + 1, 7, none⟩) rfl _) (fun k hk e => by have := own_block R3 k hk; have := HSZ.out; omega)
  have hw4' : w4 = (w2.setCell ⟨g + 1 + 1 + 1, 0, none⟩ (.slice Ax n cx)).setCell ⟨g + 1 + 1 + 1, 7, none⟩ (.bool (bit F 0)) := by rw [hw4, hw3]
  have HT4 := Lib.hid T4
  have HB4 := Lib.hid B4
  have HR4 := Lib.hid R4
  have HW4 := Lib.hid hw4'
  clear T3 B3 R3 hw3 T4 B4 R4 hw4 hw4'
  go_upto_region 14 with fail
  rw [← HW4.out]
  clear p0 z0 p7 z7
  have p0 : w4.cell? ⟨g + 1 + 1 + 1, 0, none⟩ = some (.slice Ax n cx) := cell_of_row _ (g + 1 + 1 + 1) 0 _ 28 _ HT4.out.2
  have p1 : w4.cell? ⟨g + 1 + 1 + 1, 1, none⟩ = some (.int .i64 0) := cell_of_row _ (g + 1 + 1 + 1) 1 _ 28 _ HT4.out.2
  have p2 : w4.cell? ⟨g + 1 + 1 + 1, 2, none⟩ = some (.int .i64 0) := cell_of_row _ (g + 1 + 1 + 1) 2 _ 28 _ HT4.out.2
  have p3 : w4.cell? ⟨g + 1 + 1 + 1, 3, none⟩ = some (.int .i64 0) := cell_of_row _ (g + 1 + 1 + 1) 3 _ 28 _ HT4.out.2
  have p4 : w4.cell? ⟨g + 1 + 1 + 1, 4, none⟩ = some (.int .i64 0) := cell_of_row _ (g + 1 + 1 + 1) 4 _ 28 _ HT4.out.2
  have p5 : w4.cell? ⟨g + 1 + 1 + 1, 5, none⟩ = some (.slice none 0 0) := cell_of_row _ (g + 1 + 1 + 1) 5 _ 28 _ HT4.out.2
  have p6 : w4.cell? ⟨g + 1 + 1 + 1, 6, none⟩ = some (.bool false) := cell_of_row _ (g + 1 + 1 + 1) 6 _ 28 _ HT4.out.2
  have p7 : w4.cell? ⟨g + 1 + 1 + 1, 7, none⟩ = some (.bool (bit F 0)) := cell_of_row _ (g + 1 + 1 + 1) 7 _ 28 _ HT4.out.2
  have p8 : w4.cell? ⟨g + 1 + 1 + 1, 8, none⟩ = some (.bool false) := cell_of_row _ (g + 1 + 1 + 1) 8 _ 28 _ HT4.out.2
  have r0 : w4.cell? ⟨g + 1, 0, none⟩ = some (.slice none 0 0) := cell_of_row _ (g + 1) 0 _ 28 _ HT4.out.1.2.1
  have r1 : w4.cell? ⟨g + 1, 1, none⟩ = some (.int .i64 0) := cell_of_row _ (g + 1) 1 _ 28 _ HT4.out.1.2.1
  have r2 : w4.cell? ⟨g + 1, 2, none⟩ = some (.int .i64 0) := cell_of_row _ (g + 1) 2 _ 28 _ HT4.out.1.2.1
  have r3 : w4.cell? ⟨g + 1, 3, none⟩ = some (.int .i64 0) := cell_of_row _ (g + 1) 3 _ 28 _ HT4.out.1.2.1
  have r4 : w4.cell? ⟨g + 1, 4, none⟩ = some (.int .i64 0) := cell_of_row _ (g + 1) 4 _ 28 _ HT4.out.1.2.1
  have r5 : w4.cell? ⟨g + 1, 5, none⟩ = some (.slice none 0 0) := cell_of_row _ (g + 1) 5 _ 28 _ HT4.out.1.2.1
  have r6 : w4.cell? ⟨g + 1, 6, none⟩ = some (.bool false) := cell_of_row _ (g + 1) 6 _ 28 _ HT4.out.1.2.1
  have r7 : w4.cell? ⟨g + 1, 7, none⟩ = some (.bool false) := cell_of_row _ (g + 1) 7 _ 28 _ HT4.out.1.2.1
  have r8 : w4.cell? ⟨g + 1, 8, none⟩ = some (.bool false) := cell_of_row _ (g + 1) 8 _ 28 _ HT4.out.1.2.1
  have t0 : w4.cell? ⟨g + 1 + 1, 0, none⟩ = some (.bool false) := cell_of_row _ (g + 1 + 1) 0 _ 30 _ HT4.out.1.2.2
  have t1 : w4.cell? ⟨g + 1 + 1, 1, none⟩ = some (.bool false) := cell_of_row _ (g + 1 + 1) 1 _ 30 _ HT4.out.1.2.2
  have t2 : w4.cell? ⟨g + 1 + 1, 2, none⟩ = some (.int .i64 0) := cell_of_row _ (g + 1 + 1) 2 _ 30 _ HT4.out.1.2.2
  obtain ⟨f0, f1, f2, f3, f4, f5, f6, f7, f8, u0, u1, u2⟩ := three_froz HT4.out.1
  have HN : Hid (PtPost w (⟨l, 0, 0, 0, 0, [], false, bit F 0, false⟩, noFlt) (.returned (.tuple #[.agg #[.slice Ax n cx, .int .i64 0, .int .i64 0, .int .i64 0, .int .i64 0, .slice none 0 0, .bool false, .bool (bit F 0), .bool false], .agg #[.bool false, .bool false, .int .i64 0]])) (stores w4 g (.slice Ax n cx) (.int .i64 0) (.int .i64 0) (.int .i64 0) (.int .i64 0) (.slice none 0 0) (.bool false) (.bool (bit F 0)) (.bool false) (.bool false) (.bool false) (.int .i64 0))) := Lib.hid (by
    have hl := HL.out
    have hr := HR4.out
    subst hl
    exact rd_data (P := ⟨l, 0, 0, 0, 0, [], false, bit F 0, false⟩) (A := Ax) (c := cx) (B := w1.heap.size) HG.out HB4.out rfl (by have := HSZ.out; omega) hr _ _ _ _ _ _ _ _ _ _ _ _)
  go_wp2
  simp only [jumpsTo]
  refine bodyPost_ret (v := .tuple #[.agg #[.slice Ax n cx, .int .i64 0, .int .i64 0, .int .i64 0, .int .i64 0, .slice none 0 0, .bool false, .bool (bit F 0), .bool false], .agg #[.bool false, .bool false, .int .i64 0]]) (by simp [results, Try.results19, go_sem, r0, r1, r2, r3, r4, r5, r6, r7, r8, t0, t1, t2]) rfl HN.out
set_option maxRecDepth 100000 in
set_option maxHeartbeats 4000000 in
theorem pcon7_b (F S : Int) (l : List Nat) (A : Option Addr) (n c : Nat) (w : World) (hs : S = 0) (hm : n < 8) :
    Calls Try.prog 19 #[.agg #[.int .i64 7, .int .i64 F, .int .i64 S, .slice A n c]] w (PtPost w (noPrt, ⟨true, true, 6⟩)) := by
  have k1 : (S == 0) = true := by rw [hs]; rfl
  have k2 : (S != 0) = false := by rw [hs]; rfl
  clear hs
  have e1 : (bits .and .i64 F 1 != 0) = bit F 0 := by
    have := and_on F 0 (by omega)
    rw [show ((2 ^ 0 : Nat) : Int) = 1 from rfl] at this
    exact this
  have k8 : (n : Int) < 8 := by omega
  clear hm
  obtain ⟨T0, hbl, hsz⟩ := four_of w (⟨7, F, S, l⟩ : Frm) A n c
  obtain ⟨g, hg⟩ : ∃ g, g = w.heap.size := ⟨_, rfl⟩
  obtain ⟨w1, hw1⟩ : ∃ w1, w1 = w4of w (⟨7, F, S, l⟩ : Frm) A n c := ⟨_, rfl⟩
  rw [← hw1, ← hg] at T0
  rw [← hw1] at hbl hsz
  have hw1' : w1 = ((((w.alloc (.cells #[.int .i64 7, .int .i64 F, .int .i64 S, .slice A n c] 34)).alloc (.cells #[.slice none 0 0, .int .i64 0, .int .i64 0, .int .i64 0, .int .i64 0, .slice none 0 0, .bool false, .bool false, .bool false] 28)).alloc (.cells #[.bool false, .bool false, .int .i64 0] 30)).alloc (.cells #[.slice none 0 0, .int .i64 0, .int .i64 0, .int .i64 0, .int .i64 0, .slice none 0 0, .bool false, .bool false, .bool false] 28)) := hw1
  obtain ⟨x0, x1, x2, x3⟩ := three_frm T0.1
  simp only [] at x0 x1 x2 x3
  have HT := Lib.hid T0
  have HW := Lib.hid hw1'
  have HG := Lib.hid hg
  have HBL := Lib.hid hbl
  have HSZ : Hid (w1.heap.size = g + 1 + 1 + 1 + 1) := Lib.hid (by rw [hsz, hg])
  clear T0 hw1' hw1 hg hbl hsz
  go_enter Try.func19, Try.ntmps19
  go_wp2
  refine wp_scope_fuel 4 ?_
  go_upto_region 2 with fail
  rw [← HW.out, ← HG.out]
  go_wp2
  go_step3
  refine JF.go (k := 3) rfl ?_
  go_wp2_with fail
  with_reducible refine (pfault_any 6 w1).mono ?_
  rintro e w9 ⟨rfl, hb9⟩
  have T9 := HT.out.up hb9
  have r0 : w9.cell? ⟨g + 1, 0, none⟩ = some (.slice none 0 0) := cell_of_row _ (g + 1) 0 _ 28 _ T9.1.2.1
  have r1 : w9.cell? ⟨g + 1, 1, none⟩ = some (.int .i64 0) := cell_of_row _ (g + 1) 1 _ 28 _ T9.1.2.1
  have r2 : w9.cell? ⟨g + 1, 2, none⟩ = some (.int .i64 0) := cell_of_row _ (g + 1) 2 _ 28 _ T9.1.2.1
  have r3 : w9.cell? ⟨g + 1, 3, none⟩ = some (.int .i64 0) := cell_of_row _ (g + 1) 3 _ 28 _ T9.1.2.1
  have r4 : w9.cell? ⟨g + 1, 4, none⟩ = some (.int .i64 0) := cell_of_row _ (g + 1) 4 _ 28 _ T9.1.2.1
  have r5 : w9.cell? ⟨g + 1, 5, none⟩ = some (.slice none 0 0) := cell_of_row _ (g + 1) 5 _ 28 _ T9.1.2.1
  have r6 : w9.cell? ⟨g + 1, 6, none⟩ = some (.bool false) := cell_of_row _ (g + 1) 6 _ 28 _ T9.1.2.1
  have r7 : w9.cell? ⟨g + 1, 7, none⟩ = some (.bool false) := cell_of_row _ (g + 1) 7 _ 28 _ T9.1.2.1
  have r8 : w9.cell? ⟨g + 1, 8, none⟩ = some (.bool false) := cell_of_row _ (g + 1) 8 _ 28 _ T9.1.2.1
  have t0 : w9.cell? ⟨g + 1 + 1, 0, none⟩ = some (.bool false) := cell_of_row _ (g + 1 + 1) 0 _ 30 _ T9.1.2.2
  have t1 : w9.cell? ⟨g + 1 + 1, 1, none⟩ = some (.bool false) := cell_of_row _ (g + 1 + 1) 1 _ 30 _ T9.1.2.2
  have t2 : w9.cell? ⟨g + 1 + 1, 2, none⟩ = some (.int .i64 0) := cell_of_row _ (g + 1 + 1) 2 _ 30 _ T9.1.2.2
  obtain ⟨f0, f1, f2, f3, f4, f5, f6, f7, f8, u0, u1, u2⟩ := three_froz T9.1
  have HN : Hid (PtPost w (noPrt, ⟨true, true, 6⟩) (.returned (.tuple #[.agg #[.slice none 0 0, .int .i64 0, .int .i64 0, .int .i64 0, .int .i64 0, .slice none 0 0, .bool false, .bool false, .bool false], .agg #[.bool true, .bool true, .int .i64 6]])) (stores w9 g (.slice none 0 0) (.int .i64 0) (.int .i64 0) (.int .i64 0) (.int .i64 0) (.slice none 0 0) (.bool false) (.bool false) (.bool false) (.bool true) (.bool true) (.int .i64 6))) := Lib.hid (rd_bare HG.out (HBL.out.trans (hb9.mono HBL.out.size)) rfl rfl _ _ _ _ _ _ _ _ _ _ _ _)
  clear T9 hb9
  go_wp2
  simp only [jumpsTo]
  refine bodyPost_ret (v := .tuple #[.agg #[.slice none 0 0, .int .i64 0, .int .i64 0, .int .i64 0, .int .i64 0, .slice none 0 0, .bool false, .bool false, .bool false], .agg #[.bool true, .bool true, .int .i64 6]]) (by simp [results, Try.results19, go_sem, r0, r1, r2, r3, r4, r5, r6, r7, r8, t0, t1, t2]) rfl HN.out
set_option maxRecDepth 100000 in
set_option maxHeartbeats 4000000 in
theorem pcon7_c (F S : Int) (l : List Nat) (A : Option Addr) (n c : Nat) (w : World) (hs : S = 0) (hm : ¬ n < 8) (hA : At .u8 w w.heap.size A l) (hb : ∀ x ∈ l, x < 256) (hl : l.length = n) (hcl : n ≤ c) :
    Calls Try.prog 19 #[.agg #[.int .i64 7, .int .i64 F, .int .i64 S, .slice A n c]] w (PtPost w (⟨[], 0, val ((l.drop 4).take 4), val (l.take 4) % 2147483648, 0, [], false, false, false⟩, noFlt)) := by
  obtain ⟨V1, hV1⟩ : ∃ V, V = val (l.take 4) := ⟨_, rfl⟩
  obtain ⟨V2, hV2⟩ : ∃ V, V = val ((l.drop 4).take 4) := ⟨_, rfl⟩
  obtain ⟨A4, hA4⟩ : ∃ A4, A4 = cutAt A c 4 := ⟨_, rfl⟩
  obtain ⟨c4, hc4⟩ : ∃ c4, c4 = c - 4 := ⟨_, rfl⟩
  obtain ⟨n4, hn4⟩ : ∃ n4, n4 = n - 4 := ⟨_, rfl⟩
  have hs4 := fun (W : World) => slice_l A n c 4 n4 W (by omega) hn4.symm
  rw [← hA4, ← hc4, show ((4 : Nat) : Int) = 4 from rfl] at hs4
  have i4 : (4 : Int) ≤ (n : Int) := by omega
  have hVb : V1 < 4294967296 := by
    have := val_lt (l.take 4) (fun x hx => hb x (List.mem_of_mem_take hx))
    rw [List.length_take, show min 4 l.length = 4 by omega, ← hV1] at this
    exact this
  obtain ⟨T, hT⟩ : ∃ T, T = V1 % 2147483648 := ⟨_, rfl⟩
  have eT : bits .and .i64 (V1 : Int) 2147483647 = (T : Int) := by
    have := i64_and_nat V1 2147483647 (by omega) (by omega)
    rw [show (2147483647 : Nat) = 2 ^ 31 - 1 by decide, Nat.and_two_pow_sub_one_eq_mod] at this
    rw [hT]
    exact this
  have HV1 : Hid (∀ W, Below w.heap.size w W → Calls Try.prog 29 #[.slice A n c] W fun e w' => e = .returned (.int .i64 (V1 : Int)) ∧ Below W.heap.size W w') := Lib.hid (fun W hb' => by
    rw [hV1]
    refine (pnumber_any A l n c W (hA.up hb') hb hl (by omega)).mono ?_
    rintro e w' ⟨rfl, k, rfl⟩
    exact ⟨rfl, below_drewN (Below.refl _ _) _⟩)
  have HV2 : Hid (∀ W, Below w.heap.size w W → Calls Try.prog 29 #[.slice A4 n4 c4] W fun e w' => e = .returned (.int .i64 (V2 : Int)) ∧ Below W.heap.size W w') := Lib.hid (fun W hb' => by
    rw [hV2, hA4, hc4]
    refine (pnumber_any _ (l.drop 4) n4 (c - 4) W ((hA.up hb').drop (by omega)) (fun x hx => hb x (List.mem_of_mem_drop hx)) (by rw [List.length_drop]; omega) (by omega)).mono ?_
    rintro e w' ⟨rfl, k, rfl⟩
    exact ⟨rfl, below_drewN (Below.refl _ _) _⟩)
  rw [← hV1, ← hV2, ← hT]
  have k8 : ¬ (n : Int) < 8 := by omega
  clear hA hb hl hcl hV1 hV2 hA4 hc4 hn4 hT hm hVb
  have e1 : (bits .and .i64 F 1 != 0) = bit F 0 := by
    have := and_on F 0 (by omega)
    rw [show ((2 ^ 0 : Nat) : Int) = 1 from rfl] at this
    exact this
  have k1 : (S == 0) = true := by rw [hs]; rfl
  have k2 : (S != 0) = false := by rw [hs]; rfl
  clear hs
  obtain ⟨T0, hbl, hsz⟩ := four_of w (⟨7, F, S, l⟩ : Frm) A n c
  obtain ⟨g, hg⟩ : ∃ g, g = w.heap.size := ⟨_, rfl⟩
  obtain ⟨w1, hw1⟩ : ∃ w1, w1 = w4of w (⟨7, F, S, l⟩ : Frm) A n c := ⟨_, rfl⟩
  rw [← hw1, ← hg] at T0
  rw [← hw1] at hbl hsz
  have hw1' : w1 = ((((w.alloc (.cells #[.int .i64 7, .int .i64 F, .int .i64 S, .slice A n c] 34)).alloc (.cells #[.slice none 0 0, .int .i64 0, .int .i64 0, .int .i64 0, .int .i64 0, .slice none 0 0, .bool false, .bool false, .bool false] 28)).alloc (.cells #[.bool false, .bool false, .int .i64 0] 30)).alloc (.cells #[.slice none 0 0, .int .i64 0, .int .i64 0, .int .i64 0, .int .i64 0, .slice none 0 0, .bool false, .bool false, .bool false] 28)) := hw1
  obtain ⟨x0, x1, x2, x3⟩ := three_frm T0.1
  simp only [] at x0 x1 x2 x3
  have HT := Lib.hid T0
  have HW := Lib.hid hw1'
  have HG := Lib.hid hg
  have HBL := Lib.hid hbl
  have HSZ : Hid (w1.heap.size = g + 1 + 1 + 1 + 1) := Lib.hid (by rw [hsz, hg])
  clear T0 hw1' hw1 hg hbl hsz
  go_enter Try.func19, Try.ntmps19
  go_wp2
  refine wp_scope_fuel 4 ?_
  go_upto_region 2 with fail
  rw [← HW.out, ← HG.out]
  go_wp2_with fail
  have hH1 : w1.drew.cell? ⟨g, 3, none⟩ = some (.slice A n c) := x3
  refine wp_region_held_drew (S := fun w' => w'.cell? ⟨g, 3, none⟩ = some (.slice A n c)) (by kernel_rfl) hH1 (fun hHeld => ?_)
  refine wpAnyH_take (i := 0) (v := ?_) rfl (by kernel_rfl) (by kernel_rfl) (by kernel_rfl) (fun _ _ _ h => h) (Or.inl ⟨by rfl, ?_⟩) hHeld ?_
  rotate_left
  · intro w hSw
    try dsimp only at hSw
    go_simp
    try with_reducible rfl
  change wpAnyH _ _ _ _ _ _ _ (Act.put _ (some 55) _) _
  simp only [Act.put, List.setIfInBounds_toArray, List.set_cons_zero, List.set_cons_succ]
  refine wpAnyH_take (i := 1) (v := ?_) rfl (by kernel_rfl) (by kernel_rfl) (by kernel_rfl) (fun _ _ _ h => h) (Or.inl ⟨by rfl, ?_⟩) hHeld ?_
  rotate_left
  · intro w hSw
    try dsimp only at hSw
    go_simp
    try with_reducible rfl
  change wpAnyH _ _ _ _ _ _ _ (Act.put _ (some 56) _) _
  simp only [Act.put, List.setIfInBounds_toArray, List.set_cons_zero, List.set_cons_succ]
  refine wpAnyH_take (i := 4) (v := ?_) rfl (by kernel_rfl) (by kernel_rfl) (by kernel_rfl) (fun _ _ _ h => h) (Or.inl ⟨by rfl, ?_⟩) hHeld ?_
  rotate_left
  · intro w hSw
    try dsimp only at hSw
    go_simp
    try with_reducible rfl
  change wpAnyH _ _ _ _ _ _ _ (Act.put _ (some 59) _) _
  simp only [Act.put, List.setIfInBounds_toArray, List.set_cons_zero, List.set_cons_succ]
  refine wpAnyH_take (i := 5) (v := ?_) rfl (by kernel_rfl) (by kernel_rfl) (by kernel_rfl) (fun _ _ _ h => h) (Or.inl ⟨by rfl, ?_⟩) hHeld ?_
  rotate_left
  · intro w hSw
    try dsimp only at hSw
    go_simp
    try with_reducible rfl
  change wpAnyH _ _ _ _ _ _ _ (Act.put _ (some 60) _) _
  simp only [Act.put, List.setIfInBounds_toArray, List.set_cons_zero, List.set_cons_succ]
  refine wpAnyH_take (i := 6) (v := ?_) rfl (by kernel_rfl) (by kernel_rfl) (by kernel_rfl) (fun _ _ _ h => h) (Or.inl ⟨by rfl, ?_⟩) hHeld ?_
  rotate_left
  · intro w hSw
    try dsimp only at hSw
    go_simp
    try with_reducible rfl
  change wpAnyH _ _ _ _ _ _ _ (Act.put _ (some 61) _) _
  simp only [Act.put, List.setIfInBounds_toArray, List.set_cons_zero, List.set_cons_succ]
  have hb0 : Below w.heap.size w w1.drew := HBL.out.drew
  have T00 : Four w1.drew g (⟨7, F, S, l⟩ : Frm) A n c zeroP := HT.out.drewN 1
  obtain ⟨y0, hy0⟩ : ∃ y0, y0 = w1.drew := ⟨_, rfl⟩
  rw [← hy0] at hb0 T00 hHeld ⊢
  clear hy0 hH1
  have HT0 := Lib.hid T00
  have HB0 := Lib.hid hb0
  clear T00 hb0
  refine wpAnyH_ready (rs := [2]) (by kernel_rfl) (by simp) ?_
  refine AllReadyH.cons rfl (fun K hK => ?_) AllReadyH.nil
  go_simp
  with_reducible refine (HV1.out y0 HB0.out).mono ?_
  rintro e y1 ⟨rfl, hby1⟩
  have Ty1 := HT0.out.up hby1
  have by1 := HB0.out.trans (hby1.mono HB0.out.size)
  refine hK.out _ _ (three_frm Ty1.1).2.2.2 (fun hHeld => ?_)
  clear hK K
  have HT1 := Lib.hid Ty1
  have HB1 := Lib.hid by1
  clear hby1 Ty1 by1
  refine wpAnyH_take (i := 3) (v := ?_) rfl (by kernel_rfl) (by kernel_rfl) (by kernel_rfl) (fun _ _ _ h => h) (Or.inl ⟨by rfl, ?_⟩) hHeld ?_
  rotate_left
  · intro w hSw
    try dsimp only at hSw
    go_simp
    try with_reducible rfl
  change wpAnyH _ _ _ _ _ _ _ (Act.put _ (some 58) _) _
  simp only [Act.put, List.setIfInBounds_toArray, List.set_cons_zero, List.set_cons_succ]
  refine wpAnyH_take (i := 8) (v := ?_) rfl (by kernel_rfl) (by kernel_rfl) (by kernel_rfl) (fun _ _ _ h => h) (Or.inl ⟨by rfl, ?_⟩) hHeld ?_
  rotate_left
  · intro w hSw
    try dsimp only at hSw
    go_simp
    try with_reducible rfl
  change wpAnyH _ _ _ _ _ _ _ (Act.put _ (some 63) _) _
  simp only [Act.put, List.setIfInBounds_toArray, List.set_cons_zero, List.set_cons_succ]
  refine wpAnyH_ready (rs := [7]) (by kernel_rfl) (by simp) ?_
  refine AllReadyH.cons rfl (fun K hK => ?_) AllReadyH.nil
  go_simp
  with_reducible refine (HV2.out y1 HB1.out).mono ?_
  rintro e y2 ⟨rfl, hby2⟩
  have Ty2 := HT1.out.up hby2
  have by2 := HB1.out.trans (hby2.mono HB1.out.size)
  refine hK.out _ _ (three_frm Ty2.1).2.2.2 (fun hHeld => ?_)
  clear hK K
  have HT2 := Lib.hid Ty2
  have HB2 := Lib.hid by2
  clear hby2 Ty2 by2
  have p3 : y2.cell? ⟨g + 1 + 1 + 1, 3, none⟩ = some (.int .i64 0) := cell_of_row _ (g + 1 + 1 + 1) 3 _ 28 _ HT2.out.2
  have z3 : y2.frozen? ⟨g + 1 + 1 + 1, 3, none⟩ = false := frozen_of_row _ (g + 1 + 1 + 1) 3 _ 28 HT2.out.2
  have p2 : y2.cell? ⟨g + 1 + 1 + 1, 2, none⟩ = some (.int .i64 0) := cell_of_row _ (g + 1 + 1 + 1) 2 _ 28 _ HT2.out.2
  have z2 : y2.frozen? ⟨g + 1 + 1 + 1, 2, none⟩ = false := frozen_of_row _ (g + 1 + 1 + 1) 2 _ 28 HT2.out.2
  refine wpAnyH_ready (rs := [9]) (by kernel_rfl) (by simp) ?_
  refine AllReadyH.cons rfl (fun K hK => ?_) AllReadyH.nil
  go_simp
  refine hK.out _ _ (three_frm (HT2.out.set 3 _).1).2.2.2 (fun hHeld => ?_)
  clear hK K
  refine wpAnyH_take (i := 10) (v := ?_) rfl (by kernel_rfl) (by kernel_rfl) (by kernel_rfl) (fun _ _ _ h => h) (Or.inl ⟨by rfl, ?_⟩) hHeld ?_
  rotate_left
  · intro w hSw
    try dsimp only at hSw
    go_simp
    try with_reducible rfl
  change wpAnyH _ _ _ _ _ _ _ (Act.put _ (some 64) _) _
  simp only [Act.put, List.setIfInBounds_toArray, List.set_cons_zero, List.set_cons_succ]
  refine wpAnyH_ready (rs := [11]) (by kernel_rfl) (by simp) ?_
  refine AllReadyH.cons rfl (fun K hK => ?_) AllReadyH.nil
  go_simp
  refine hK.out _ _ (three_frm ((HT2.out.set 3 _).set 2 _).1).2.2.2 (fun hHeld => ?_)
  clear hK K
  refine wpAnyH_done (by kernel_rfl) ?_ _
  have T5 := (HT2.out.set 3 (.int .i64 (T : Int))).set 2 (.int .i64 (V2 : Int))
  obtain ⟨w5, hw5⟩ : ∃ w5, w5 = (y2.setCell ⟨g + 1 + 1 + 1, 3, none⟩ (.int .i64 (T : Int))).setCell ⟨g + 1 + 1 + 1, 2, none⟩ (.int .i64 (V2 : Int)) := ⟨_, rfl⟩
  have hb5 : Below w.heap.size w w5 := by
    rw [hw5]
    exact (HB2.out.setCell (p := ⟨g + 1 + 1 + 1, 3, none⟩) (show w.heap.size ≤ g + 1 + 1 + 1 by have := HG.out; omega) _).setCell (p := ⟨g + 1 + 1 + 1, 2, none⟩) (show w.heap.size ≤ g + 1 + 1 + 1 by have := HG.out; omega) _
  rw [← hw5] at T5 ⊢
  clear hw5 p3 p2 z3 z2
  have p0 : w5.cell? ⟨g + 1 + 1 + 1, 0, none⟩ = some (.slice none 0 0) := cell_of_row _ (g + 1 + 1 + 1) 0 _ 28 _ T5.2
  have p1 : w5.cell? ⟨g + 1 + 1 + 1, 1, none⟩ = some (.int .i64 0) := cell_of_row _ (g + 1 + 1 + 1) 1 _ 28 _ T5.2
  have p2 : w5.cell? ⟨g + 1 + 1 + 1, 2, none⟩ = some (.int .i64 (V2 : Int)) := cell_of_row _ (g + 1 + 1 + 1) 2 _ 28 _ T5.2
  have p3 : w5.cell? ⟨g + 1 + 1 + 1, 3, none⟩ = some (.int .i64 (T : Int)) := cell_of_row _ (g + 1 + 1 + 1) 3 _ 28 _ T5.2
  have p4 : w5.cell? ⟨g + 1 + 1 + 1, 4, none⟩ = some (.int .i64 0) := cell_of_row _ (g + 1 + 1 + 1) 4 _ 28 _ T5.2
  have p5 : w5.cell? ⟨g + 1 + 1 + 1, 5, none⟩ = some (.slice none 0 0) := cell_of_row _ (g + 1 + 1 + 1) 5 _ 28 _ T5.2
  have p6 : w5.cell? ⟨g + 1 + 1 + 1, 6, none⟩ = some (.bool false) := cell_of_row _ (g + 1 + 1 + 1) 6 _ 28 _ T5.2
  have p7 : w5.cell? ⟨g + 1 + 1 + 1, 7, none⟩ = some (.bool false) := cell_of_row _ (g + 1 + 1 + 1) 7 _ 28 _ T5.2
  have p8 : w5.cell? ⟨g + 1 + 1 + 1, 8, none⟩ = some (.bool false) := cell_of_row _ (g + 1 + 1 + 1) 8 _ 28 _ T5.2
  have r0 : w5.cell? ⟨g + 1, 0, none⟩ = some (.slice none 0 0) := cell_of_row _ (g + 1) 0 _ 28 _ T5.1.2.1
  have r1 : w5.cell? ⟨g + 1, 1, none⟩ = some (.int .i64 0) := cell_of_row _ (g + 1) 1 _ 28 _ T5.1.2.1
  have r2 : w5.cell? ⟨g + 1, 2, none⟩ = some (.int .i64 0) := cell_of_row _ (g + 1) 2 _ 28 _ T5.1.2.1
  have r3 : w5.cell? ⟨g + 1, 3, none⟩ = some (.int .i64 0) := cell_of_row _ (g + 1) 3 _ 28 _ T5.1.2.1
  have r4 : w5.cell? ⟨g + 1, 4, none⟩ = some (.int .i64 0) := cell_of_row _ (g + 1) 4 _ 28 _ T5.1.2.1
  have r5 : w5.cell? ⟨g + 1, 5, none⟩ = some (.slice none 0 0) := cell_of_row _ (g + 1) 5 _ 28 _ T5.1.2.1
  have r6 : w5.cell? ⟨g + 1, 6, none⟩ = some (.bool false) := cell_of_row _ (g + 1) 6 _ 28 _ T5.1.2.1
  have r7 : w5.cell? ⟨g + 1, 7, none⟩ = some (.bool false) := cell_of_row _ (g + 1) 7 _ 28 _ T5.1.2.1
  have r8 : w5.cell? ⟨g + 1, 8, none⟩ = some (.bool false) := cell_of_row _ (g + 1) 8 _ 28 _ T5.1.2.1
  have t0 : w5.cell? ⟨g + 1 + 1, 0, none⟩ = some (.bool false) := cell_of_row _ (g + 1 + 1) 0 _ 30 _ T5.1.2.2
  have t1 : w5.cell? ⟨g + 1 + 1, 1, none⟩ = some (.bool false) := cell_of_row _ (g + 1 + 1) 1 _ 30 _ T5.1.2.2
  have t2 : w5.cell? ⟨g + 1 + 1, 2, none⟩ = some (.int .i64 0) := cell_of_row _ (g + 1 + 1) 2 _ 30 _ T5.1.2.2
  obtain ⟨f0, f1, f2, f3, f4, f5, f6, f7, f8, u0, u1, u2⟩ := three_froz T5.1
  have HN : Hid (PtPost w (⟨[], 0, V2, T, 0, [], false, false, false⟩, noFlt) (.returned (.tuple #[.agg #[.slice none 0 0, .int .i64 0, .int .i64 (V2 : Int), .int .i64 (T : Int), .int .i64 0, .slice none 0 0, .bool false, .bool false, .bool false], .agg #[.bool false, .bool false, .int .i64 0]])) (stores w5 g (.slice none 0 0) (.int .i64 0) (.int .i64 (V2 : Int)) (.int .i64 (T : Int)) (.int .i64 0) (.slice none 0 0) (.bool false) (.bool false) (.bool false) (.bool false) (.bool false) (.int .i64 0))) := Lib.hid (rd_bare HG.out hb5 rfl rfl _ _ _ _ _ _ _ _ _ _ _ _)
  clear T5 hb5
  go_wp2
  simp only [jumpsTo]
  refine bodyPost_ret (v := .tuple #[.agg #[.slice none 0 0, .int .i64 0, .int .i64 (V2 : Int), .int .i64 (T : Int), .int .i64 0, .slice none 0 0, .bool false, .bool false, .bool false], .agg #[.bool false, .bool false, .int .i64 0]]) (by simp [results, Try.results19, go_sem, r0, r1, r2, r3, r4, r5, r6, r7, r8, t0, t1, t2]) rfl HN.out
end Go.Proofs.Ytelbldhnlmggiaa
