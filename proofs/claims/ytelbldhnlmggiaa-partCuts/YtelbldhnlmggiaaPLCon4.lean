/- The landed ofConn: Settings. -/
import Derived.Test.YtelbldhnlmggiaaPLNum
import Derived.Test.YtelbldhnlmggiaaPLSmall
import Derived.Test.YtelbldhnlmggiaaLJump
import Derived.Test.YtelbldhnlmggiaaFVal
import Derived.Test.YtelbldhnlmggiaaLClone
import Derived.Test.YtelbldhnlmggiaaLCut
import Derived.Test.YtelbldhnlmggiaaPLSets
import Derived.Test.YtelbldhnlmggiaaPtRead4
import Derived.Test.YtelbldhnlmggiaaPtSteps
import Derived.Deep.DeepCutAuto
import Derived.Deep.RegionHeld3
namespace Go.Proofs.Ytelbldhnlmggiaa
open Go.RowKit Fr

set_option maxRecDepth 100000 in
set_option maxHeartbeats 4000000 in
theorem pcon4_b (F S : Int) (l : List Nat) (A : Option Addr) (n c : Nat) (w : World) (hs : S = 0) (hB : bit F 0 = true) (hm : 0 < n) :
    Calls Try.prog 19 #[.agg #[.int .i64 4, .int .i64 F, .int .i64 S, .slice A n c]] w (PtPost w (noPrt, ⟨true, true, 6⟩)) := by
  have k1 : (S == 0) = true := by rw [hs]; rfl
  have k2 : (S != 0) = false := by rw [hs]; rfl
  clear hs
  have e1 : (bits .and .i64 F 1 != 0) = bit F 0 := by
    have := and_on F 0 (by omega)
    rw [show ((2 ^ 0 : Nat) : Int) = 1 from rfl] at this
    exact this
  rw [hB] at e1
  clear hB
  have k0 : (0 : Int) < (n : Int) := by omega
  clear hm
  obtain ⟨T0, hbl, hsz⟩ := four_of w (⟨4, F, S, l⟩ : Frm) A n c
  obtain ⟨g, hg⟩ : ∃ g, g = w.heap.size := ⟨_, rfl⟩
  obtain ⟨w1, hw1⟩ : ∃ w1, w1 = w4of w (⟨4, F, S, l⟩ : Frm) A n c := ⟨_, rfl⟩
  rw [← hw1, ← hg] at T0
  rw [← hw1] at hbl hsz
  have hw1' : w1 = ((((w.alloc (.cells #[.int .i64 4, .int .i64 F, .int .i64 S, .slice A n c] 34)).alloc (.cells #[.slice none 0 0, .int .i64 0, .int .i64 0, .int .i64 0, .int .i64 0, .slice none 0 0, .bool false, .bool false, .bool false] 28)).alloc (.cells #[.bool false, .bool false, .int .i64 0] 30)).alloc (.cells #[.slice none 0 0, .int .i64 0, .int .i64 0, .int .i64 0, .int .i64 0, .slice none 0 0, .bool false, .bool false, .bool false] 28)) := hw1
  obtain ⟨x0, x1, x2, x3⟩ := three_frm T0.1
  simp only [] at x0 x1 x2 x3
  have HT := Lib.hid T0
  have HW := Lib.hid hw1'
  have HG := Lib.hid hg
  have HBL := Lib.hid hbl
  have HSZ : Hid (w1.heap.size = g + 1 + 1 + 1 + 1) := Lib.hid (by rw [hsz, hg])
  clear T0 hw1' hw1 hg hbl hsz
  go_enter Try.func19, Try.ntmps19
  go_wp2
  refine wp_scope_fuel 4 ?_
  go_upto_region 2 with fail
  rw [← HW.out, ← HG.out]
  go_wp2
  go_step3
  refine JF.go (k := 3) rfl ?_
  go_wp2_with fail
  with_reducible refine (pfault_any 6 w1).mono ?_
  rintro e w9 ⟨rfl, hb9⟩
  have T9 := HT.out.up hb9
  have r0 : w9.cell? ⟨g + 1, 0, none⟩ = some (.slice none 0 0) := cell_of_row _ (g + 1) 0 _ 28 _ T9.1.2.1
  have r1 : w9.cell? ⟨g + 1, 1, none⟩ = some (.int .i64 0) := cell_of_row _ (g + 1) 1 _ 28 _ T9.1.2.1
  have r2 : w9.cell? ⟨g + 1, 2, none⟩ = some (.int .i64 0) := cell_of_row _ (g + 1) 2 _ 28 _ T9.1.2.1
  have r3 : w9.cell? ⟨g + 1, 3, none⟩ = some (.int .i64 0) := cell_of_row _ (g + 1) 3 _ 28 _ T9.1.2.1
  have r4 : w9.cell? ⟨g + 1, 4, none⟩ = some (.int .i64 0) := cell_of_row _ (g + 1) 4 _ 28 _ T9.1.2.1
  have r5 : w9.cell? ⟨g + 1, 5, none⟩ = some (.slice none 0 0) := cell_of_row _ (g + 1) 5 _ 28 _ T9.1.2.1
  have r6 : w9.cell? ⟨g + 1, 6, none⟩ = some (.bool false) := cell_of_row _ (g + 1) 6 _ 28 _ T9.1.2.1
  have r7 : w9.cell? ⟨g + 1, 7, none⟩ = some (.bool false) := cell_of_row _ (g + 1) 7 _ 28 _ T9.1.2.1
  have r8 : w9.cell? ⟨g + 1, 8, none⟩ = some (.bool false) := cell_of_row _ (g + 1) 8 _ 28 _ T9.1.2.1
  have t0 : w9.cell? ⟨g + 1 + 1, 0, none⟩ = some (.bool false) := cell_of_row _ (g + 1 + 1) 0 _ 30 _ T9.1.2.2
  have t1 : w9.cell? ⟨g + 1 + 1, 1, none⟩ = some (.bool false) := cell_of_row _ (g + 1 + 1) 1 _ 30 _ T9.1.2.2
  have t2 : w9.cell? ⟨g + 1 + 1, 2, none⟩ = some (.int .i64 0) := cell_of_row _ (g + 1 + 1) 2 _ 30 _ T9.1.2.2
  obtain ⟨f0, f1, f2, f3, f4, f5, f6, f7, f8, u0, u1, u2⟩ := three_froz T9.1
  have HN : Hid (PtPost w (noPrt, ⟨true, true, 6⟩) (.returned (.tuple #[.agg #[.slice none 0 0, .int .i64 0, .int .i64 0, .int .i64 0, .int .i64 0, .slice none 0 0, .bool false, .bool false, .bool false], .agg #[.bool true, .bool true, .int .i64 6]])) (stores w9 g (.slice none 0 0) (.int .i64 0) (.int .i64 0) (.int .i64 0) (.int .i64 0) (.slice none 0 0) (.bool false) (.bool false) (.bool false) (.bool true) (.bool true) (.int .i64 6))) := Lib.hid (rd_bare HG.out (HBL.out.trans (hb9.mono HBL.out.size)) rfl rfl _ _ _ _ _ _ _ _ _ _ _ _)
  clear T9 hb9
  go_wp2
  simp only [jumpsTo]
  refine bodyPost_ret (v := .tuple #[.agg #[.slice none 0 0, .int .i64 0, .int .i64 0, .int .i64 0, .int .i64 0, .slice none 0 0, .bool false, .bool false, .bool false], .agg #[.bool true, .bool true, .int .i64 6]]) (by simp [results, Try.results19, go_sem, r0, r1, r2, r3, r4, r5, r6, r7, r8, t0, t1, t2]) rfl HN.out
set_option maxRecDepth 100000 in
set_option maxHeartbeats 4000000 in
theorem pcon4_c (F S : Int) (l : List Nat) (A : Option Addr) (n c : Nat) (w : World) (hs : S = 0) (hB : bit F 0 = false) (hm : n % 6 ≠ 0) (hn : n ≤ 100000) :
    Calls Try.prog 19 #[.agg #[.int .i64 4, .int .i64 F, .int .i64 S, .slice A n c]] w (PtPost w (noPrt, ⟨true, true, 6⟩)) := by
  have k1 : (S == 0) = true := by rw [hs]; rfl
  have k2 : (S != 0) = false := by rw [hs]; rfl
  clear hs
  have e1 : (bits .and .i64 F 1 != 0) = bit F 0 := by
    have := and_on F 0 (by omega)
    rw [show ((2 ^ 0 : Nat) : Int) = 1 from rfl] at this
    exact this
  rw [hB] at e1
  clear hB
  obtain ⟨r6, hr6⟩ : ∃ r6, r6 = n % 6 := ⟨_, rfl⟩
  have rm : Int.tmod (n : Int) 6 = (r6 : Int) := by rw [hr6]; rw [Int.tmod_eq_emod_of_nonneg (by omega)]; omega
  have rm' : (n : Int) % 6 = (r6 : Int) := by omega
  have rz : ((r6 : Int) != 0) = true := by rw [bne_iff_ne]; omega
  have wr6 : IntKind.i64.wrap (r6 : Int) = (r6 : Int) := i64_ofNat r6 (by omega)
  clear hm hr6
  clear hn
  obtain ⟨T0, hbl, hsz⟩ := four_of w (⟨4, F, S, l⟩ : Frm) A n c
  obtain ⟨g, hg⟩ : ∃ g, g = w.heap.size := ⟨_, rfl⟩
  obtain ⟨w1, hw1⟩ : ∃ w1, w1 = w4of w (⟨4, F, S, l⟩ : Frm) A n c := ⟨_, rfl⟩
  rw [← hw1, ← hg] at T0
  rw [← hw1] at hbl hsz
  have hw1' : w1 = ((((w.alloc (.cells #[.int .i64 4, .int .i64 F, .int .i64 S, .slice A n c] 34)).alloc (.cells #[.slice none 0 0, .int .i64 0, .int .i64 0, .int .i64 0, .int .i64 0, .slice none 0 0, .bool false, .bool false, .bool false] 28)).alloc (.cells #[.bool false, .bool false, .int .i64 0] 30)).alloc (.cells #[.slice none 0 0, .int .i64 0, .int .i64 0, .int .i64 0, .int .i64 0, .slice none 0 0, .bool false, .bool false, .bool false] 28)) := hw1
  obtain ⟨x0, x1, x2, x3⟩ := three_frm T0.1
  simp only [] at x0 x1 x2 x3
  have HT := Lib.hid T0
  have HW := Lib.hid hw1'
  have HG := Lib.hid hg
  have HBL := Lib.hid hbl
  have HSZ : Hid (w1.heap.size = g + 1 + 1 + 1 + 1) := Lib.hid (by rw [hsz, hg])
  clear T0 hw1' hw1 hg hbl hsz
  go_enter Try.func19, Try.ntmps19
  go_wp2
  refine wp_scope_fuel 4 ?_
  go_upto_region 2 with fail
  rw [← HW.out, ← HG.out]
  go_wp2
  go_step3
  refine JF.go (k := 3) rfl ?_
  go_wp2_with fail
  with_reducible refine (pfault_any 6 w1).mono ?_
  rintro e w9 ⟨rfl, hb9⟩
  have T9 := HT.out.up hb9
  have r0 : w9.cell? ⟨g + 1, 0, none⟩ = some (.slice none 0 0) := cell_of_row _ (g + 1) 0 _ 28 _ T9.1.2.1
  have r1 : w9.cell? ⟨g + 1, 1, none⟩ = some (.int .i64 0) := cell_of_row _ (g + 1) 1 _ 28 _ T9.1.2.1
  have r2 : w9.cell? ⟨g + 1, 2, none⟩ = some (.int .i64 0) := cell_of_row _ (g + 1) 2 _ 28 _ T9.1.2.1
  have r3 : w9.cell? ⟨g + 1, 3, none⟩ = some (.int .i64 0) := cell_of_row _ (g + 1) 3 _ 28 _ T9.1.2.1
  have r4 : w9.cell? ⟨g + 1, 4, none⟩ = some (.int .i64 0) := cell_of_row _ (g + 1) 4 _ 28 _ T9.1.2.1
  have r5 : w9.cell? ⟨g + 1, 5, none⟩ = some (.slice none 0 0) := cell_of_row _ (g + 1) 5 _ 28 _ T9.1.2.1
  have r6 : w9.cell? ⟨g + 1, 6, none⟩ = some (.bool false) := cell_of_row _ (g + 1) 6 _ 28 _ T9.1.2.1
  have r7 : w9.cell? ⟨g + 1, 7, none⟩ = some (.bool false) := cell_of_row _ (g + 1) 7 _ 28 _ T9.1.2.1
  have r8 : w9.cell? ⟨g + 1, 8, none⟩ = some (.bool false) := cell_of_row _ (g + 1) 8 _ 28 _ T9.1.2.1
  have t0 : w9.cell? ⟨g + 1 + 1, 0, none⟩ = some (.bool false) := cell_of_row _ (g + 1 + 1) 0 _ 30 _ T9.1.2.2
  have t1 : w9.cell? ⟨g + 1 + 1, 1, none⟩ = some (.bool false) := cell_of_row _ (g + 1 + 1) 1 _ 30 _ T9.1.2.2
  have t2 : w9.cell? ⟨g + 1 + 1, 2, none⟩ = some (.int .i64 0) := cell_of_row _ (g + 1 + 1) 2 _ 30 _ T9.1.2.2
  obtain ⟨f0, f1, f2, f3, f4, f5, f6, f7, f8, u0, u1, u2⟩ := three_froz T9.1
  have HN : Hid (PtPost w (noPrt, ⟨true, true, 6⟩) (.returned (.tuple #[.agg #[.slice none 0 0, .int .i64 0, .int .i64 0, .int .i64 0, .int .i64 0, .slice none 0 0, .bool false, .bool false, .bool false], .agg #[.bool true, .bool true, .int .i64 6]])) (stores w9 g (.slice none 0 0) (.int .i64 0) (.int .i64 0) (.int .i64 0) (.int .i64 0) (.slice none 0 0) (.bool false) (.bool false) (.bool false) (.bool true) (.bool true) (.int .i64 6))) := Lib.hid (rd_bare HG.out (HBL.out.trans (hb9.mono HBL.out.size)) rfl rfl _ _ _ _ _ _ _ _ _ _ _ _)
  clear T9 hb9
  go_wp2
  simp only [jumpsTo]
  refine bodyPost_ret (v := .tuple #[.agg #[.slice none 0 0, .int .i64 0, .int .i64 0, .int .i64 0, .int .i64 0, .slice none 0 0, .bool false, .bool false, .bool false], .agg #[.bool true, .bool true, .int .i64 6]]) (by simp [results, Try.results19, go_sem, r0, r1, r2, r3, r4, r5, r6, r7, r8, t0, t1, t2]) rfl HN.out
set_option maxRecDepth 100000 in
set_option maxHeartbeats 4000000 in
theorem pcon4_d (F S : Int) (l : List Nat) (A : Option Addr) (n c : Nat) (w : World) (m : Nat) (hs : S = 0) (hB : bit F 0 = true) (hm : n = 6 * m) (h0 : n = 0) (hA : At .u8 w w.heap.size A l) (hb : ∀ x ∈ l, x < 256) (hl : l.length = n) (hcl : n ≤ c) (hn : n ≤ 100000) :
    Calls Try.prog 19 #[.agg #[.int .i64 4, .int .i64 F, .int .i64 S, .slice A n c]] w (PtPost w (⟨[], 0, 0, 0, 0, sixes l, false, true, false⟩, noFlt)) := by
  have k1 : (S == 0) = true := by rw [hs]; rfl
  have k2 : (S != 0) = false := by rw [hs]; rfl
  clear hs
  have e1 : (bits .and .i64 F 1 != 0) = bit F 0 := by
    have := and_on F 0 (by omega)
    rw [show ((2 ^ 0 : Nat) : Int) = 1 from rfl] at this
    exact this
  rw [hB] at e1
  clear hB
  have HSE : Hid (∀ W, Below w.heap.size w W → Calls Try.prog 30 #[.slice A n c] W fun e w' => ∃ A' c', e = .returned (.slice A' m c') ∧ w'.ownsRow W.heap.size 37 2 (.slice A' m c') m (cS (sixes l)) ∧ Below W.heap.size W w') := Lib.hid (fun W hb' => psets_any A l m n c W (hA.up hb') hb hl hm hcl hn)
  have HSL : Hid ((sixes l).length = m) := Lib.hid (sixes_len m l (by omega))
  obtain ⟨r6, hr6⟩ : ∃ r6, r6 = n % 6 := ⟨_, rfl⟩
  have rm : Int.tmod (n : Int) 6 = (r6 : Int) := by rw [hr6]; rw [Int.tmod_eq_emod_of_nonneg (by omega)]; omega
  have rm' : (n : Int) % 6 = (r6 : Int) := by omega
  have rz : ((r6 : Int) != 0) = false := by rw [show r6 = 0 by omega]; rfl
  have wr6 : IntKind.i64.wrap (r6 : Int) = (r6 : Int) := i64_ofNat r6 (by omega)
  obtain ⟨N, eN⟩ : ∃ N : Int, (n : Int) = N := ⟨_, rfl⟩
  rw [eN] at rm rm'
  have k0 : ¬ (0 : Int) < N := by omega
  clear hA hb hl hm hcl hn hr6 h0
  obtain ⟨T0, hbl, hsz⟩ := four_of w (⟨4, F, S, l⟩ : Frm) A n c
  obtain ⟨g, hg⟩ : ∃ g, g = w.heap.size := ⟨_, rfl⟩
  obtain ⟨w1, hw1⟩ : ∃ w1, w1 = w4of w (⟨4, F, S, l⟩ : Frm) A n c := ⟨_, rfl⟩
  rw [← hw1, ← hg] at T0
  rw [← hw1] at hbl hsz
  have hw1' : w1 = ((((w.alloc (.cells #[.int .i64 4, .int .i64 F, .int .i64 S, .slice A n c] 34)).alloc (.cells #[.slice none 0 0, .int .i64 0, .int .i64 0, .int .i64 0, .int .i64 0, .slice none 0 0, .bool false, .bool false, .bool false] 28)).alloc (.cells #[.bool false, .bool false, .int .i64 0] 30)).alloc (.cells #[.slice none 0 0, .int .i64 0, .int .i64 0, .int .i64 0, .int .i64 0, .slice none 0 0, .bool false, .bool false, .bool false] 28)) := hw1
  obtain ⟨x0, x1, x2, x3⟩ := three_frm T0.1
  simp only [] at x0 x1 x2 x3
  have HT := Lib.hid T0
  have HW := Lib.hid hw1'
  have HG := Lib.hid hg
  have HBL := Lib.hid hbl
  have HSZ : Hid (w1.heap.size = g + 1 + 1 + 1 + 1) := Lib.hid (by rw [hsz, hg])
  clear T0 hw1' hw1 hg hbl hsz
  go_enter Try.func19, Try.ntmps19
  go_wp2
  refine wp_scope_fuel 4 ?_
  go_upto_region 2 with fail
  rw [← HW.out, ← HG.out]
  go_wp2_with fail
  with_reducible refine (HSE.out w1 HBL.out).mono ?_
  rintro e w2 ⟨Ax, cx, rfl, hr2, hb2⟩
  have T2 := HT.out.up hb2
  have hbw2 := HBL.out.trans (hb2.mono HBL.out.size)
  have HT2 := Lib.hid T2
  have HB2 := Lib.hid hbw2
  have HR2 := Lib.hid hr2
  have p5 : w2.cell? ⟨g + 1 + 1 + 1, 5, none⟩ = some (.slice none 0 0) := cell_of_row _ (g + 1 + 1 + 1) 5 _ 28 _ HT2.out.2
  have z5 : w2.frozen? ⟨g + 1 + 1 + 1, 5, none⟩ = false := frozen_of_row _ (g + 1 + 1 + 1) 5 _ 28 HT2.out.2
  have p7 : w2.cell? ⟨g + 1 + 1 + 1, 7, none⟩ = some (.bool false) := cell_of_row _ (g + 1 + 1 + 1) 7 _ 28 _ HT2.out.2
  have z7 : w2.frozen? ⟨g + 1 + 1 + 1, 7, none⟩ = false := frozen_of_row _ (g + 1 + 1 + 1) 7 _ 28 HT2.out.2
  clear hb2 T2 hbw2 hr2
  obtain ⟨w3, hw3⟩ : ∃ w3, w3 = w2.setCell ⟨g + 1 + 1 + 1, 5, none⟩ (.slice Ax m cx) := ⟨_, rfl⟩
  have T3 := HT2.out.set 5 (.slice Ax m cx)
  have B3 : Below w.heap.size w w3 := by rw [hw3]; exact HB2.out.setCell (p := ⟨g + 1 + 1 + 1, 5, none⟩) (show w.heap.size ≤ g + 1 + 1 + 1 by have := HG.out; omega) _
  rw [← hw3] at T3
  have R3 : w3.ownsRow w1.heap.size 37 2 (.slice Ax m cx) m (cS (sixes l)) := by
    rw [hw3]
    exact row_keeps HR2.out ((Keeps.refl (fun k => k = g + 1 + 1 + 1) w2).setCell (S := fun k => k = g + 1 + 1 + 1) (p := ⟨g + 1 + 1 + 1, 5, none⟩) rfl _) (fun k hk e => by have := rowS_block HR2.out k hk; have := HSZ.out; omega)
  obtain ⟨w4, hw4⟩ : ∃ w4, w4 = w3.setCell ⟨g + 1 + 1 + 1, 7, none⟩ (.bool true) := ⟨_, rfl⟩
  have T4 := T3.set 7 (.bool true)
  have B4 : Below w.heap.size w w4 := by rw [hw4]; exact B3.setCell (p := ⟨g + 1 + 1 + 1, 7, none⟩) (show w.heap.size ≤ g + 1 + 1 + 1 by have := HG.out; omega) _
  rw [← hw4] at T4
  have R4 : w4.ownsRow w1.heap.size 37 2 (.slice Ax m cx) m (cS (sixes l)) := by
    rw [hw4]
    exact row_keeps R3 ((Keeps.refl (fun k => k = g + 1 + 1 + 1) w3).setCell (S := fun k => k = g + 1 + 1 + 1) (p := ⟨g + 1 + 1 + 1, 7, none⟩) rfl _) (fun k hk e => by have := rowS_block R3 k hk; have := HSZ.out; omega)
  have hw4' : w4 = (w2.setCell ⟨g + 1 + 1 + 1, 5, none⟩ (.slice Ax m cx)).setCell ⟨g + 1 + 1 + 1, 7, none⟩ (.bool true) := by rw [hw4, hw3]
  have HT4 := Lib.hid T4
  have HB4 := Lib.hid B4
  have HR4 := Lib.hid R4
  have HW4 := Lib.hid hw4'
  clear T3 B3 R3 hw3 T4 B4 R4 hw4 hw4'
  go_upto_region 14 with fail
  rw [← HW4.out]
  clear p5 z5 p7 z7
  have p0 : w4.cell? ⟨g + 1 + 1 + 1, 0, none⟩ = some (.slice none 0 0) := cell_of_row _ (g + 1 + 1 + 1) 0 _ 28 _ HT4.out.2
  have p1 : w4.cell? ⟨g + 1 + 1 + 1, 1, none⟩ = some (.int .i64 0) := cell_of_row _ (g + 1 + 1 + 1) 1 _ 28 _ HT4.out.2
  have p2 : w4.cell? ⟨g + 1 + 1 + 1, 2, none⟩ = some (.int .i64 0) := cell_of_row _ (g + 1 + 1 + 1) 2 _ 28 _ HT4.out.2
  have p3 : w4.cell? ⟨g + 1 + 1 + 1, 3, none⟩ = some (.int .i64 0) := cell_of_row _ (g + 1 + 1 + 1) 3 _ 28 _ HT4.out.2
  have p4 : w4.cell? ⟨g + 1 + 1 + 1, 4, none⟩ = some (.int .i64 0) := cell_of_row _ (g + 1 + 1 + 1) 4 _ 28 _ HT4.out.2
  have p5 : w4.cell? ⟨g + 1 + 1 + 1, 5, none⟩ = some (.slice Ax m cx) := cell_of_row _ (g + 1 + 1 + 1) 5 _ 28 _ HT4.out.2
  have p6 : w4.cell? ⟨g + 1 + 1 + 1, 6, none⟩ = some (.bool false) := cell_of_row _ (g + 1 + 1 + 1) 6 _ 28 _ HT4.out.2
  have p7 : w4.cell? ⟨g + 1 + 1 + 1, 7, none⟩ = some (.bool true) := cell_of_row _ (g + 1 + 1 + 1) 7 _ 28 _ HT4.out.2
  have p8 : w4.cell? ⟨g + 1 + 1 + 1, 8, none⟩ = some (.bool false) := cell_of_row _ (g + 1 + 1 + 1) 8 _ 28 _ HT4.out.2
  have r0 : w4.cell? ⟨g + 1, 0, none⟩ = some (.slice none 0 0) := cell_of_row _ (g + 1) 0 _ 28 _ HT4.out.1.2.1
  have r1 : w4.cell? ⟨g + 1, 1, none⟩ = some (.int .i64 0) := cell_of_row _ (g + 1) 1 _ 28 _ HT4.out.1.2.1
  have r2 : w4.cell? ⟨g + 1, 2, none⟩ = some (.int .i64 0) := cell_of_row _ (g + 1) 2 _ 28 _ HT4.out.1.2.1
  have r3 : w4.cell? ⟨g + 1, 3, none⟩ = some (.int .i64 0) := cell_of_row _ (g + 1) 3 _ 28 _ HT4.out.1.2.1
  have r4 : w4.cell? ⟨g + 1, 4, none⟩ = some (.int .i64 0) := cell_of_row _ (g + 1) 4 _ 28 _ HT4.out.1.2.1
  have r5 : w4.cell? ⟨g + 1, 5, none⟩ = some (.slice none 0 0) := cell_of_row _ (g + 1) 5 _ 28 _ HT4.out.1.2.1
  have r6 : w4.cell? ⟨g + 1, 6, none⟩ = some (.bool false) := cell_of_row _ (g + 1) 6 _ 28 _ HT4.out.1.2.1
  have r7 : w4.cell? ⟨g + 1, 7, none⟩ = some (.bool false) := cell_of_row _ (g + 1) 7 _ 28 _ HT4.out.1.2.1
  have r8 : w4.cell? ⟨g + 1, 8, none⟩ = some (.bool false) := cell_of_row _ (g + 1) 8 _ 28 _ HT4.out.1.2.1
  have t0 : w4.cell? ⟨g + 1 + 1, 0, none⟩ = some (.bool false) := cell_of_row _ (g + 1 + 1) 0 _ 30 _ HT4.out.1.2.2
  have t1 : w4.cell? ⟨g + 1 + 1, 1, none⟩ = some (.bool false) := cell_of_row _ (g + 1 + 1) 1 _ 30 _ HT4.out.1.2.2
  have t2 : w4.cell? ⟨g + 1 + 1, 2, none⟩ = some (.int .i64 0) := cell_of_row _ (g + 1 + 1) 2 _ 30 _ HT4.out.1.2.2
  obtain ⟨f0, f1, f2, f3, f4, f5, f6, f7, f8, u0, u1, u2⟩ := three_froz HT4.out.1
  have HN : Hid (PtPost w (⟨[], 0, 0, 0, 0, sixes l, false, true, false⟩, noFlt) (.returned (.tuple #[.agg #[.slice none 0 0, .int .i64 0, .int .i64 0, .int .i64 0, .int .i64 0, .slice Ax m cx, .bool false, .bool true, .bool false], .agg #[.bool false, .bool false, .int .i64 0]])) (stores w4 g (.slice none 0 0) (.int .i64 0) (.int .i64 0) (.int .i64 0) (.int .i64 0) (.slice Ax m cx) (.bool false) (.bool true) (.bool false) (.bool false) (.bool false) (.int .i64 0))) := Lib.hid (by
    have hsl := HSL.out
    have hr := HR4.out
    subst hsl
    exact rd_sets (P := ⟨[], 0, 0, 0, 0, sixes l, false, true, false⟩) (A := Ax) (d := cx) (B := w1.heap.size) HG.out HB4.out rfl (by have := HSZ.out; omega) hr _ _ _ _ _ _ _ _ _ _ _ _)
  go_wp2
  simp only [jumpsTo]
  refine bodyPost_ret (v := .tuple #[.agg #[.slice none 0 0, .int .i64 0, .int .i64 0, .int .i64 0, .int .i64 0, .slice Ax m cx, .bool false, .bool true, .bool false], .agg #[.bool false, .bool false, .int .i64 0]]) (by simp [results, Try.results19, go_sem, r0, r1, r2, r3, r4, r5, r6, r7, r8, t0, t1, t2]) rfl HN.out
set_option maxRecDepth 100000 in
set_option maxHeartbeats 4000000 in
theorem pcon4_e (F S : Int) (l : List Nat) (A : Option Addr) (n c : Nat) (w : World) (m : Nat) (hs : S = 0) (hB : bit F 0 = false) (hm : n = 6 * m) (hA : At .u8 w w.heap.size A l) (hb : ∀ x ∈ l, x < 256) (hl : l.length = n) (hcl : n ≤ c) (hn : n ≤ 100000) :
    Calls Try.prog 19 #[.agg #[.int .i64 4, .int .i64 F, .int .i64 S, .slice A n c]] w (PtPost w (⟨[], 0, 0, 0, 0, sixes l, false, false, false⟩, noFlt)) := by
  have k1 : (S == 0) = true := by rw [hs]; rfl
  have k2 : (S != 0) = false := by rw [hs]; rfl
  clear hs
  have e1 : (bits .and .i64 F 1 != 0) = bit F 0 := by
    have := and_on F 0 (by omega)
    rw [show ((2 ^ 0 : Nat) : Int) = 1 from rfl] at this
    exact this
  rw [hB] at e1
  clear hB
  have HSE : Hid (∀ W, Below w.heap.size w W → Calls Try.prog 30 #[.slice A n c] W fun e w' => ∃ A' c', e = .returned (.slice A' m c') ∧ w'.ownsRow W.heap.size 37 2 (.slice A' m c') m (cS (sixes l)) ∧ Below W.heap.size W w') := Lib.hid (fun W hb' => psets_any A l m n c W (hA.up hb') hb hl hm hcl hn)
  have HSL : Hid ((sixes l).length = m) := Lib.hid (sixes_len m l (by omega))
  obtain ⟨r6, hr6⟩ : ∃ r6, r6 = n % 6 := ⟨_, rfl⟩
  have rm : Int.tmod (n : Int) 6 = (r6 : Int) := by rw [hr6]; rw [Int.tmod_eq_emod_of_nonneg (by omega)]; omega
  have rm' : (n : Int) % 6 = (r6 : Int) := by omega
  have rz : ((r6 : Int) != 0) = false := by rw [show r6 = 0 by omega]; rfl
  have wr6 : IntKind.i64.wrap (r6 : Int) = (r6 : Int) := i64_ofNat r6 (by omega)
  clear hA hb hl hm hcl hn hr6
  obtain ⟨T0, hbl, hsz⟩ := four_of w (⟨4, F, S, l⟩ : Frm) A n c
  obtain ⟨g, hg⟩ : ∃ g, g = w.heap.size := ⟨_, rfl⟩
  obtain ⟨w1, hw1⟩ : ∃ w1, w1 = w4of w (⟨4, F, S, l⟩ : Frm) A n c := ⟨_, rfl⟩
  rw [← hw1, ← hg] at T0
  rw [← hw1] at hbl hsz
  have hw1' : w1 = ((((w.alloc (.cells #[.int .i64 4, .int .i64 F, .int .i64 S, .slice A n c] 34)).alloc (.cells #[.slice none 0 0, .int .i64 0, .int .i64 0, .int .i64 0, .int .i64 0, .slice none 0 0, .bool false, .bool false, .bool false] 28)).alloc (.cells #[.bool false, .bool false, .int .i64 0] 30)).alloc (.cells #[.slice none 0 0, .int .i64 0, .int .i64 0, .int .i64 0, .int .i64 0, .slice none 0 0, .bool false, .bool false, .bool false] 28)) := hw1
  obtain ⟨x0, x1, x2, x3⟩ := three_frm T0.1
  simp only [] at x0 x1 x2 x3
  have HT := Lib.hid T0
  have HW := Lib.hid hw1'
  have HG := Lib.hid hg
  have HBL := Lib.hid hbl
  have HSZ : Hid (w1.heap.size = g + 1 + 1 + 1 + 1) := Lib.hid (by rw [hsz, hg])
  clear T0 hw1' hw1 hg hbl hsz
  go_enter Try.func19, Try.ntmps19
  go_wp2
  refine wp_scope_fuel 4 ?_
  go_upto_region 2 with fail
  rw [← HW.out, ← HG.out]
  go_wp2_with fail
  with_reducible refine (HSE.out w1 HBL.out).mono ?_
  rintro e w2 ⟨Ax, cx, rfl, hr2, hb2⟩
  have T2 := HT.out.up hb2
  have hbw2 := HBL.out.trans (hb2.mono HBL.out.size)
  have HT2 := Lib.hid T2
  have HB2 := Lib.hid hbw2
  have HR2 := Lib.hid hr2
  have p5 : w2.cell? ⟨g + 1 + 1 + 1, 5, none⟩ = some (.slice none 0 0) := cell_of_row _ (g + 1 + 1 + 1) 5 _ 28 _ HT2.out.2
  have z5 : w2.frozen? ⟨g + 1 + 1 + 1, 5, none⟩ = false := frozen_of_row _ (g + 1 + 1 + 1) 5 _ 28 HT2.out.2
  have p7 : w2.cell? ⟨g + 1 + 1 + 1, 7, none⟩ = some (.bool false) := cell_of_row _ (g + 1 + 1 + 1) 7 _ 28 _ HT2.out.2
  have z7 : w2.frozen? ⟨g + 1 + 1 + 1, 7, none⟩ = false := frozen_of_row _ (g + 1 + 1 + 1) 7 _ 28 HT2.out.2
  clear hb2 T2 hbw2 hr2
  obtain ⟨w3, hw3⟩ : ∃ w3, w3 = w2.setCell ⟨g + 1 + 1 + 1, 5, none⟩ (.slice Ax m cx) := ⟨_, rfl⟩
  have T3 := HT2.out.set 5 (.slice Ax m cx)
  have B3 : Below w.heap.size w w3 := by rw [hw3]; exact HB2.out.setCell (p := ⟨g + 1 + 1 + 1, 5, none⟩) (show w.heap.size ≤ g + 1 + 1 + 1 by have := HG.out; omega) _
  rw [← hw3] at T3
  have R3 : w3.ownsRow w1.heap.size 37 2 (.slice Ax m cx) m (cS (sixes l)) := by
    rw [hw3]
    exact row_keeps HR2.out ((Keeps.refl (fun k => k = g + 1 + 1 + 1) w2).setCell (S := fun k => k = g + 1 + 1 + 1) (p := ⟨g + 1 + 1 + 1, 5, none⟩) rfl _) (fun k hk e => by have := rowS_block HR2.out k hk; have := HSZ.out; omega)
  obtain ⟨w4, hw4⟩ : ∃ w4, w4 = w3.setCell ⟨g + 1 + 1 + 1, 7, none⟩ (.bool false) := ⟨_, rfl⟩
  have T4 := T3.set 7 (.bool false)
  have B4 : Below w.heap.size w w4 := by rw [hw4]; exact B3.setCell (p := ⟨g + 1 + 1 + 1, 7, none⟩) (show w.heap.size ≤ g + 1 + 1 + 1 by have := HG.out; omega) _
  rw [← hw4] at T4
  have R4 : w4.ownsRow w1.heap.size 37 2 (.slice Ax m cx) m (cS (sixes l)) := by
    rw [hw4]
    exact row_keeps R3 ((Keeps.refl (fun k => k = g + 1 + 1 + 1) w3).setCell (S := fun k => k = g + 1 + 1 + 1) (p := ⟨g + 1 + 1 + 1, 7, none⟩) rfl _) (fun k hk e => by have := rowS_block R3 k hk; have := HSZ.out; omega)
  have hw4' : w4 = (w2.setCell ⟨g + 1 + 1 + 1, 5, none⟩ (.slice Ax m cx)).setCell ⟨g + 1 + 1 + 1, 7, none⟩ (.bool false) := by rw [hw4, hw3]
  have HT4 := Lib.hid T4
  have HB4 := Lib.hid B4
  have HR4 := Lib.hid R4
  have HW4 := Lib.hid hw4'
  clear T3 B3 R3 hw3 T4 B4 R4 hw4 hw4'
  go_upto_region 14 with fail
  rw [← HW4.out]
  clear p5 z5 p7 z7
  have p0 : w4.cell? ⟨g + 1 + 1 + 1, 0, none⟩ = some (.slice none 0 0) := cell_of_row _ (g + 1 + 1 + 1) 0 _ 28 _ HT4.out.2
  have p1 : w4.cell? ⟨g + 1 + 1 + 1, 1, none⟩ = some (.int .i64 0) := cell_of_row _ (g + 1 + 1 + 1) 1 _ 28 _ HT4.out.2
  have p2 : w4.cell? ⟨g + 1 + 1 + 1, 2, none⟩ = some (.int .i64 0) := cell_of_row _ (g + 1 + 1 + 1) 2 _ 28 _ HT4.out.2
  have p3 : w4.cell? ⟨g + 1 + 1 + 1, 3, none⟩ = some (.int .i64 0) := cell_of_row _ (g + 1 + 1 + 1) 3 _ 28 _ HT4.out.2
  have p4 : w4.cell? ⟨g + 1 + 1 + 1, 4, none⟩ = some (.int .i64 0) := cell_of_row _ (g + 1 + 1 + 1) 4 _ 28 _ HT4.out.2
  have p5 : w4.cell? ⟨g + 1 + 1 + 1, 5, none⟩ = some (.slice Ax m cx) := cell_of_row _ (g + 1 + 1 + 1) 5 _ 28 _ HT4.out.2
  have p6 : w4.cell? ⟨g + 1 + 1 + 1, 6, none⟩ = some (.bool false) := cell_of_row _ (g + 1 + 1 + 1) 6 _ 28 _ HT4.out.2
  have p7 : w4.cell? ⟨g + 1 + 1 + 1, 7, none⟩ = some (.bool false) := cell_of_row _ (g + 1 + 1 + 1) 7 _ 28 _ HT4.out.2
  have p8 : w4.cell? ⟨g + 1 + 1 + 1, 8, none⟩ = some (.bool false) := cell_of_row _ (g + 1 + 1 + 1) 8 _ 28 _ HT4.out.2
  have r0 : w4.cell? ⟨g + 1, 0, none⟩ = some (.slice none 0 0) := cell_of_row _ (g + 1) 0 _ 28 _ HT4.out.1.2.1
  have r1 : w4.cell? ⟨g + 1, 1, none⟩ = some (.int .i64 0) := cell_of_row _ (g + 1) 1 _ 28 _ HT4.out.1.2.1
  have r2 : w4.cell? ⟨g + 1, 2, none⟩ = some (.int .i64 0) := cell_of_row _ (g + 1) 2 _ 28 _ HT4.out.1.2.1
  have r3 : w4.cell? ⟨g + 1, 3, none⟩ = some (.int .i64 0) := cell_of_row _ (g + 1) 3 _ 28 _ HT4.out.1.2.1
  have r4 : w4.cell? ⟨g + 1, 4, none⟩ = some (.int .i64 0) := cell_of_row _ (g + 1) 4 _ 28 _ HT4.out.1.2.1
  have r5 : w4.cell? ⟨g + 1, 5, none⟩ = some (.slice none 0 0) := cell_of_row _ (g + 1) 5 _ 28 _ HT4.out.1.2.1
  have r6 : w4.cell? ⟨g + 1, 6, none⟩ = some (.bool false) := cell_of_row _ (g + 1) 6 _ 28 _ HT4.out.1.2.1
  have r7 : w4.cell? ⟨g + 1, 7, none⟩ = some (.bool false) := cell_of_row _ (g + 1) 7 _ 28 _ HT4.out.1.2.1
  have r8 : w4.cell? ⟨g + 1, 8, none⟩ = some (.bool false) := cell_of_row _ (g + 1) 8 _ 28 _ HT4.out.1.2.1
  have t0 : w4.cell? ⟨g + 1 + 1, 0, none⟩ = some (.bool false) := cell_of_row _ (g + 1 + 1) 0 _ 30 _ HT4.out.1.2.2
  have t1 : w4.cell? ⟨g + 1 + 1, 1, none⟩ = some (.bool false) := cell_of_row _ (g + 1 + 1) 1 _ 30 _ HT4.out.1.2.2
  have t2 : w4.cell? ⟨g + 1 + 1, 2, none⟩ = some (.int .i64 0) := cell_of_row _ (g + 1 + 1) 2 _ 30 _ HT4.out.1.2.2
  obtain ⟨f0, f1, f2, f3, f4, f5, f6, f7, f8, u0, u1, u2⟩ := three_froz HT4.out.1
  have HN : Hid (PtPost w (⟨[], 0, 0, 0, 0, sixes l, false, false, false⟩, noFlt) (.returned (.tuple #[.agg #[.slice none 0 0, .int .i64 0, .int .i64 0, .int .i64 0, .int .i64 0, .slice Ax m cx, .bool false, .bool false, .bool false], .agg #[.bool false, .bool false, .int .i64 0]])) (stores w4 g (.slice none 0 0) (.int .i64 0) (.int .i64 0) (.int .i64 0) (.int .i64 0) (.slice Ax m cx) (.bool false) (.bool false) (.bool false) (.bool false) (.bool false) (.int .i64 0))) := Lib.hid (by
    have hsl := HSL.out
    have hr := HR4.out
    subst hsl
    exact rd_sets (P := ⟨[], 0, 0, 0, 0, sixes l, false, false, false⟩) (A := Ax) (d := cx) (B := w1.heap.size) HG.out HB4.out rfl (by have := HSZ.out; omega) hr _ _ _ _ _ _ _ _ _ _ _ _)
  go_wp2
  simp only [jumpsTo]
  refine bodyPost_ret (v := .tuple #[.agg #[.slice none 0 0, .int .i64 0, .int .i64 0, .int .i64 0, .int .i64 0, .slice Ax m cx, .bool false, .bool false, .bool false], .agg #[.bool false, .bool false, .int .i64 0]]) (by simp [results, Try.results19, go_sem, r0, r1, r2, r3, r4, r5, r6, r7, r8, t0, t1, t2]) rfl HN.out
end Go.Proofs.Ytelbldhnlmggiaa
