/- The document's Read: Goaway. -/
import Derived.Test.YtelbldhnlmggiaaPtFour
import Derived.BigQuiet
import Derived.Test.YtelbldhnlmggiaaPtRead8
namespace Go.Proofs.Ytelbldhnlmggiaa
open Go.RowKit Fr

set_option maxRecDepth 100000 in
set_option maxHeartbeats 4000000 in
theorem rread7_a (F S : Int) (l : List Nat) (A : Option Addr) (n c : Nat) (w : World) (hs : S ≠ 0) :
    Calls Try.prog 10 #[.agg #[.int .i64 7, .int .i64 F, .int .i64 S, .slice A n c]] w (PtPost w (noPrt, ⟨true, true, 1⟩)) := by
  have k1 : (S == 0) = false := by rw [beq_eq_false_iff_ne]; exact hs
  have k2 : (S != 0) = true := by rw [bne_iff_ne]; exact hs
  clear hs
  obtain ⟨T0, hbl, hsz⟩ := four_of w (⟨7, F, S, l⟩ : Frm) A n c
  obtain ⟨g, hg⟩ : ∃ g, g = w.heap.size := ⟨_, rfl⟩
  obtain ⟨w1, hw1⟩ : ∃ w1, w1 = w4of w (⟨7, F, S, l⟩ : Frm) A n c := ⟨_, rfl⟩
  rw [← hw1, ← hg] at T0
  rw [← hw1] at hbl hsz
  have hw1' : w1 = ((((w.alloc (.cells #[.int .i64 7, .int .i64 F, .int .i64 S, .slice A n c] 34)).alloc (.cells #[.slice none 0 0, .int .i64 0, .int .i64 0, .int .i64 0, .int .i64 0, .slice none 0 0, .bool false, .bool false, .bool false] 28)).alloc (.cells #[.bool false, .bool false, .int .i64 0] 30)).alloc (.cells #[.slice none 0 0, .int .i64 0, .int .i64 0, .int .i64 0, .int .i64 0, .slice none 0 0, .bool false, .bool false, .bool false] 28)) := hw1
  obtain ⟨x0, x1, x2, x3⟩ := three_frm T0.1
  simp only [] at x0 x1 x2 x3
  have HT := Lib.hid T0
  have HW := Lib.hid hw1'
  have HG := Lib.hid hg
  have HBL := Lib.hid hbl
  have HSZ : Hid (w1.heap.size = g + 1 + 1 + 1 + 1) := Lib.hid (by rw [hsz, hg])
  clear T0 hw1' hw1 hg hbl hsz
  go_enter Try.func10, Try.ntmps10
  go_wp2
  rw [← HW.out, ← HG.out]
  go_quiet (fail)
  have T2 := HT.out.drewN nq
  have hb2 : Below w.heap.size w (w1.drewN nq) := below_drewN HBL.out _
  have hs2 : (w1.drewN nq).heap.size = g + 1 + 1 + 1 + 1 := HSZ.out
  obtain ⟨w2, hw2⟩ : ∃ w2, w2 = w1.drewN nq := ⟨_, rfl⟩
  rw [← hw2] at T2 hb2 hs2 ⊢
  obtain ⟨x0, x1, x2, x3⟩ := three_frm T2.1
  simp only [] at x0 x1 x2 x3
  have HT2 := Lib.hid T2
  have HB2 := Lib.hid hb2
  have HS2 := Lib.hid hs2
  clear hw2 hb2 hs2 HT HW HBL HSZ
  have p0 : w2.cell? ⟨g + 1 + 1 + 1, 0, none⟩ = some (.slice none 0 0) := cell_of_row _ (g + 1 + 1 + 1) 0 _ 28 _ T2.2
  have p1 : w2.cell? ⟨g + 1 + 1 + 1, 1, none⟩ = some (.int .i64 0) := cell_of_row _ (g + 1 + 1 + 1) 1 _ 28 _ T2.2
  have p2 : w2.cell? ⟨g + 1 + 1 + 1, 2, none⟩ = some (.int .i64 0) := cell_of_row _ (g + 1 + 1 + 1) 2 _ 28 _ T2.2
  have p3 : w2.cell? ⟨g + 1 + 1 + 1, 3, none⟩ = some (.int .i64 0) := cell_of_row _ (g + 1 + 1 + 1) 3 _ 28 _ T2.2
  have p4 : w2.cell? ⟨g + 1 + 1 + 1, 4, none⟩ = some (.int .i64 0) := cell_of_row _ (g + 1 + 1 + 1) 4 _ 28 _ T2.2
  have p5 : w2.cell? ⟨g + 1 + 1 + 1, 5, none⟩ = some (.slice none 0 0) := cell_of_row _ (g + 1 + 1 + 1) 5 _ 28 _ T2.2
  have p6 : w2.cell? ⟨g + 1 + 1 + 1, 6, none⟩ = some (.bool false) := cell_of_row _ (g + 1 + 1 + 1) 6 _ 28 _ T2.2
  have p7 : w2.cell? ⟨g + 1 + 1 + 1, 7, none⟩ = some (.bool false) := cell_of_row _ (g + 1 + 1 + 1) 7 _ 28 _ T2.2
  have p8 : w2.cell? ⟨g + 1 + 1 + 1, 8, none⟩ = some (.bool false) := cell_of_row _ (g + 1 + 1 + 1) 8 _ 28 _ T2.2
  clear T2
  go_wp2
  go_region_with (first
      | ((with_reducible refine (rfault_any 1 true _).mono ?_); rintro e w3 ⟨rfl, hb3⟩; have T3 := (HT2.out.drewN 1).up hb3; have hb4 : Below w2.heap.size w2 w3 := (Below.refl _ _).drew.trans hb3; have p0 : w3.cell? ⟨g + 1 + 1 + 1, 0, none⟩ = some (.slice none 0 0) := cell_of_row _ (g + 1 + 1 + 1) 0 _ 28 _ T3.2; have p1 : w3.cell? ⟨g + 1 + 1 + 1, 1, none⟩ = some (.int .i64 0) := cell_of_row _ (g + 1 + 1 + 1) 1 _ 28 _ T3.2; have p2 : w3.cell? ⟨g + 1 + 1 + 1, 2, none⟩ = some (.int .i64 0) := cell_of_row _ (g + 1 + 1 + 1) 2 _ 28 _ T3.2; have p3 : w3.cell? ⟨g + 1 + 1 + 1, 3, none⟩ = some (.int .i64 0) := cell_of_row _ (g + 1 + 1 + 1) 3 _ 28 _ T3.2; have p4 : w3.cell? ⟨g + 1 + 1 + 1, 4, none⟩ = some (.int .i64 0) := cell_of_row _ (g + 1 + 1 + 1) 4 _ 28 _ T3.2; have p5 : w3.cell? ⟨g + 1 + 1 + 1, 5, none⟩ = some (.slice none 0 0) := cell_of_row _ (g + 1 + 1 + 1) 5 _ 28 _ T3.2; have p6 : w3.cell? ⟨g + 1 + 1 + 1, 6, none⟩ = some (.bool false) := cell_of_row _ (g + 1 + 1 + 1) 6 _ 28 _ T3.2; have p7 : w3.cell? ⟨g + 1 + 1 + 1, 7, none⟩ = some (.bool false) := cell_of_row _ (g + 1 + 1 + 1) 7 _ 28 _ T3.2; have p8 : w3.cell? ⟨g + 1 + 1 + 1, 8, none⟩ = some (.bool false) := cell_of_row _ (g + 1 + 1 + 1) 8 _ 28 _ T3.2; have r0 : w3.cell? ⟨g + 1, 0, none⟩ = some (.slice none 0 0) := cell_of_row _ (g + 1) 0 _ 28 _ T3.1.2.1; have r1 : w3.cell? ⟨g + 1, 1, none⟩ = some (.int .i64 0) := cell_of_row _ (g + 1) 1 _ 28 _ T3.1.2.1; have r2 : w3.cell? ⟨g + 1, 2, none⟩ = some (.int .i64 0) := cell_of_row _ (g + 1) 2 _ 28 _ T3.1.2.1; have r3 : w3.cell? ⟨g + 1, 3, none⟩ = some (.int .i64 0) := cell_of_row _ (g + 1) 3 _ 28 _ T3.1.2.1; have r4 : w3.cell? ⟨g + 1, 4, none⟩ = some (.int .i64 0) := cell_of_row _ (g + 1) 4 _ 28 _ T3.1.2.1; have r5 : w3.cell? ⟨g + 1, 5, none⟩ = some (.slice none 0 0) := cell_of_row _ (g + 1) 5 _ 28 _ T3.1.2.1; have r6 : w3.cell? ⟨g + 1, 6, none⟩ = some (.bool false) := cell_of_row _ (g + 1) 6 _ 28 _ T3.1.2.1; have r7 : w3.cell? ⟨g + 1, 7, none⟩ = some (.bool false) := cell_of_row _ (g + 1) 7 _ 28 _ T3.1.2.1; have r8 : w3.cell? ⟨g + 1, 8, none⟩ = some (.bool false) := cell_of_row _ (g + 1) 8 _ 28 _ T3.1.2.1; have t0 : w3.cell? ⟨g + 1 + 1, 0, none⟩ = some (.bool false) := cell_of_row _ (g + 1 + 1) 0 _ 30 _ T3.1.2.2; have t1 : w3.cell? ⟨g + 1 + 1, 1, none⟩ = some (.bool false) := cell_of_row _ (g + 1 + 1) 1 _ 30 _ T3.1.2.2; have t2 : w3.cell? ⟨g + 1 + 1, 2, none⟩ = some (.int .i64 0) := cell_of_row _ (g + 1 + 1) 2 _ 30 _ T3.1.2.2; obtain ⟨f0, f1, f2, f3, f4, f5, f6, f7, f8, u0, u1, u2⟩ := three_froz T3.1))
  all_goals
    have HN : Hid (PtPost w (noPrt, ⟨true, true, 1⟩) (.returned (.tuple #[.agg #[.slice none 0 0, .int .i64 0, .int .i64 0, .int .i64 0, .int .i64 0, .slice none 0 0, .bool false, .bool false, .bool false], .agg #[.bool true, .bool true, .int .i64 1]])) (stores w3 g (.slice none 0 0) (.int .i64 0) (.int .i64 0) (.int .i64 0) (.int .i64 0) (.slice none 0 0) (.bool false) (.bool false) (.bool false) (.bool true) (.bool true) (.int .i64 1))) := Lib.hid (rd_bare HG.out (HB2.out.trans (hb4.mono HB2.out.size)) rfl rfl _ _ _ _ _ _ _ _ _ _ _ _)
    clear T3 hb3 hb4
    go_wp2
    refine bodyPost_ret (v := .tuple #[.agg #[.slice none 0 0, .int .i64 0, .int .i64 0, .int .i64 0, .int .i64 0, .slice none 0 0, .bool false, .bool false, .bool false], .agg #[.bool true, .bool true, .int .i64 1]]) (by simp [results, Try.results10, go_sem, r0, r1, r2, r3, r4, r5, r6, r7, r8, t0, t1, t2]) rfl HN.out
set_option maxRecDepth 100000 in
set_option maxHeartbeats 4000000 in
theorem rread7_b (F S : Int) (l : List Nat) (A : Option Addr) (n c : Nat) (w : World) (hs : S = 0) (hm : n < 8) :
    Calls Try.prog 10 #[.agg #[.int .i64 7, .int .i64 F, .int .i64 S, .slice A n c]] w (PtPost w (noPrt, ⟨true, true, 6⟩)) := by
  have k1 : (S == 0) = true := by rw [hs]; rfl
  have k2 : (S != 0) = false := by rw [hs]; rfl
  clear hs
  have k3 : (n : Int) < 8 := by omega
  clear hm
  obtain ⟨T0, hbl, hsz⟩ := four_of w (⟨7, F, S, l⟩ : Frm) A n c
  obtain ⟨g, hg⟩ : ∃ g, g = w.heap.size := ⟨_, rfl⟩
  obtain ⟨w1, hw1⟩ : ∃ w1, w1 = w4of w (⟨7, F, S, l⟩ : Frm) A n c := ⟨_, rfl⟩
  rw [← hw1, ← hg] at T0
  rw [← hw1] at hbl hsz
  have hw1' : w1 = ((((w.alloc (.cells #[.int .i64 7, .int .i64 F, .int .i64 S, .slice A n c] 34)).alloc (.cells #[.slice none 0 0, .int .i64 0, .int .i64 0, .int .i64 0, .int .i64 0, .slice none 0 0, .bool false, .bool false, .bool false] 28)).alloc (.cells #[.bool false, .bool false, .int .i64 0] 30)).alloc (.cells #[.slice none 0 0, .int .i64 0, .int .i64 0, .int .i64 0, .int .i64 0, .slice none 0 0, .bool false, .bool false, .bool false] 28)) := hw1
  obtain ⟨x0, x1, x2, x3⟩ := three_frm T0.1
  simp only [] at x0 x1 x2 x3
  have HT := Lib.hid T0
  have HW := Lib.hid hw1'
  have HG := Lib.hid hg
  have HBL := Lib.hid hbl
  have HSZ : Hid (w1.heap.size = g + 1 + 1 + 1 + 1) := Lib.hid (by rw [hsz, hg])
  clear T0 hw1' hw1 hg hbl hsz
  go_enter Try.func10, Try.ntmps10
  go_wp2
  rw [← HW.out, ← HG.out]
  go_quiet (fail)
  have T2 := HT.out.drewN nq
  have hb2 : Below w.heap.size w (w1.drewN nq) := below_drewN HBL.out _
  have hs2 : (w1.drewN nq).heap.size = g + 1 + 1 + 1 + 1 := HSZ.out
  obtain ⟨w2, hw2⟩ : ∃ w2, w2 = w1.drewN nq := ⟨_, rfl⟩
  rw [← hw2] at T2 hb2 hs2 ⊢
  obtain ⟨x0, x1, x2, x3⟩ := three_frm T2.1
  simp only [] at x0 x1 x2 x3
  have HT2 := Lib.hid T2
  have HB2 := Lib.hid hb2
  have HS2 := Lib.hid hs2
  clear hw2 hb2 hs2 HT HW HBL HSZ
  have p0 : w2.cell? ⟨g + 1 + 1 + 1, 0, none⟩ = some (.slice none 0 0) := cell_of_row _ (g + 1 + 1 + 1) 0 _ 28 _ T2.2
  have p1 : w2.cell? ⟨g + 1 + 1 + 1, 1, none⟩ = some (.int .i64 0) := cell_of_row _ (g + 1 + 1 + 1) 1 _ 28 _ T2.2
  have p2 : w2.cell? ⟨g + 1 + 1 + 1, 2, none⟩ = some (.int .i64 0) := cell_of_row _ (g + 1 + 1 + 1) 2 _ 28 _ T2.2
  have p3 : w2.cell? ⟨g + 1 + 1 + 1, 3, none⟩ = some (.int .i64 0) := cell_of_row _ (g + 1 + 1 + 1) 3 _ 28 _ T2.2
  have p4 : w2.cell? ⟨g + 1 + 1 + 1, 4, none⟩ = some (.int .i64 0) := cell_of_row _ (g + 1 + 1 + 1) 4 _ 28 _ T2.2
  have p5 : w2.cell? ⟨g + 1 + 1 + 1, 5, none⟩ = some (.slice none 0 0) := cell_of_row _ (g + 1 + 1 + 1) 5 _ 28 _ T2.2
  have p6 : w2.cell? ⟨g + 1 + 1 + 1, 6, none⟩ = some (.bool false) := cell_of_row _ (g + 1 + 1 + 1) 6 _ 28 _ T2.2
  have p7 : w2.cell? ⟨g + 1 + 1 + 1, 7, none⟩ = some (.bool false) := cell_of_row _ (g + 1 + 1 + 1) 7 _ 28 _ T2.2
  have p8 : w2.cell? ⟨g + 1 + 1 + 1, 8, none⟩ = some (.bool false) := cell_of_row _ (g + 1 + 1 + 1) 8 _ 28 _ T2.2
  clear T2
  go_wp2
  go_region_with (first
      | ((with_reducible refine (rfault_any 6 true _).mono ?_); rintro e w3 ⟨rfl, hb3⟩; have T3 := (HT2.out.drewN 1).up hb3; have hb4 : Below w2.heap.size w2 w3 := (Below.refl _ _).drew.trans hb3; have p0 : w3.cell? ⟨g + 1 + 1 + 1, 0, none⟩ = some (.slice none 0 0) := cell_of_row _ (g + 1 + 1 + 1) 0 _ 28 _ T3.2; have p1 : w3.cell? ⟨g + 1 + 1 + 1, 1, none⟩ = some (.int .i64 0) := cell_of_row _ (g + 1 + 1 + 1) 1 _ 28 _ T3.2; have p2 : w3.cell? ⟨g + 1 + 1 + 1, 2, none⟩ = some (.int .i64 0) := cell_of_row _ (g + 1 + 1 + 1) 2 _ 28 _ T3.2; have p3 : w3.cell? ⟨g + 1 + 1 + 1, 3, none⟩ = some (.int .i64 0) := cell_of_row _ (g + 1 + 1 + 1) 3 _ 28 _ T3.2; have p4 : w3.cell? ⟨g + 1 + 1 + 1, 4, none⟩ = some (.int .i64 0) := cell_of_row _ (g + 1 + 1 + 1) 4 _ 28 _ T3.2; have p5 : w3.cell? ⟨g + 1 + 1 + 1, 5, none⟩ = some (.slice none 0 0) := cell_of_row _ (g + 1 + 1 + 1) 5 _ 28 _ T3.2; have p6 : w3.cell? ⟨g + 1 + 1 + 1, 6, none⟩ = some (.bool false) := cell_of_row _ (g + 1 + 1 + 1) 6 _ 28 _ T3.2; have p7 : w3.cell? ⟨g + 1 + 1 + 1, 7, none⟩ = some (.bool false) := cell_of_row _ (g + 1 + 1 + 1) 7 _ 28 _ T3.2; have p8 : w3.cell? ⟨g + 1 + 1 + 1, 8, none⟩ = some (.bool false) := cell_of_row _ (g + 1 + 1 + 1) 8 _ 28 _ T3.2; have r0 : w3.cell? ⟨g + 1, 0, none⟩ = some (.slice none 0 0) := cell_of_row _ (g + 1) 0 _ 28 _ T3.1.2.1; have r1 : w3.cell? ⟨g + 1, 1, none⟩ = some (.int .i64 0) := cell_of_row _ (g + 1) 1 _ 28 _ T3.1.2.1; have r2 : w3.cell? ⟨g + 1, 2, none⟩ = some (.int .i64 0) := cell_of_row _ (g + 1) 2 _ 28 _ T3.1.2.1; have r3 : w3.cell? ⟨g + 1, 3, none⟩ = some (.int .i64 0) := cell_of_row _ (g + 1) 3 _ 28 _ T3.1.2.1; have r4 : w3.cell? ⟨g + 1, 4, none⟩ = some (.int .i64 0) := cell_of_row _ (g + 1) 4 _ 28 _ T3.1.2.1; have r5 : w3.cell? ⟨g + 1, 5, none⟩ = some (.slice none 0 0) := cell_of_row _ (g + 1) 5 _ 28 _ T3.1.2.1; have r6 : w3.cell? ⟨g + 1, 6, none⟩ = some (.bool false) := cell_of_row _ (g + 1) 6 _ 28 _ T3.1.2.1; have r7 : w3.cell? ⟨g + 1, 7, none⟩ = some (.bool false) := cell_of_row _ (g + 1) 7 _ 28 _ T3.1.2.1; have r8 : w3.cell? ⟨g + 1, 8, none⟩ = some (.bool false) := cell_of_row _ (g + 1) 8 _ 28 _ T3.1.2.1; have t0 : w3.cell? ⟨g + 1 + 1, 0, none⟩ = some (.bool false) := cell_of_row _ (g + 1 + 1) 0 _ 30 _ T3.1.2.2; have t1 : w3.cell? ⟨g + 1 + 1, 1, none⟩ = some (.bool false) := cell_of_row _ (g + 1 + 1) 1 _ 30 _ T3.1.2.2; have t2 : w3.cell? ⟨g + 1 + 1, 2, none⟩ = some (.int .i64 0) := cell_of_row _ (g + 1 + 1) 2 _ 30 _ T3.1.2.2; obtain ⟨f0, f1, f2, f3, f4, f5, f6, f7, f8, u0, u1, u2⟩ := three_froz T3.1))
  all_goals
    have HN : Hid (PtPost w (noPrt, ⟨true, true, 6⟩) (.returned (.tuple #[.agg #[.slice none 0 0, .int .i64 0, .int .i64 0, .int .i64 0, .int .i64 0, .slice none 0 0, .bool false, .bool false, .bool false], .agg #[.bool true, .bool true, .int .i64 6]])) (stores w3 g (.slice none 0 0) (.int .i64 0) (.int .i64 0) (.int .i64 0) (.int .i64 0) (.slice none 0 0) (.bool false) (.bool false) (.bool false) (.bool true) (.bool true) (.int .i64 6))) := Lib.hid (rd_bare HG.out (HB2.out.trans (hb4.mono HB2.out.size)) rfl rfl _ _ _ _ _ _ _ _ _ _ _ _)
    clear T3 hb3 hb4
    go_wp2
    refine bodyPost_ret (v := .tuple #[.agg #[.slice none 0 0, .int .i64 0, .int .i64 0, .int .i64 0, .int .i64 0, .slice none 0 0, .bool false, .bool false, .bool false], .agg #[.bool true, .bool true, .int .i64 6]]) (by simp [results, Try.results10, go_sem, r0, r1, r2, r3, r4, r5, r6, r7, r8, t0, t1, t2]) rfl HN.out
set_option maxRecDepth 100000 in
set_option maxHeartbeats 4000000 in
theorem rread7_c (F S : Int) (l : List Nat) (A : Option Addr) (n c : Nat) (w : World) (hA : At .u8 w w.heap.size A l) (hb : ∀ x ∈ l, x < 256) (hl : l.length = n) (hcl : n ≤ c) (hs : S = 0) (hm : ¬ n < 8) :
    Calls Try.prog 10 #[.agg #[.int .i64 7, .int .i64 F, .int .i64 S, .slice A n c]] w (PtPost w (⟨[], 0, val ((l.drop 4).take 4), val (l.take 4) % 2147483648, 0, [], false, false, false⟩, noFlt)) := by
  obtain ⟨V1, hV1⟩ : ∃ V, V = val (l.take 4) := ⟨_, rfl⟩
  obtain ⟨V2, hV2⟩ : ∃ V, V = val ((l.drop 4).take 4) := ⟨_, rfl⟩
  obtain ⟨A0, hA0⟩ : ∃ A0, A0 = cutAt A c 0 := ⟨_, rfl⟩
  obtain ⟨A4, hA4⟩ : ∃ A4, A4 = cutAt A c 4 := ⟨_, rfl⟩
  obtain ⟨c4, hc4⟩ : ∃ c4, c4 = c - 4 := ⟨_, rfl⟩
  have hs1 := fun (W : World) => slice_h A n c 4 W (by omega)
  have hs2' := fun (W : World) => slice_lh A n c 4 8 4 W (by omega) (by omega) rfl
  rw [← hA0, show ((4 : Nat) : Int) = 4 from rfl] at hs1
  rw [← hA4, ← hc4, show ((4 : Nat) : Int) = 4 from rfl, show ((8 : Nat) : Int) = 8 from rfl] at hs2'
  have hVb : V1 < 4294967296 := by
    have := val_lt (l.take 4) (fun x hx => hb x (List.mem_of_mem_take hx))
    rw [List.length_take, show min 4 l.length = 4 by omega, ← hV1] at this
    exact this
  obtain ⟨T, hT⟩ : ∃ T, T = V1 % 2147483648 := ⟨_, rfl⟩
  have eT : bits .and .i64 (V1 : Int) 2147483647 = (T : Int) := by rw [and31p V1 hVb, hT]
  have HV1 : Hid (∀ W, Below w.heap.size w W → Calls Try.prog 24 #[.slice A0 4 c] W fun e w' => e = .returned (.int .i64 (V1 : Int)) ∧ w' = W) := Lib.hid (fun W hb' => by
    rw [hV1, hA0]
    exact rval_any _ (l.take 4) 4 c W ((hA.up hb').take (by omega)) (fun x hx => hb x (List.mem_of_mem_take hx)) (by rw [List.length_take]; omega) (by omega))
  have HV2 : Hid (∀ W, Below w.heap.size w W → Calls Try.prog 24 #[.slice A4 4 c4] W fun e w' => e = .returned (.int .i64 (V2 : Int)) ∧ w' = W) := Lib.hid (fun W hb' => by
    rw [hV2, hA4, hc4]
    exact rval_any _ ((l.drop 4).take 4) 4 (c - 4) W ((hA.up hb').mid (by omega)) (fun x hx => hb x (List.mem_of_mem_drop (List.mem_of_mem_take hx))) (by rw [List.length_take, List.length_drop]; omega) (by omega))
  rw [← hV1, ← hV2, ← hT]
  have k3 : ¬ (n : Int) < 8 := by omega
  have i4 : (4 : Int) ≤ (c : Int) := by omega
  have i8 : (8 : Int) ≤ (c : Int) := by omega
  clear hA hb hl hcl hV1 hV2 hA0 hA4 hc4 hT hm hVb
  have k1 : (S == 0) = true := by rw [hs]; rfl
  have k2 : (S != 0) = false := by rw [hs]; rfl
  clear hs
  obtain ⟨T0, hbl, hsz⟩ := four_of w (⟨7, F, S, l⟩ : Frm) A n c
  obtain ⟨g, hg⟩ : ∃ g, g = w.heap.size := ⟨_, rfl⟩
  obtain ⟨w1, hw1⟩ : ∃ w1, w1 = w4of w (⟨7, F, S, l⟩ : Frm) A n c := ⟨_, rfl⟩
  rw [← hw1, ← hg] at T0
  rw [← hw1] at hbl hsz
  have hw1' : w1 = ((((w.alloc (.cells #[.int .i64 7, .int .i64 F, .int .i64 S, .slice A n c] 34)).alloc (.cells #[.slice none 0 0, .int .i64 0, .int .i64 0, .int .i64 0, .int .i64 0, .slice none 0 0, .bool false, .bool false, .bool false] 28)).alloc (.cells #[.bool false, .bool false, .int .i64 0] 30)).alloc (.cells #[.slice none 0 0, .int .i64 0, .int .i64 0, .int .i64 0, .int .i64 0, .slice none 0 0, .bool false, .bool false, .bool false] 28)) := hw1
  obtain ⟨x0, x1, x2, x3⟩ := three_frm T0.1
  simp only [] at x0 x1 x2 x3
  have HT := Lib.hid T0
  have HW := Lib.hid hw1'
  have HG := Lib.hid hg
  have HBL := Lib.hid hbl
  have HSZ : Hid (w1.heap.size = g + 1 + 1 + 1 + 1) := Lib.hid (by rw [hsz, hg])
  clear T0 hw1' hw1 hg hbl hsz
  go_enter Try.func10, Try.ntmps10
  go_wp2
  rw [← HW.out, ← HG.out]
  go_quiet (fail)
  have T2 := HT.out.drewN nq
  have hb2 : Below w.heap.size w (w1.drewN nq) := below_drewN HBL.out _
  have hs2 : (w1.drewN nq).heap.size = g + 1 + 1 + 1 + 1 := HSZ.out
  obtain ⟨w2, hw2⟩ : ∃ w2, w2 = w1.drewN nq := ⟨_, rfl⟩
  rw [← hw2] at T2 hb2 hs2 ⊢
  obtain ⟨x0, x1, x2, x3⟩ := three_frm T2.1
  simp only [] at x0 x1 x2 x3
  have HT2 := Lib.hid T2
  have HB2 := Lib.hid hb2
  have HS2 := Lib.hid hs2
  clear hw2 hb2 hs2 HT HW HBL HSZ
  have z3 : w2.frozen? ⟨g + 1 + 1 + 1, 3, none⟩ = false := frozen_of_row _ (g + 1 + 1 + 1) 3 _ 28 T2.2
  have z2 : w2.frozen? ⟨g + 1 + 1 + 1, 2, none⟩ = false := frozen_of_row _ (g + 1 + 1 + 1) 2 _ 28 T2.2
  have p0 : w2.cell? ⟨g + 1 + 1 + 1, 0, none⟩ = some (.slice none 0 0) := cell_of_row _ (g + 1 + 1 + 1) 0 _ 28 _ T2.2
  have p1 : w2.cell? ⟨g + 1 + 1 + 1, 1, none⟩ = some (.int .i64 0) := cell_of_row _ (g + 1 + 1 + 1) 1 _ 28 _ T2.2
  have p2 : w2.cell? ⟨g + 1 + 1 + 1, 2, none⟩ = some (.int .i64 0) := cell_of_row _ (g + 1 + 1 + 1) 2 _ 28 _ T2.2
  have p3 : w2.cell? ⟨g + 1 + 1 + 1, 3, none⟩ = some (.int .i64 0) := cell_of_row _ (g + 1 + 1 + 1) 3 _ 28 _ T2.2
  have p4 : w2.cell? ⟨g + 1 + 1 + 1, 4, none⟩ = some (.int .i64 0) := cell_of_row _ (g + 1 + 1 + 1) 4 _ 28 _ T2.2
  have p5 : w2.cell? ⟨g + 1 + 1 + 1, 5, none⟩ = some (.slice none 0 0) := cell_of_row _ (g + 1 + 1 + 1) 5 _ 28 _ T2.2
  have p6 : w2.cell? ⟨g + 1 + 1 + 1, 6, none⟩ = some (.bool false) := cell_of_row _ (g + 1 + 1 + 1) 6 _ 28 _ T2.2
  have p7 : w2.cell? ⟨g + 1 + 1 + 1, 7, none⟩ = some (.bool false) := cell_of_row _ (g + 1 + 1 + 1) 7 _ 28 _ T2.2
  have p8 : w2.cell? ⟨g + 1 + 1 + 1, 8, none⟩ = some (.bool false) := cell_of_row _ (g + 1 + 1 + 1) 8 _ 28 _ T2.2
  have HS : Hid (∀ W cs, Four W g (⟨7, F, S, l⟩ : Frm) A n c cs → W.cell? ⟨g, 3, none⟩ = some (.slice A n c)) := Lib.hid (fun W cs h => (three_frm h.1).2.2.2)
  have HVA := Lib.hid (HV1.out w2.drew HB2.out.drew)
  have HVB := Lib.hid (HV2.out w2.drew HB2.out.drew)
  clear T2 HV1 HV2
  go_wp2
  go_region_held3 (fun w' => w'.cell? ⟨g, 3, none⟩ = some (.slice A n c))
    (first
      | exact HS.out _ _ (HT2.out.drewN 1)
      | exact HS.out _ _ ((HT2.out.drewN 1).set 3 _)
      | exact HS.out _ _ (((HT2.out.drewN 1).set 3 _).set 2 _))
    (first
      | ((with_reducible refine (HVA.out).mono ?_); rintro e w3 ⟨rfl, rfl⟩)
      | ((with_reducible refine (HVB.out).mono ?_); rintro e w3 ⟨rfl, rfl⟩))
  all_goals
    have T5 := ((HT2.out.set 3 (.int .i64 (T : Int))).set 2 (.int .i64 (V2 : Int))).drewN 1
    obtain ⟨w5, hw5⟩ : ∃ w5, w5 = ((w2.setCell ⟨g + 1 + 1 + 1, 3, none⟩ (.int .i64 (T : Int))).setCell ⟨g + 1 + 1 + 1, 2, none⟩ (.int .i64 (V2 : Int))).drew := ⟨_, rfl⟩
    have hb5 : Below w.heap.size w w5 := by
      rw [hw5]
      exact ((HB2.out.setCell (p := ⟨g + 1 + 1 + 1, 3, none⟩) (show w.heap.size ≤ g + 1 + 1 + 1 by have := HG.out; omega) _).setCell (p := ⟨g + 1 + 1 + 1, 2, none⟩) (show w.heap.size ≤ g + 1 + 1 + 1 by have := HG.out; omega) _).drew
    change Four (((w2.setCell ⟨g + 1 + 1 + 1, 3, none⟩ (.int .i64 (T : Int))).setCell ⟨g + 1 + 1 + 1, 2, none⟩ (.int .i64 (V2 : Int))).drew) _ _ _ _ _ _ at T5
    rw [← hw5] at T5 ⊢
    clear hw5 p0 p1 p2 p3 p4 p5 p6 p7 p8
    have p0 : w5.cell? ⟨g + 1 + 1 + 1, 0, none⟩ = some (.slice none 0 0) := cell_of_row _ (g + 1 + 1 + 1) 0 _ 28 _ T5.2
    have p1 : w5.cell? ⟨g + 1 + 1 + 1, 1, none⟩ = some (.int .i64 0) := cell_of_row _ (g + 1 + 1 + 1) 1 _ 28 _ T5.2
    have p2 : w5.cell? ⟨g + 1 + 1 + 1, 2, none⟩ = some (.int .i64 (V2 : Int)) := cell_of_row _ (g + 1 + 1 + 1) 2 _ 28 _ T5.2
    have p3 : w5.cell? ⟨g + 1 + 1 + 1, 3, none⟩ = some (.int .i64 (T : Int)) := cell_of_row _ (g + 1 + 1 + 1) 3 _ 28 _ T5.2
    have p4 : w5.cell? ⟨g + 1 + 1 + 1, 4, none⟩ = some (.int .i64 0) := cell_of_row _ (g + 1 + 1 + 1) 4 _ 28 _ T5.2
    have p5 : w5.cell? ⟨g + 1 + 1 + 1, 5, none⟩ = some (.slice none 0 0) := cell_of_row _ (g + 1 + 1 + 1) 5 _ 28 _ T5.2
    have p6 : w5.cell? ⟨g + 1 + 1 + 1, 6, none⟩ = some (.bool false) := cell_of_row _ (g + 1 + 1 + 1) 6 _ 28 _ T5.2
    have p7 : w5.cell? ⟨g + 1 + 1 + 1, 7, none⟩ = some (.bool false) := cell_of_row _ (g + 1 + 1 + 1) 7 _ 28 _ T5.2
    have p8 : w5.cell? ⟨g + 1 + 1 + 1, 8, none⟩ = some (.bool false) := cell_of_row _ (g + 1 + 1 + 1) 8 _ 28 _ T5.2
    have r0 : w5.cell? ⟨g + 1, 0, none⟩ = some (.slice none 0 0) := cell_of_row _ (g + 1) 0 _ 28 _ T5.1.2.1
    have r1 : w5.cell? ⟨g + 1, 1, none⟩ = some (.int .i64 0) := cell_of_row _ (g + 1) 1 _ 28 _ T5.1.2.1
    have r2 : w5.cell? ⟨g + 1, 2, none⟩ = some (.int .i64 0) := cell_of_row _ (g + 1) 2 _ 28 _ T5.1.2.1
    have r3 : w5.cell? ⟨g + 1, 3, none⟩ = some (.int .i64 0) := cell_of_row _ (g + 1) 3 _ 28 _ T5.1.2.1
    have r4 : w5.cell? ⟨g + 1, 4, none⟩ = some (.int .i64 0) := cell_of_row _ (g + 1) 4 _ 28 _ T5.1.2.1
    have r5 : w5.cell? ⟨g + 1, 5, none⟩ = some (.slice none 0 0) := cell_of_row _ (g + 1) 5 _ 28 _ T5.1.2.1
    have r6 : w5.cell? ⟨g + 1, 6, none⟩ = some (.bool false) := cell_of_row _ (g + 1) 6 _ 28 _ T5.1.2.1
    have r7 : w5.cell? ⟨g + 1, 7, none⟩ = some (.bool false) := cell_of_row _ (g + 1) 7 _ 28 _ T5.1.2.1
    have r8 : w5.cell? ⟨g + 1, 8, none⟩ = some (.bool false) := cell_of_row _ (g + 1) 8 _ 28 _ T5.1.2.1
    have t0 : w5.cell? ⟨g + 1 + 1, 0, none⟩ = some (.bool false) := cell_of_row _ (g + 1 + 1) 0 _ 30 _ T5.1.2.2
    have t1 : w5.cell? ⟨g + 1 + 1, 1, none⟩ = some (.bool false) := cell_of_row _ (g + 1 + 1) 1 _ 30 _ T5.1.2.2
    have t2 : w5.cell? ⟨g + 1 + 1, 2, none⟩ = some (.int .i64 0) := cell_of_row _ (g + 1 + 1) 2 _ 30 _ T5.1.2.2
    obtain ⟨f0, f1, f2, f3, f4, f5, f6, f7, f8, u0, u1, u2⟩ := three_froz T5.1
    have HN : Hid (PtPost w (⟨[], 0, V2, T, 0, [], false, false, false⟩, noFlt) (.returned (.tuple #[.agg #[.slice none 0 0, .int .i64 0, .int .i64 (V2 : Int), .int .i64 (T : Int), .int .i64 0, .slice none 0 0, .bool false, .bool false, .bool false], .agg #[.bool false, .bool false, .int .i64 0]])) (stores (w5) g (.slice none 0 0) (.int .i64 0) (.int .i64 (V2 : Int)) (.int .i64 (T : Int)) (.int .i64 0) (.slice none 0 0) (.bool false) (.bool false) (.bool false) (.bool false) (.bool false) (.int .i64 0))) := Lib.hid (rd_bare HG.out (hb5) rfl rfl _ _ _ _ _ _ _ _ _ _ _ _)
    clear T5
    go_wp2
    refine bodyPost_ret (v := .tuple #[.agg #[.slice none 0 0, .int .i64 0, .int .i64 (V2 : Int), .int .i64 (T : Int), .int .i64 0, .slice none 0 0, .bool false, .bool false, .bool false], .agg #[.bool false, .bool false, .int .i64 0]]) (by simp [results, Try.results10, go_sem, r0, r1, r2, r3, r4, r5, r6, r7, r8, t0, t1, t2]) rfl HN.out
end Go.Proofs.Ytelbldhnlmggiaa
