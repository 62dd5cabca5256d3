/- The document's Read: Update. -/
import Derived.Test.YtelbldhnlmggiaaPtFour
import Derived.BigQuiet
import Derived.Test.YtelbldhnlmggiaaPBits
namespace Go.Proofs.Ytelbldhnlmggiaa
open Go.RowKit Fr

theorem and31p (a : Nat) (ha : a < 4294967296) : bits .and .i64 (a : Int) 2147483647 = ((a % 2147483648 : Nat) : Int) := by
  have := i64_and_nat a 2147483647 (by omega) (by omega)
  rw [show (2147483647 : Nat) = 2 ^ 31 - 1 by decide, Nat.and_two_pow_sub_one_eq_mod] at this
  exact this
set_option maxRecDepth 100000 in
set_option maxHeartbeats 4000000 in
theorem rread8_a (F S : Int) (l : List Nat) (A : Option Addr) (n c : Nat) (w : World) (hm : n ≠ 4) :
    Calls Try.prog 10 #[.agg #[.int .i64 8, .int .i64 F, .int .i64 S, .slice A n c]] w (PtPost w (noPrt, ⟨true, true, 6⟩)) := by
  have k3 : ((n : Int) == 4) = false := by rw [beq_eq_false_iff_ne]; omega
  have k4 : ((n : Int) != 4) = true := by rw [bne_iff_ne]; omega
  clear hm
  obtain ⟨T0, hbl, hsz⟩ := four_of w (⟨8, F, S, l⟩ : Frm) A n c
  obtain ⟨g, hg⟩ : ∃ g, g = w.heap.size := ⟨_, rfl⟩
  obtain ⟨w1, hw1⟩ : ∃ w1, w1 = w4of w (⟨8, F, S, l⟩ : Frm) A n c := ⟨_, rfl⟩
  rw [← hw1, ← hg] at T0
  rw [← hw1] at hbl hsz
  have hw1' : w1 = ((((w.alloc (.cells #[.int .i64 8, .int .i64 F, .int .i64 S, .slice A n c] 34)).alloc (.cells #[.slice none 0 0, .int .i64 0, .int .i64 0, .int .i64 0, .int .i64 0, .slice none 0 0, .bool false, .bool false, .bool false] 28)).alloc (.cells #[.bool false, .bool false, .int .i64 0] 30)).alloc (.cells #[.slice none 0 0, .int .i64 0, .int .i64 0, .int .i64 0, .int .i64 0, .slice none 0 0, .bool false, .bool false, .bool false] 28)) := hw1
  obtain ⟨x0, x1, x2, x3⟩ := three_frm T0.1
  simp only [] at x0 x1 x2 x3
  have HT := Lib.hid T0
  have HW := Lib.hid hw1'
  have HG := Lib.hid hg
  have HBL := Lib.hid hbl
  have HSZ : Hid (w1.heap.size = g + 1 + 1 + 1 + 1) := Lib.hid (by rw [hsz, hg])
  clear T0 hw1' hw1 hg hbl hsz
  go_enter Try.func10, Try.ntmps10
  go_wp2
  rw [← HW.out, ← HG.out]
  go_quiet (fail)
  have T2 := HT.out.drewN nq
  have hb2 : Below w.heap.size w (w1.drewN nq) := below_drewN HBL.out _
  have hs2 : (w1.drewN nq).heap.size = g + 1 + 1 + 1 + 1 := HSZ.out
  obtain ⟨w2, hw2⟩ : ∃ w2, w2 = w1.drewN nq := ⟨_, rfl⟩
  rw [← hw2] at T2 hb2 hs2 ⊢
  obtain ⟨x0, x1, x2, x3⟩ := three_frm T2.1
  simp only [] at x0 x1 x2 x3
  have HT2 := Lib.hid T2
  have HB2 := Lib.hid hb2
  have HS2 := Lib.hid hs2
  clear hw2 hb2 hs2 HT HW HBL HSZ
  have p0 : w2.cell? ⟨g + 1 + 1 + 1, 0, none⟩ = some (.slice none 0 0) := cell_of_row _ (g + 1 + 1 + 1) 0 _ 28 _ T2.2
  have p1 : w2.cell? ⟨g + 1 + 1 + 1, 1, none⟩ = some (.int .i64 0) := cell_of_row _ (g + 1 + 1 + 1) 1 _ 28 _ T2.2
  have p2 : w2.cell? ⟨g + 1 + 1 + 1, 2, none⟩ = some (.int .i64 0) := cell_of_row _ (g + 1 + 1 + 1) 2 _ 28 _ T2.2
  have p3 : w2.cell? ⟨g + 1 + 1 + 1, 3, none⟩ = some (.int .i64 0) := cell_of_row _ (g + 1 + 1 + 1) 3 _ 28 _ T2.2
  have p4 : w2.cell? ⟨g + 1 + 1 + 1, 4, none⟩ = some (.int .i64 0) := cell_of_row _ (g + 1 + 1 + 1) 4 _ 28 _ T2.2
  have p5 : w2.cell? ⟨g + 1 + 1 + 1, 5, none⟩ = some (.slice none 0 0) := cell_of_row _ (g + 1 + 1 + 1) 5 _ 28 _ T2.2
  have p6 : w2.cell? ⟨g + 1 + 1 + 1, 6, none⟩ = some (.bool false) := cell_of_row _ (g + 1 + 1 + 1) 6 _ 28 _ T2.2
  have p7 : w2.cell? ⟨g + 1 + 1 + 1, 7, none⟩ = some (.bool false) := cell_of_row _ (g + 1 + 1 + 1) 7 _ 28 _ T2.2
  have p8 : w2.cell? ⟨g + 1 + 1 + 1, 8, none⟩ = some (.bool false) := cell_of_row _ (g + 1 + 1 + 1) 8 _ 28 _ T2.2
  clear T2
  go_wp2
  go_region_with (first
      | ((with_reducible refine (rfault_any 6 true _).mono ?_); rintro e w3 ⟨rfl, hb3⟩; have T3 := (HT2.out.drewN 1).up hb3; have hb4 : Below w2.heap.size w2 w3 := (Below.refl _ _).drew.trans hb3; have p0 : w3.cell? ⟨g + 1 + 1 + 1, 0, none⟩ = some (.slice none 0 0) := cell_of_row _ (g + 1 + 1 + 1) 0 _ 28 _ T3.2; have p1 : w3.cell? ⟨g + 1 + 1 + 1, 1, none⟩ = some (.int .i64 0) := cell_of_row _ (g + 1 + 1 + 1) 1 _ 28 _ T3.2; have p2 : w3.cell? ⟨g + 1 + 1 + 1, 2, none⟩ = some (.int .i64 0) := cell_of_row _ (g + 1 + 1 + 1) 2 _ 28 _ T3.2; have p3 : w3.cell? ⟨g + 1 + 1 + 1, 3, none⟩ = some (.int .i64 0) := cell_of_row _ (g + 1 + 1 + 1) 3 _ 28 _ T3.2; have p4 : w3.cell? ⟨g + 1 + 1 + 1, 4, none⟩ = some (.int .i64 0) := cell_of_row _ (g + 1 + 1 + 1) 4 _ 28 _ T3.2; have p5 : w3.cell? ⟨g + 1 + 1 + 1, 5, none⟩ = some (.slice none 0 0) := cell_of_row _ (g + 1 + 1 + 1) 5 _ 28 _ T3.2; have p6 : w3.cell? ⟨g + 1 + 1 + 1, 6, none⟩ = some (.bool false) := cell_of_row _ (g + 1 + 1 + 1) 6 _ 28 _ T3.2; have p7 : w3.cell? ⟨g + 1 + 1 + 1, 7, none⟩ = some (.bool false) := cell_of_row _ (g + 1 + 1 + 1) 7 _ 28 _ T3.2; have p8 : w3.cell? ⟨g + 1 + 1 + 1, 8, none⟩ = some (.bool false) := cell_of_row _ (g + 1 + 1 + 1) 8 _ 28 _ T3.2; have r0 : w3.cell? ⟨g + 1, 0, none⟩ = some (.slice none 0 0) := cell_of_row _ (g + 1) 0 _ 28 _ T3.1.2.1; have r1 : w3.cell? ⟨g + 1, 1, none⟩ = some (.int .i64 0) := cell_of_row _ (g + 1) 1 _ 28 _ T3.1.2.1; have r2 : w3.cell? ⟨g + 1, 2, none⟩ = some (.int .i64 0) := cell_of_row _ (g + 1) 2 _ 28 _ T3.1.2.1; have r3 : w3.cell? ⟨g + 1, 3, none⟩ = some (.int .i64 0) := cell_of_row _ (g + 1) 3 _ 28 _ T3.1.2.1; have r4 : w3.cell? ⟨g + 1, 4, none⟩ = some (.int .i64 0) := cell_of_row _ (g + 1) 4 _ 28 _ T3.1.2.1; have r5 : w3.cell? ⟨g + 1, 5, none⟩ = some (.slice none 0 0) := cell_of_row _ (g + 1) 5 _ 28 _ T3.1.2.1; have r6 : w3.cell? ⟨g + 1, 6, none⟩ = some (.bool false) := cell_of_row _ (g + 1) 6 _ 28 _ T3.1.2.1; have r7 : w3.cell? ⟨g + 1, 7, none⟩ = some (.bool false) := cell_of_row _ (g + 1) 7 _ 28 _ T3.1.2.1; have r8 : w3.cell? ⟨g + 1, 8, none⟩ = some (.bool false) := cell_of_row _ (g + 1) 8 _ 28 _ T3.1.2.1; have t0 : w3.cell? ⟨g + 1 + 1, 0, none⟩ = some (.bool false) := cell_of_row _ (g + 1 + 1) 0 _ 30 _ T3.1.2.2; have t1 : w3.cell? ⟨g + 1 + 1, 1, none⟩ = some (.bool false) := cell_of_row _ (g + 1 + 1) 1 _ 30 _ T3.1.2.2; have t2 : w3.cell? ⟨g + 1 + 1, 2, none⟩ = some (.int .i64 0) := cell_of_row _ (g + 1 + 1) 2 _ 30 _ T3.1.2.2; obtain ⟨f0, f1, f2, f3, f4, f5, f6, f7, f8, u0, u1, u2⟩ := three_froz T3.1))
  all_goals
    have HN : Hid (PtPost w (noPrt, ⟨true, true, 6⟩) (.returned (.tuple #[.agg #[.slice none 0 0, .int .i64 0, .int .i64 0, .int .i64 0, .int .i64 0, .slice none 0 0, .bool false, .bool false, .bool false], .agg #[.bool true, .bool true, .int .i64 6]])) (stores w3 g (.slice none 0 0) (.int .i64 0) (.int .i64 0) (.int .i64 0) (.int .i64 0) (.slice none 0 0) (.bool false) (.bool false) (.bool false) (.bool true) (.bool true) (.int .i64 6))) := Lib.hid (rd_bare HG.out (HB2.out.trans (hb4.mono HB2.out.size)) rfl rfl _ _ _ _ _ _ _ _ _ _ _ _)
    clear T3 hb3 hb4
    go_wp2
    refine bodyPost_ret (v := .tuple #[.agg #[.slice none 0 0, .int .i64 0, .int .i64 0, .int .i64 0, .int .i64 0, .slice none 0 0, .bool false, .bool false, .bool false], .agg #[.bool true, .bool true, .int .i64 6]]) (by simp [results, Try.results10, go_sem, r0, r1, r2, r3, r4, r5, r6, r7, r8, t0, t1, t2]) rfl HN.out
set_option maxRecDepth 100000 in
set_option maxHeartbeats 4000000 in
theorem rread8_b (F S : Int) (l : List Nat) (A : Option Addr) (n c : Nat) (w : World) (hA : At .u8 w w.heap.size A l) (hb : ∀ x ∈ l, x < 256) (hl : l.length = n) (hs : S = 0) (hm : n = 4) (h0 : val l % 2147483648 = 0) :
    Calls Try.prog 10 #[.agg #[.int .i64 8, .int .i64 F, .int .i64 S, .slice A n c]] w (PtPost w (noPrt, ⟨true, true, 1⟩)) := by
  obtain ⟨V, hV⟩ : ∃ V, V = val l := ⟨_, rfl⟩
  have hVb : V < 4294967296 := by
    have := val_lt l hb
    rw [hl, hm] at this
    rw [hV]
    exact this
  have HV : Hid (∀ W, Below w.heap.size w W → Calls Try.prog 24 #[.slice A n c] W fun e w' => e = .returned (.int .i64 (V : Int)) ∧ w' = W) := Lib.hid (fun W hb' => by
    rw [hV]
    exact rval_any A l n c W (hA.up hb') hb hl (by omega))
  have eT : bits .and .i64 (V : Int) 2147483647 = 0 := by rw [and31p V hVb, hV, h0]; rfl
  clear h0
  clear hA hb hl hV hVb
  have k1 : (S == 0) = true := by rw [hs]; rfl
  have k2 : (S != 0) = false := by rw [hs]; rfl
  clear hs
  have k3 : ((n : Int) == 4) = true := by rw [hm]; rfl
  have k4 : ((n : Int) != 4) = false := by rw [hm]; rfl
  clear hm
  obtain ⟨T0, hbl, hsz⟩ := four_of w (⟨8, F, S, l⟩ : Frm) A n c
  obtain ⟨g, hg⟩ : ∃ g, g = w.heap.size := ⟨_, rfl⟩
  obtain ⟨w1, hw1⟩ : ∃ w1, w1 = w4of w (⟨8, F, S, l⟩ : Frm) A n c := ⟨_, rfl⟩
  rw [← hw1, ← hg] at T0
  rw [← hw1] at hbl hsz
  have hw1' : w1 = ((((w.alloc (.cells #[.int .i64 8, .int .i64 F, .int .i64 S, .slice A n c] 34)).alloc (.cells #[.slice none 0 0, .int .i64 0, .int .i64 0, .int .i64 0, .int .i64 0, .slice none 0 0, .bool false, .bool false, .bool false] 28)).alloc (.cells #[.bool false, .bool false, .int .i64 0] 30)).alloc (.cells #[.slice none 0 0, .int .i64 0, .int .i64 0, .int .i64 0, .int .i64 0, .slice none 0 0, .bool false, .bool false, .bool false] 28)) := hw1
  obtain ⟨x0, x1, x2, x3⟩ := three_frm T0.1
  simp only [] at x0 x1 x2 x3
  have HT := Lib.hid T0
  have HW := Lib.hid hw1'
  have HG := Lib.hid hg
  have HBL := Lib.hid hbl
  have HSZ : Hid (w1.heap.size = g + 1 + 1 + 1 + 1) := Lib.hid (by rw [hsz, hg])
  clear T0 hw1' hw1 hg hbl hsz
  go_enter Try.func10, Try.ntmps10
  go_wp2
  rw [← HW.out, ← HG.out]
  go_quiet (fail)
  have T2 := HT.out.drewN nq
  have hb2 : Below w.heap.size w (w1.drewN nq) := below_drewN HBL.out _
  have hs2 : (w1.drewN nq).heap.size = g + 1 + 1 + 1 + 1 := HSZ.out
  obtain ⟨w2, hw2⟩ : ∃ w2, w2 = w1.drewN nq := ⟨_, rfl⟩
  rw [← hw2] at T2 hb2 hs2 ⊢
  obtain ⟨x0, x1, x2, x3⟩ := three_frm T2.1
  simp only [] at x0 x1 x2 x3
  have HT2 := Lib.hid T2
  have HB2 := Lib.hid hb2
  have HS2 := Lib.hid hs2
  clear hw2 hb2 hs2 HT HW HBL HSZ
  have z4 : w2.frozen? ⟨g + 1 + 1 + 1, 4, none⟩ = false := frozen_of_row _ (g + 1 + 1 + 1) 4 _ 28 T2.2
  have p0 : w2.cell? ⟨g + 1 + 1 + 1, 0, none⟩ = some (.slice none 0 0) := cell_of_row _ (g + 1 + 1 + 1) 0 _ 28 _ T2.2
  have p1 : w2.cell? ⟨g + 1 + 1 + 1, 1, none⟩ = some (.int .i64 0) := cell_of_row _ (g + 1 + 1 + 1) 1 _ 28 _ T2.2
  have p2 : w2.cell? ⟨g + 1 + 1 + 1, 2, none⟩ = some (.int .i64 0) := cell_of_row _ (g + 1 + 1 + 1) 2 _ 28 _ T2.2
  have p3 : w2.cell? ⟨g + 1 + 1 + 1, 3, none⟩ = some (.int .i64 0) := cell_of_row _ (g + 1 + 1 + 1) 3 _ 28 _ T2.2
  have p4 : w2.cell? ⟨g + 1 + 1 + 1, 4, none⟩ = some (.int .i64 0) := cell_of_row _ (g + 1 + 1 + 1) 4 _ 28 _ T2.2
  have p5 : w2.cell? ⟨g + 1 + 1 + 1, 5, none⟩ = some (.slice none 0 0) := cell_of_row _ (g + 1 + 1 + 1) 5 _ 28 _ T2.2
  have p6 : w2.cell? ⟨g + 1 + 1 + 1, 6, none⟩ = some (.bool false) := cell_of_row _ (g + 1 + 1 + 1) 6 _ 28 _ T2.2
  have p7 : w2.cell? ⟨g + 1 + 1 + 1, 7, none⟩ = some (.bool false) := cell_of_row _ (g + 1 + 1 + 1) 7 _ 28 _ T2.2
  have p8 : w2.cell? ⟨g + 1 + 1 + 1, 8, none⟩ = some (.bool false) := cell_of_row _ (g + 1 + 1 + 1) 8 _ 28 _ T2.2
  clear T2
  have HV2 := Lib.hid (HV.out w2 HB2.out)
  go_wp2_with fail
  with_reducible refine (HV2.out).mono ?_
  rintro e w3 ⟨rfl, rfl⟩
  have T3 := HT2.out.set 4 (.int .i64 0)
  have hb5 : Below w.heap.size w (w3.setCell ⟨g + 1 + 1 + 1, 4, none⟩ (.int .i64 0)) := HB2.out.setCell (p := ⟨g + 1 + 1 + 1, 4, none⟩) (show w.heap.size ≤ g + 1 + 1 + 1 by have := HG.out; omega) _
  have HT3 := Lib.hid T3
  have HB5 := Lib.hid hb5
  clear T3 hb5
  go_wp2
  go_region_with (first
    | ((with_reducible refine (rfault_any 1 true _).mono ?_); rintro e w4 ⟨rfl, hb3⟩; have hb4 : Below (w3.setCell ⟨g + 1 + 1 + 1, 4, none⟩ (.int .i64 0)).heap.size (w3.setCell ⟨g + 1 + 1 + 1, 4, none⟩ (.int .i64 0)) w4 := (Below.refl _ _).drew.trans hb3; have T4 := HT3.out.up hb4; have p0 : w4.cell? ⟨g + 1 + 1 + 1, 0, none⟩ = some (.slice none 0 0) := cell_of_row _ (g + 1 + 1 + 1) 0 _ 28 _ T4.2; have p1 : w4.cell? ⟨g + 1 + 1 + 1, 1, none⟩ = some (.int .i64 0) := cell_of_row _ (g + 1 + 1 + 1) 1 _ 28 _ T4.2; have p2 : w4.cell? ⟨g + 1 + 1 + 1, 2, none⟩ = some (.int .i64 0) := cell_of_row _ (g + 1 + 1 + 1) 2 _ 28 _ T4.2; have p3 : w4.cell? ⟨g + 1 + 1 + 1, 3, none⟩ = some (.int .i64 0) := cell_of_row _ (g + 1 + 1 + 1) 3 _ 28 _ T4.2; have p4 : w4.cell? ⟨g + 1 + 1 + 1, 4, none⟩ = some (.int .i64 0) := cell_of_row _ (g + 1 + 1 + 1) 4 _ 28 _ T4.2; have p5 : w4.cell? ⟨g + 1 + 1 + 1, 5, none⟩ = some (.slice none 0 0) := cell_of_row _ (g + 1 + 1 + 1) 5 _ 28 _ T4.2; have p6 : w4.cell? ⟨g + 1 + 1 + 1, 6, none⟩ = some (.bool false) := cell_of_row _ (g + 1 + 1 + 1) 6 _ 28 _ T4.2; have p7 : w4.cell? ⟨g + 1 + 1 + 1, 7, none⟩ = some (.bool false) := cell_of_row _ (g + 1 + 1 + 1) 7 _ 28 _ T4.2; have p8 : w4.cell? ⟨g + 1 + 1 + 1, 8, none⟩ = some (.bool false) := cell_of_row _ (g + 1 + 1 + 1) 8 _ 28 _ T4.2; have r0 : w4.cell? ⟨g + 1, 0, none⟩ = some (.slice none 0 0) := cell_of_row _ (g + 1) 0 _ 28 _ T4.1.2.1; have r1 : w4.cell? ⟨g + 1, 1, none⟩ = some (.int .i64 0) := cell_of_row _ (g + 1) 1 _ 28 _ T4.1.2.1; have r2 : w4.cell? ⟨g + 1, 2, none⟩ = some (.int .i64 0) := cell_of_row _ (g + 1) 2 _ 28 _ T4.1.2.1; have r3 : w4.cell? ⟨g + 1, 3, none⟩ = some (.int .i64 0) := cell_of_row _ (g + 1) 3 _ 28 _ T4.1.2.1; have r4 : w4.cell? ⟨g + 1, 4, none⟩ = some (.int .i64 0) := cell_of_row _ (g + 1) 4 _ 28 _ T4.1.2.1; have r5 : w4.cell? ⟨g + 1, 5, none⟩ = some (.slice none 0 0) := cell_of_row _ (g + 1) 5 _ 28 _ T4.1.2.1; have r6 : w4.cell? ⟨g + 1, 6, none⟩ = some (.bool false) := cell_of_row _ (g + 1) 6 _ 28 _ T4.1.2.1; have r7 : w4.cell? ⟨g + 1, 7, none⟩ = some (.bool false) := cell_of_row _ (g + 1) 7 _ 28 _ T4.1.2.1; have r8 : w4.cell? ⟨g + 1, 8, none⟩ = some (.bool false) := cell_of_row _ (g + 1) 8 _ 28 _ T4.1.2.1; have t0 : w4.cell? ⟨g + 1 + 1, 0, none⟩ = some (.bool false) := cell_of_row _ (g + 1 + 1) 0 _ 30 _ T4.1.2.2; have t1 : w4.cell? ⟨g + 1 + 1, 1, none⟩ = some (.bool false) := cell_of_row _ (g + 1 + 1) 1 _ 30 _ T4.1.2.2; have t2 : w4.cell? ⟨g + 1 + 1, 2, none⟩ = some (.int .i64 0) := cell_of_row _ (g + 1 + 1) 2 _ 30 _ T4.1.2.2; obtain ⟨f0, f1, f2, f3, f4, f5, f6, f7, f8, u0, u1, u2⟩ := three_froz T4.1))
  all_goals
    have HN : Hid (PtPost w (noPrt, ⟨true, true, 1⟩) (.returned (.tuple #[.agg #[.slice none 0 0, .int .i64 0, .int .i64 0, .int .i64 0, .int .i64 0, .slice none 0 0, .bool false, .bool false, .bool false], .agg #[.bool true, .bool true, .int .i64 1]])) (stores w4 g (.slice none 0 0) (.int .i64 0) (.int .i64 0) (.int .i64 0) (.int .i64 0) (.slice none 0 0) (.bool false) (.bool false) (.bool false) (.bool true) (.bool true) (.int .i64 1))) := Lib.hid (rd_bare HG.out (HB5.out.trans (hb4.mono HB5.out.size)) rfl rfl _ _ _ _ _ _ _ _ _ _ _ _)
    clear T4 hb3 hb4
    go_wp2
    refine bodyPost_ret (v := .tuple #[.agg #[.slice none 0 0, .int .i64 0, .int .i64 0, .int .i64 0, .int .i64 0, .slice none 0 0, .bool false, .bool false, .bool false], .agg #[.bool true, .bool true, .int .i64 1]]) (by simp [results, Try.results10, go_sem, r0, r1, r2, r3, r4, r5, r6, r7, r8, t0, t1, t2]) rfl HN.out
set_option maxRecDepth 100000 in
set_option maxHeartbeats 4000000 in
theorem rread8_c (F S : Int) (l : List Nat) (A : Option Addr) (n c : Nat) (w : World) (hA : At .u8 w w.heap.size A l) (hb : ∀ x ∈ l, x < 256) (hl : l.length = n) (hs : S ≠ 0) (hm : n = 4) (h0 : val l % 2147483648 = 0) :
    Calls Try.prog 10 #[.agg #[.int .i64 8, .int .i64 F, .int .i64 S, .slice A n c]] w (PtPost w (noPrt, ⟨true, false, 1⟩)) := by
  obtain ⟨V, hV⟩ : ∃ V, V = val l := ⟨_, rfl⟩
  have hVb : V < 4294967296 := by
    have := val_lt l hb
    rw [hl, hm] at this
    rw [hV]
    exact this
  have HV : Hid (∀ W, Below w.heap.size w W → Calls Try.prog 24 #[.slice A n c] W fun e w' => e = .returned (.int .i64 (V : Int)) ∧ w' = W) := Lib.hid (fun W hb' => by
    rw [hV]
    exact rval_any A l n c W (hA.up hb') hb hl (by omega))
  have eT : bits .and .i64 (V : Int) 2147483647 = 0 := by rw [and31p V hVb, hV, h0]; rfl
  clear h0
  clear hA hb hl hV hVb
  have k1 : (S == 0) = false := by rw [beq_eq_false_iff_ne]; exact hs
  have k2 : (S != 0) = true := by rw [bne_iff_ne]; exact hs
  clear hs
  have k3 : ((n : Int) == 4) = true := by rw [hm]; rfl
  have k4 : ((n : Int) != 4) = false := by rw [hm]; rfl
  clear hm
  obtain ⟨T0, hbl, hsz⟩ := four_of w (⟨8, F, S, l⟩ : Frm) A n c
  obtain ⟨g, hg⟩ : ∃ g, g = w.heap.size := ⟨_, rfl⟩
  obtain ⟨w1, hw1⟩ : ∃ w1, w1 = w4of w (⟨8, F, S, l⟩ : Frm) A n c := ⟨_, rfl⟩
  rw [← hw1, ← hg] at T0
  rw [← hw1] at hbl hsz
  have hw1' : w1 = ((((w.alloc (.cells #[.int .i64 8, .int .i64 F, .int .i64 S, .slice A n c] 34)).alloc (.cells #[.slice none 0 0, .int .i64 0, .int .i64 0, .int .i64 0, .int .i64 0, .slice none 0 0, .bool false, .bool false, .bool false] 28)).alloc (.cells #[.bool false, .bool false, .int .i64 0] 30)).alloc (.cells #[.slice none 0 0, .int .i64 0, .int .i64 0, .int .i64 0, .int .i64 0, .slice none 0 0, .bool false, .bool false, .bool false] 28)) := hw1
  obtain ⟨x0, x1, x2, x3⟩ := three_frm T0.1
  simp only [] at x0 x1 x2 x3
  have HT := Lib.hid T0
  have HW := Lib.hid hw1'
  have HG := Lib.hid hg
  have HBL := Lib.hid hbl
  have HSZ : Hid (w1.heap.size = g + 1 + 1 + 1 + 1) := Lib.hid (by rw [hsz, hg])
  clear T0 hw1' hw1 hg hbl hsz
  go_enter Try.func10, Try.ntmps10
  go_wp2
  rw [← HW.out, ← HG.out]
  go_quiet (fail)
  have T2 := HT.out.drewN nq
  have hb2 : Below w.heap.size w (w1.drewN nq) := below_drewN HBL.out _
  have hs2 : (w1.drewN nq).heap.size = g + 1 + 1 + 1 + 1 := HSZ.out
  obtain ⟨w2, hw2⟩ : ∃ w2, w2 = w1.drewN nq := ⟨_, rfl⟩
  rw [← hw2] at T2 hb2 hs2 ⊢
  obtain ⟨x0, x1, x2, x3⟩ := three_frm T2.1
  simp only [] at x0 x1 x2 x3
  have HT2 := Lib.hid T2
  have HB2 := Lib.hid hb2
  have HS2 := Lib.hid hs2
  clear hw2 hb2 hs2 HT HW HBL HSZ
  have z4 : w2.frozen? ⟨g + 1 + 1 + 1, 4, none⟩ = false := frozen_of_row _ (g + 1 + 1 + 1) 4 _ 28 T2.2
  have p0 : w2.cell? ⟨g + 1 + 1 + 1, 0, none⟩ = some (.slice none 0 0) := cell_of_row _ (g + 1 + 1 + 1) 0 _ 28 _ T2.2
  have p1 : w2.cell? ⟨g + 1 + 1 + 1, 1, none⟩ = some (.int .i64 0) := cell_of_row _ (g + 1 + 1 + 1) 1 _ 28 _ T2.2
  have p2 : w2.cell? ⟨g + 1 + 1 + 1, 2, none⟩ = some (.int .i64 0) := cell_of_row _ (g + 1 + 1 + 1) 2 _ 28 _ T2.2
  have p3 : w2.cell? ⟨g + 1 + 1 + 1, 3, none⟩ = some (.int .i64 0) := cell_of_row _ (g + 1 + 1 + 1) 3 _ 28 _ T2.2
  have p4 : w2.cell? ⟨g + 1 + 1 + 1, 4, none⟩ = some (.int .i64 0) := cell_of_row _ (g + 1 + 1 + 1) 4 _ 28 _ T2.2
  have p5 : w2.cell? ⟨g + 1 + 1 + 1, 5, none⟩ = some (.slice none 0 0) := cell_of_row _ (g + 1 + 1 + 1) 5 _ 28 _ T2.2
  have p6 : w2.cell? ⟨g + 1 + 1 + 1, 6, none⟩ = some (.bool false) := cell_of_row _ (g + 1 + 1 + 1) 6 _ 28 _ T2.2
  have p7 : w2.cell? ⟨g + 1 + 1 + 1, 7, none⟩ = some (.bool false) := cell_of_row _ (g + 1 + 1 + 1) 7 _ 28 _ T2.2
  have p8 : w2.cell? ⟨g + 1 + 1 + 1, 8, none⟩ = some (.bool false) := cell_of_row _ (g + 1 + 1 + 1) 8 _ 28 _ T2.2
  clear T2
  have HV2 := Lib.hid (HV.out w2 HB2.out)
  go_wp2_with fail
  with_reducible refine (HV2.out).mono ?_
  rintro e w3 ⟨rfl, rfl⟩
  have T3 := HT2.out.set 4 (.int .i64 0)
  have hb5 : Below w.heap.size w (w3.setCell ⟨g + 1 + 1 + 1, 4, none⟩ (.int .i64 0)) := HB2.out.setCell (p := ⟨g + 1 + 1 + 1, 4, none⟩) (show w.heap.size ≤ g + 1 + 1 + 1 by have := HG.out; omega) _
  have HT3 := Lib.hid T3
  have HB5 := Lib.hid hb5
  clear T3 hb5
  go_wp2
  go_region_with (first
    | ((with_reducible refine (rfault_any 1 false _).mono ?_); rintro e w4 ⟨rfl, hb3⟩; have hb4 : Below (w3.setCell ⟨g + 1 + 1 + 1, 4, none⟩ (.int .i64 0)).heap.size (w3.setCell ⟨g + 1 + 1 + 1, 4, none⟩ (.int .i64 0)) w4 := (Below.refl _ _).drew.trans hb3; have T4 := HT3.out.up hb4; have p0 : w4.cell? ⟨g + 1 + 1 + 1, 0, none⟩ = some (.slice none 0 0) := cell_of_row _ (g + 1 + 1 + 1) 0 _ 28 _ T4.2; have p1 : w4.cell? ⟨g + 1 + 1 + 1, 1, none⟩ = some (.int .i64 0) := cell_of_row _ (g + 1 + 1 + 1) 1 _ 28 _ T4.2; have p2 : w4.cell? ⟨g + 1 + 1 + 1, 2, none⟩ = some (.int .i64 0) := cell_of_row _ (g + 1 + 1 + 1) 2 _ 28 _ T4.2; have p3 : w4.cell? ⟨g + 1 + 1 + 1, 3, none⟩ = some (.int .i64 0) := cell_of_row _ (g + 1 + 1 + 1) 3 _ 28 _ T4.2; have p4 : w4.cell? ⟨g + 1 + 1 + 1, 4, none⟩ = some (.int .i64 0) := cell_of_row _ (g + 1 + 1 + 1) 4 _ 28 _ T4.2; have p5 : w4.cell? ⟨g + 1 + 1 + 1, 5, none⟩ = some (.slice none 0 0) := cell_of_row _ (g + 1 + 1 + 1) 5 _ 28 _ T4.2; have p6 : w4.cell? ⟨g + 1 + 1 + 1, 6, none⟩ = some (.bool false) := cell_of_row _ (g + 1 + 1 + 1) 6 _ 28 _ T4.2; have p7 : w4.cell? ⟨g + 1 + 1 + 1, 7, none⟩ = some (.bool false) := cell_of_row _ (g + 1 + 1 + 1) 7 _ 28 _ T4.2; have p8 : w4.cell? ⟨g + 1 + 1 + 1, 8, none⟩ = some (.bool false) := cell_of_row _ (g + 1 + 1 + 1) 8 _ 28 _ T4.2; have r0 : w4.cell? ⟨g + 1, 0, none⟩ = some (.slice none 0 0) := cell_of_row _ (g + 1) 0 _ 28 _ T4.1.2.1; have r1 : w4.cell? ⟨g + 1, 1, none⟩ = some (.int .i64 0) := cell_of_row _ (g + 1) 1 _ 28 _ T4.1.2.1; have r2 : w4.cell? ⟨g + 1, 2, none⟩ = some (.int .i64 0) := cell_of_row _ (g + 1) 2 _ 28 _ T4.1.2.1; have r3 : w4.cell? ⟨g + 1, 3, none⟩ = some (.int .i64 0) := cell_of_row _ (g + 1) 3 _ 28 _ T4.1.2.1; have r4 : w4.cell? ⟨g + 1, 4, none⟩ = some (.int .i64 0) := cell_of_row _ (g + 1) 4 _ 28 _ T4.1.2.1; have r5 : w4.cell? ⟨g + 1, 5, none⟩ = some (.slice none 0 0) := cell_of_row _ (g + 1) 5 _ 28 _ T4.1.2.1; have r6 : w4.cell? ⟨g + 1, 6, none⟩ = some (.bool false) := cell_of_row _ (g + 1) 6 _ 28 _ T4.1.2.1; have r7 : w4.cell? ⟨g + 1, 7, none⟩ = some (.bool false) := cell_of_row _ (g + 1) 7 _ 28 _ T4.1.2.1; have r8 : w4.cell? ⟨g + 1, 8, none⟩ = some (.bool false) := cell_of_row _ (g + 1) 8 _ 28 _ T4.1.2.1; have t0 : w4.cell? ⟨g + 1 + 1, 0, none⟩ = some (.bool false) := cell_of_row _ (g + 1 + 1) 0 _ 30 _ T4.1.2.2; have t1 : w4.cell? ⟨g + 1 + 1, 1, none⟩ = some (.bool false) := cell_of_row _ (g + 1 + 1) 1 _ 30 _ T4.1.2.2; have t2 : w4.cell? ⟨g + 1 + 1, 2, none⟩ = some (.int .i64 0) := cell_of_row _ (g + 1 + 1) 2 _ 30 _ T4.1.2.2; obtain ⟨f0, f1, f2, f3, f4, f5, f6, f7, f8, u0, u1, u2⟩ := three_froz T4.1))
  all_goals
    have HN : Hid (PtPost w (noPrt, ⟨true, false, 1⟩) (.returned (.tuple #[.agg #[.slice none 0 0, .int .i64 0, .int .i64 0, .int .i64 0, .int .i64 0, .slice none 0 0, .bool false, .bool false, .bool false], .agg #[.bool true, .bool false, .int .i64 1]])) (stores w4 g (.slice none 0 0) (.int .i64 0) (.int .i64 0) (.int .i64 0) (.int .i64 0) (.slice none 0 0) (.bool false) (.bool false) (.bool false) (.bool true) (.bool false) (.int .i64 1))) := Lib.hid (rd_bare HG.out (HB5.out.trans (hb4.mono HB5.out.size)) rfl rfl _ _ _ _ _ _ _ _ _ _ _ _)
    clear T4 hb3 hb4
    go_wp2
    refine bodyPost_ret (v := .tuple #[.agg #[.slice none 0 0, .int .i64 0, .int .i64 0, .int .i64 0, .int .i64 0, .slice none 0 0, .bool false, .bool false, .bool false], .agg #[.bool true, .bool false, .int .i64 1]]) (by simp [results, Try.results10, go_sem, r0, r1, r2, r3, r4, r5, r6, r7, r8, t0, t1, t2]) rfl HN.out
set_option maxRecDepth 100000 in
set_option maxHeartbeats 4000000 in
theorem rread8_d (F S : Int) (l : List Nat) (A : Option Addr) (n c : Nat) (w : World) (hA : At .u8 w w.heap.size A l) (hb : ∀ x ∈ l, x < 256) (hl : l.length = n) (hm : n = 4) (h0 : ¬ val l % 2147483648 = 0) :
    Calls Try.prog 10 #[.agg #[.int .i64 8, .int .i64 F, .int .i64 S, .slice A n c]] w (PtPost w (⟨[], 0, 0, 0, val l % 2147483648, [], false, false, false⟩, noFlt)) := by
  obtain ⟨V, hV⟩ : ∃ V, V = val l := ⟨_, rfl⟩
  have hVb : V < 4294967296 := by
    have := val_lt l hb
    rw [hl, hm] at this
    rw [hV]
    exact this
  have HV : Hid (∀ W, Below w.heap.size w W → Calls Try.prog 24 #[.slice A n c] W fun e w' => e = .returned (.int .i64 (V : Int)) ∧ w' = W) := Lib.hid (fun W hb' => by
    rw [hV]
    exact rval_any A l n c W (hA.up hb') hb hl (by omega))
  obtain ⟨T, hT⟩ : ∃ T, T = V % 2147483648 := ⟨_, rfl⟩
  have eT : bits .and .i64 (V : Int) 2147483647 = (T : Int) := by rw [and31p V hVb, hT]
  have eT0 : ((T : Int) == 0) = false := by rw [beq_eq_false_iff_ne]; rw [← hV] at h0; omega
  rw [← hV, ← hT]
  clear h0 hT
  clear hA hb hl hV hVb
  have k3 : ((n : Int) == 4) = true := by rw [hm]; rfl
  have k4 : ((n : Int) != 4) = false := by rw [hm]; rfl
  clear hm
  obtain ⟨T0, hbl, hsz⟩ := four_of w (⟨8, F, S, l⟩ : Frm) A n c
  obtain ⟨g, hg⟩ : ∃ g, g = w.heap.size := ⟨_, rfl⟩
  obtain ⟨w1, hw1⟩ : ∃ w1, w1 = w4of w (⟨8, F, S, l⟩ : Frm) A n c := ⟨_, rfl⟩
  rw [← hw1, ← hg] at T0
  rw [← hw1] at hbl hsz
  have hw1' : w1 = ((((w.alloc (.cells #[.int .i64 8, .int .i64 F, .int .i64 S, .slice A n c] 34)).alloc (.cells #[.slice none 0 0, .int .i64 0, .int .i64 0, .int .i64 0, .int .i64 0, .slice none 0 0, .bool false, .bool false, .bool false] 28)).alloc (.cells #[.bool false, .bool false, .int .i64 0] 30)).alloc (.cells #[.slice none 0 0, .int .i64 0, .int .i64 0, .int .i64 0, .int .i64 0, .slice none 0 0, .bool false, .bool false, .bool false] 28)) := hw1
  obtain ⟨x0, x1, x2, x3⟩ := three_frm T0.1
  simp only [] at x0 x1 x2 x3
  have HT := Lib.hid T0
  have HW := Lib.hid hw1'
  have HG := Lib.hid hg
  have HBL := Lib.hid hbl
  have HSZ : Hid (w1.heap.size = g + 1 + 1 + 1 + 1) := Lib.hid (by rw [hsz, hg])
  clear T0 hw1' hw1 hg hbl hsz
  go_enter Try.func10, Try.ntmps10
  go_wp2
  rw [← HW.out, ← HG.out]
  go_quiet (fail)
  have T2 := HT.out.drewN nq
  have hb2 : Below w.heap.size w (w1.drewN nq) := below_drewN HBL.out _
  have hs2 : (w1.drewN nq).heap.size = g + 1 + 1 + 1 + 1 := HSZ.out
  obtain ⟨w2, hw2⟩ : ∃ w2, w2 = w1.drewN nq := ⟨_, rfl⟩
  rw [← hw2] at T2 hb2 hs2 ⊢
  obtain ⟨x0, x1, x2, x3⟩ := three_frm T2.1
  simp only [] at x0 x1 x2 x3
  have HT2 := Lib.hid T2
  have HB2 := Lib.hid hb2
  have HS2 := Lib.hid hs2
  clear hw2 hb2 hs2 HT HW HBL HSZ
  have z4 : w2.frozen? ⟨g + 1 + 1 + 1, 4, none⟩ = false := frozen_of_row _ (g + 1 + 1 + 1) 4 _ 28 T2.2
  have p0 : w2.cell? ⟨g + 1 + 1 + 1, 0, none⟩ = some (.slice none 0 0) := cell_of_row _ (g + 1 + 1 + 1) 0 _ 28 _ T2.2
  have p1 : w2.cell? ⟨g + 1 + 1 + 1, 1, none⟩ = some (.int .i64 0) := cell_of_row _ (g + 1 + 1 + 1) 1 _ 28 _ T2.2
  have p2 : w2.cell? ⟨g + 1 + 1 + 1, 2, none⟩ = some (.int .i64 0) := cell_of_row _ (g + 1 + 1 + 1) 2 _ 28 _ T2.2
  have p3 : w2.cell? ⟨g + 1 + 1 + 1, 3, none⟩ = some (.int .i64 0) := cell_of_row _ (g + 1 + 1 + 1) 3 _ 28 _ T2.2
  have p4 : w2.cell? ⟨g + 1 + 1 + 1, 4, none⟩ = some (.int .i64 0) := cell_of_row _ (g + 1 + 1 + 1) 4 _ 28 _ T2.2
  have p5 : w2.cell? ⟨g + 1 + 1 + 1, 5, none⟩ = some (.slice none 0 0) := cell_of_row _ (g + 1 + 1 + 1) 5 _ 28 _ T2.2
  have p6 : w2.cell? ⟨g + 1 + 1 + 1, 6, none⟩ = some (.bool false) := cell_of_row _ (g + 1 + 1 + 1) 6 _ 28 _ T2.2
  have p7 : w2.cell? ⟨g + 1 + 1 + 1, 7, none⟩ = some (.bool false) := cell_of_row _ (g + 1 + 1 + 1) 7 _ 28 _ T2.2
  have p8 : w2.cell? ⟨g + 1 + 1 + 1, 8, none⟩ = some (.bool false) := cell_of_row _ (g + 1 + 1 + 1) 8 _ 28 _ T2.2
  have r0 : w2.cell? ⟨g + 1, 0, none⟩ = some (.slice none 0 0) := cell_of_row _ (g + 1) 0 _ 28 _ T2.1.2.1
  have r1 : w2.cell? ⟨g + 1, 1, none⟩ = some (.int .i64 0) := cell_of_row _ (g + 1) 1 _ 28 _ T2.1.2.1
  have r2 : w2.cell? ⟨g + 1, 2, none⟩ = some (.int .i64 0) := cell_of_row _ (g + 1) 2 _ 28 _ T2.1.2.1
  have r3 : w2.cell? ⟨g + 1, 3, none⟩ = some (.int .i64 0) := cell_of_row _ (g + 1) 3 _ 28 _ T2.1.2.1
  have r4 : w2.cell? ⟨g + 1, 4, none⟩ = some (.int .i64 0) := cell_of_row _ (g + 1) 4 _ 28 _ T2.1.2.1
  have r5 : w2.cell? ⟨g + 1, 5, none⟩ = some (.slice none 0 0) := cell_of_row _ (g + 1) 5 _ 28 _ T2.1.2.1
  have r6 : w2.cell? ⟨g + 1, 6, none⟩ = some (.bool false) := cell_of_row _ (g + 1) 6 _ 28 _ T2.1.2.1
  have r7 : w2.cell? ⟨g + 1, 7, none⟩ = some (.bool false) := cell_of_row _ (g + 1) 7 _ 28 _ T2.1.2.1
  have r8 : w2.cell? ⟨g + 1, 8, none⟩ = some (.bool false) := cell_of_row _ (g + 1) 8 _ 28 _ T2.1.2.1
  have t0 : w2.cell? ⟨g + 1 + 1, 0, none⟩ = some (.bool false) := cell_of_row _ (g + 1 + 1) 0 _ 30 _ T2.1.2.2
  have t1 : w2.cell? ⟨g + 1 + 1, 1, none⟩ = some (.bool false) := cell_of_row _ (g + 1 + 1) 1 _ 30 _ T2.1.2.2
  have t2 : w2.cell? ⟨g + 1 + 1, 2, none⟩ = some (.int .i64 0) := cell_of_row _ (g + 1 + 1) 2 _ 30 _ T2.1.2.2
  obtain ⟨f0, f1, f2, f3, f4, f5, f6, f7, f8, u0, u1, u2⟩ := three_froz T2.1
  have HN : Hid (PtPost w (⟨[], 0, 0, 0, T, [], false, false, false⟩, noFlt) (.returned (.tuple #[.agg #[.slice none 0 0, .int .i64 0, .int .i64 0, .int .i64 0, .int .i64 (T : Int), .slice none 0 0, .bool false, .bool false, .bool false], .agg #[.bool false, .bool false, .int .i64 0]])) (stores (w2.setCell ⟨g + 1 + 1 + 1, 4, none⟩ (.int .i64 (T : Int))) g (.slice none 0 0) (.int .i64 0) (.int .i64 0) (.int .i64 0) (.int .i64 (T : Int)) (.slice none 0 0) (.bool false) (.bool false) (.bool false) (.bool false) (.bool false) (.int .i64 0))) := Lib.hid (rd_bare HG.out (HB2.out.setCell (p := ⟨g + 1 + 1 + 1, 4, none⟩) (show w.heap.size ≤ g + 1 + 1 + 1 by have := HG.out; omega) _) rfl rfl _ _ _ _ _ _ _ _ _ _ _ _)
  clear T2
  have HV2 := Lib.hid (HV.out w2 HB2.out)
  go_wp2_with fail
  with_reducible refine (HV2.out).mono ?_
  rintro e w3 ⟨rfl, rfl⟩
  go_wp2
  refine bodyPost_ret (v := .tuple #[.agg #[.slice none 0 0, .int .i64 0, .int .i64 0, .int .i64 0, .int .i64 (T : Int), .slice none 0 0, .bool false, .bool false, .bool false], .agg #[.bool false, .bool false, .int .i64 0]]) (by simp [results, Try.results10, go_sem, r0, r1, r2, r3, r4, r5, r6, r7, r8, t0, t1, t2]) rfl HN.out
end Go.Proofs.Ytelbldhnlmggiaa
