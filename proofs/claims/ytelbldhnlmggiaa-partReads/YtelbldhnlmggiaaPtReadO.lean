/- The document's Read: kinds that it does not name; Data and Headers. -/
import Derived.Test.YtelbldhnlmggiaaPtFour
import Derived.BigQuiet
import Derived.Test.YtelbldhnlmggiaaPtPadded1
namespace Go.Proofs.Ytelbldhnlmggiaa
open Go.RowKit Fr

set_option maxRecDepth 100000 in
set_option maxHeartbeats 4000000 in
theorem rread_o (F S : Int) (k : Int) (l : List Nat) (A : Option Addr) (n c : Nat) (w : World) (hk : k < 0 ∨ 9 < k) :
    Calls Try.prog 10 #[.agg #[.int .i64 k, .int .i64 F, .int .i64 S, .slice A n c]] w (PtPost w (noPrt, noFlt)) := by
  have q0 : (k == 0) = false := by rw [beq_eq_false_iff_ne]; omega
  have q1 : (k == 1) = false := by rw [beq_eq_false_iff_ne]; omega
  have q2 : (k == 2) = false := by rw [beq_eq_false_iff_ne]; omega
  have q3 : (k == 3) = false := by rw [beq_eq_false_iff_ne]; omega
  have q4 : (k == 4) = false := by rw [beq_eq_false_iff_ne]; omega
  have q5 : (k == 5) = false := by rw [beq_eq_false_iff_ne]; omega
  have q6 : (k == 6) = false := by rw [beq_eq_false_iff_ne]; omega
  have q7 : (k == 7) = false := by rw [beq_eq_false_iff_ne]; omega
  have q8 : (k == 8) = false := by rw [beq_eq_false_iff_ne]; omega
  have q9 : (k == 9) = false := by rw [beq_eq_false_iff_ne]; omega
  clear hk
  obtain ⟨T0, hbl, hsz⟩ := four_of w (⟨k, F, S, l⟩ : Frm) A n c
  obtain ⟨g, hg⟩ : ∃ g, g = w.heap.size := ⟨_, rfl⟩
  obtain ⟨w1, hw1⟩ : ∃ w1, w1 = w4of w (⟨k, F, S, l⟩ : Frm) A n c := ⟨_, rfl⟩
  rw [← hw1, ← hg] at T0
  rw [← hw1] at hbl hsz
  have hw1' : w1 = ((((w.alloc (.cells #[.int .i64 k, .int .i64 F, .int .i64 S, .slice A n c] 34)).alloc (.cells #[.slice none 0 0, .int .i64 0, .int .i64 0, .int .i64 0, .int .i64 0, .slice none 0 0, .bool false, .bool false, .bool false] 28)).alloc (.cells #[.bool false, .bool false, .int .i64 0] 30)).alloc (.cells #[.slice none 0 0, .int .i64 0, .int .i64 0, .int .i64 0, .int .i64 0, .slice none 0 0, .bool false, .bool false, .bool false] 28)) := hw1
  obtain ⟨x0, x1, x2, x3⟩ := three_frm T0.1
  simp only [] at x0 x1 x2 x3
  have HT := Lib.hid T0
  have HW := Lib.hid hw1'
  have HG := Lib.hid hg
  have HBL := Lib.hid hbl
  have HSZ : Hid (w1.heap.size = g + 1 + 1 + 1 + 1) := Lib.hid (by rw [hsz, hg])
  clear T0 hw1' hw1 hg hbl hsz
  go_enter Try.func10, Try.ntmps10
  go_wp2
  rw [← HW.out, ← HG.out]
  go_quiet (fail)
  have T2 := HT.out.drewN nq
  have hb2 : Below w.heap.size w (w1.drewN nq) := below_drewN HBL.out _
  have hs2 : (w1.drewN nq).heap.size = g + 1 + 1 + 1 + 1 := HSZ.out
  obtain ⟨w2, hw2⟩ : ∃ w2, w2 = w1.drewN nq := ⟨_, rfl⟩
  rw [← hw2] at T2 hb2 hs2 ⊢
  obtain ⟨x0, x1, x2, x3⟩ := three_frm T2.1
  simp only [] at x0 x1 x2 x3
  have HT2 := Lib.hid T2
  have HB2 := Lib.hid hb2
  have HS2 := Lib.hid hs2
  clear hw2 hb2 hs2 HT HW HBL HSZ
  have p0 : w2.cell? ⟨g + 1 + 1 + 1, 0, none⟩ = some (.slice none 0 0) := cell_of_row _ (g + 1 + 1 + 1) 0 _ 28 _ T2.2
  have p1 : w2.cell? ⟨g + 1 + 1 + 1, 1, none⟩ = some (.int .i64 0) := cell_of_row _ (g + 1 + 1 + 1) 1 _ 28 _ T2.2
  have p2 : w2.cell? ⟨g + 1 + 1 + 1, 2, none⟩ = some (.int .i64 0) := cell_of_row _ (g + 1 + 1 + 1) 2 _ 28 _ T2.2
  have p3 : w2.cell? ⟨g + 1 + 1 + 1, 3, none⟩ = some (.int .i64 0) := cell_of_row _ (g + 1 + 1 + 1) 3 _ 28 _ T2.2
  have p4 : w2.cell? ⟨g + 1 + 1 + 1, 4, none⟩ = some (.int .i64 0) := cell_of_row _ (g + 1 + 1 + 1) 4 _ 28 _ T2.2
  have p5 : w2.cell? ⟨g + 1 + 1 + 1, 5, none⟩ = some (.slice none 0 0) := cell_of_row _ (g + 1 + 1 + 1) 5 _ 28 _ T2.2
  have p6 : w2.cell? ⟨g + 1 + 1 + 1, 6, none⟩ = some (.bool false) := cell_of_row _ (g + 1 + 1 + 1) 6 _ 28 _ T2.2
  have p7 : w2.cell? ⟨g + 1 + 1 + 1, 7, none⟩ = some (.bool false) := cell_of_row _ (g + 1 + 1 + 1) 7 _ 28 _ T2.2
  have p8 : w2.cell? ⟨g + 1 + 1 + 1, 8, none⟩ = some (.bool false) := cell_of_row _ (g + 1 + 1 + 1) 8 _ 28 _ T2.2
  have r0 : w2.cell? ⟨g + 1, 0, none⟩ = some (.slice none 0 0) := cell_of_row _ (g + 1) 0 _ 28 _ T2.1.2.1
  have r1 : w2.cell? ⟨g + 1, 1, none⟩ = some (.int .i64 0) := cell_of_row _ (g + 1) 1 _ 28 _ T2.1.2.1
  have r2 : w2.cell? ⟨g + 1, 2, none⟩ = some (.int .i64 0) := cell_of_row _ (g + 1) 2 _ 28 _ T2.1.2.1
  have r3 : w2.cell? ⟨g + 1, 3, none⟩ = some (.int .i64 0) := cell_of_row _ (g + 1) 3 _ 28 _ T2.1.2.1
  have r4 : w2.cell? ⟨g + 1, 4, none⟩ = some (.int .i64 0) := cell_of_row _ (g + 1) 4 _ 28 _ T2.1.2.1
  have r5 : w2.cell? ⟨g + 1, 5, none⟩ = some (.slice none 0 0) := cell_of_row _ (g + 1) 5 _ 28 _ T2.1.2.1
  have r6 : w2.cell? ⟨g + 1, 6, none⟩ = some (.bool false) := cell_of_row _ (g + 1) 6 _ 28 _ T2.1.2.1
  have r7 : w2.cell? ⟨g + 1, 7, none⟩ = some (.bool false) := cell_of_row _ (g + 1) 7 _ 28 _ T2.1.2.1
  have r8 : w2.cell? ⟨g + 1, 8, none⟩ = some (.bool false) := cell_of_row _ (g + 1) 8 _ 28 _ T2.1.2.1
  have t0 : w2.cell? ⟨g + 1 + 1, 0, none⟩ = some (.bool false) := cell_of_row _ (g + 1 + 1) 0 _ 30 _ T2.1.2.2
  have t1 : w2.cell? ⟨g + 1 + 1, 1, none⟩ = some (.bool false) := cell_of_row _ (g + 1 + 1) 1 _ 30 _ T2.1.2.2
  have t2 : w2.cell? ⟨g + 1 + 1, 2, none⟩ = some (.int .i64 0) := cell_of_row _ (g + 1 + 1) 2 _ 30 _ T2.1.2.2
  obtain ⟨f0, f1, f2, f3, f4, f5, f6, f7, f8, u0, u1, u2⟩ := three_froz T2.1
  have HN : Hid (PtPost w (noPrt, noFlt) (.returned (.tuple #[.agg #[.slice none 0 0, .int .i64 0, .int .i64 0, .int .i64 0, .int .i64 0, .slice none 0 0, .bool false, .bool false, .bool false], .agg #[.bool false, .bool false, .int .i64 0]])) (stores w2 g (.slice none 0 0) (.int .i64 0) (.int .i64 0) (.int .i64 0) (.int .i64 0) (.slice none 0 0) (.bool false) (.bool false) (.bool false) (.bool false) (.bool false) (.int .i64 0))) := Lib.hid (rd_bare HG.out HB2.out rfl rfl _ _ _ _ _ _ _ _ _ _ _ _)
  clear T2
  go_wp2
  refine bodyPost_ret (v := .tuple #[.agg #[.slice none 0 0, .int .i64 0, .int .i64 0, .int .i64 0, .int .i64 0, .slice none 0 0, .bool false, .bool false, .bool false], .agg #[.bool false, .bool false, .int .i64 0]]) (by simp [results, Try.results10, go_sem, r0, r1, r2, r3, r4, r5, r6, r7, r8, t0, t1, t2]) rfl HN.out
set_option maxRecDepth 100000 in
set_option maxHeartbeats 4000000 in
theorem rread0 (F S : Int) (l : List Nat) (A : Option Addr) (n c : Nat) (w : World) (hA : At .u8 w w.heap.size A l) (hb : ∀ x ∈ l, x < 256) (hl : l.length = n) (hc : A = none → c = 0) (hcl : n ≤ c) (hn : n ≤ 100000) :
    Calls Try.prog 10 #[.agg #[.int .i64 0, .int .i64 F, .int .i64 S, .slice A n c]] w (PtPost w (padded (⟨0, F, S, l⟩ : Frm))) := by
  have HPD : Hid (∀ W, Below w.heap.size w W → Calls Try.prog 22 #[.agg #[.int .i64 0, .int .i64 F, .int .i64 S, .slice A n c]] W (PtPost W (padded (⟨0, F, S, l⟩ : Frm)))) := Lib.hid (fun W hb' => rpadded0 F S l A n c W (hA.up hb') hb hl hc hcl hn)
  obtain ⟨R, hR⟩ : ∃ R, R = padded (⟨0, F, S, l⟩ : Frm) := ⟨_, rfl⟩
  rw [← hR] at HPD ⊢
  obtain ⟨⟨D, pad, code, last, step, sets, e', ack, wh⟩, ⟨bad, conn, fc⟩⟩ := R
  clear hA hb hl hc hcl hn hR
  obtain ⟨T0, hbl, hsz⟩ := four_of w (⟨0, F, S, l⟩ : Frm) A n c
  obtain ⟨g, hg⟩ : ∃ g, g = w.heap.size := ⟨_, rfl⟩
  obtain ⟨w1, hw1⟩ : ∃ w1, w1 = w4of w (⟨0, F, S, l⟩ : Frm) A n c := ⟨_, rfl⟩
  rw [← hw1, ← hg] at T0
  rw [← hw1] at hbl hsz
  have hw1' : w1 = ((((w.alloc (.cells #[.int .i64 0, .int .i64 F, .int .i64 S, .slice A n c] 34)).alloc (.cells #[.slice none 0 0, .int .i64 0, .int .i64 0, .int .i64 0, .int .i64 0, .slice none 0 0, .bool false, .bool false, .bool false] 28)).alloc (.cells #[.bool false, .bool false, .int .i64 0] 30)).alloc (.cells #[.slice none 0 0, .int .i64 0, .int .i64 0, .int .i64 0, .int .i64 0, .slice none 0 0, .bool false, .bool false, .bool false] 28)) := hw1
  obtain ⟨x0, x1, x2, x3⟩ := three_frm T0.1
  simp only [] at x0 x1 x2 x3
  have HT := Lib.hid T0
  have HW := Lib.hid hw1'
  have HG := Lib.hid hg
  have HBL := Lib.hid hbl
  have HSZ : Hid (w1.heap.size = g + 1 + 1 + 1 + 1) := Lib.hid (by rw [hsz, hg])
  clear T0 hw1' hw1 hg hbl hsz
  go_enter Try.func10, Try.ntmps10
  go_wp2
  rw [← HW.out, ← HG.out]
  go_quiet (fail)
  have T2 := HT.out.drewN nq
  have hb2 : Below w.heap.size w (w1.drewN nq) := below_drewN HBL.out _
  have hs2 : (w1.drewN nq).heap.size = g + 1 + 1 + 1 + 1 := HSZ.out
  obtain ⟨w2, hw2⟩ : ∃ w2, w2 = w1.drewN nq := ⟨_, rfl⟩
  rw [← hw2] at T2 hb2 hs2 ⊢
  obtain ⟨x0, x1, x2, x3⟩ := three_frm T2.1
  simp only [] at x0 x1 x2 x3
  have HT2 := Lib.hid T2
  have HB2 := Lib.hid hb2
  have HS2 := Lib.hid hs2
  clear hw2 hb2 hs2 HT HW HBL HSZ
  have HP2 := Lib.hid (HPD.out w2 HB2.out)
  clear T2 HPD
  go_wp2_with fail
  with_reducible refine (HP2.out).mono ?_
  rintro e w3 hP
  have hN := hP.stored HG.out HB2.out (by have := HS2.out; omega)
  obtain ⟨A3, c3, B3, d3, rfl, _, _, _, _, _, _, _, _, hb3⟩ := hP
  have T3 := HT2.out.up hb3
  have r0 : w3.cell? ⟨g + 1, 0, none⟩ = some (.slice none 0 0) := cell_of_row _ (g + 1) 0 _ 28 _ T3.1.2.1
  have r1 : w3.cell? ⟨g + 1, 1, none⟩ = some (.int .i64 0) := cell_of_row _ (g + 1) 1 _ 28 _ T3.1.2.1
  have r2 : w3.cell? ⟨g + 1, 2, none⟩ = some (.int .i64 0) := cell_of_row _ (g + 1) 2 _ 28 _ T3.1.2.1
  have r3 : w3.cell? ⟨g + 1, 3, none⟩ = some (.int .i64 0) := cell_of_row _ (g + 1) 3 _ 28 _ T3.1.2.1
  have r4 : w3.cell? ⟨g + 1, 4, none⟩ = some (.int .i64 0) := cell_of_row _ (g + 1) 4 _ 28 _ T3.1.2.1
  have r5 : w3.cell? ⟨g + 1, 5, none⟩ = some (.slice none 0 0) := cell_of_row _ (g + 1) 5 _ 28 _ T3.1.2.1
  have r6 : w3.cell? ⟨g + 1, 6, none⟩ = some (.bool false) := cell_of_row _ (g + 1) 6 _ 28 _ T3.1.2.1
  have r7 : w3.cell? ⟨g + 1, 7, none⟩ = some (.bool false) := cell_of_row _ (g + 1) 7 _ 28 _ T3.1.2.1
  have r8 : w3.cell? ⟨g + 1, 8, none⟩ = some (.bool false) := cell_of_row _ (g + 1) 8 _ 28 _ T3.1.2.1
  have t0 : w3.cell? ⟨g + 1 + 1, 0, none⟩ = some (.bool false) := cell_of_row _ (g + 1 + 1) 0 _ 30 _ T3.1.2.2
  have t1 : w3.cell? ⟨g + 1 + 1, 1, none⟩ = some (.bool false) := cell_of_row _ (g + 1 + 1) 1 _ 30 _ T3.1.2.2
  have t2 : w3.cell? ⟨g + 1 + 1, 2, none⟩ = some (.int .i64 0) := cell_of_row _ (g + 1 + 1) 2 _ 30 _ T3.1.2.2
  obtain ⟨f0, f1, f2, f3, f4, f5, f6, f7, f8, u0, u1, u2⟩ := three_froz T3.1
  simp only [prt, flt] at hN ⊢
  obtain ⟨dn, hdn⟩ : ∃ dn, dn = D.length := ⟨_, rfl⟩
  obtain ⟨sn, hsn⟩ : ∃ sn, sn = sets.length := ⟨_, rfl⟩
  rw [← hdn, ← hsn] at hN ⊢
  have HN := Lib.hid (hN (.slice A3 dn c3) (.int .i64 (pad : Int)) (.int .i64 (code : Int)) (.int .i64 (last : Int)) (.int .i64 (step : Int)) (.slice B3 sn d3) (.bool e') (.bool ack) (.bool wh) (.bool bad) (.bool conn) (.int .i64 (fc : Int)))
  clear T3 hb3 hN hdn hsn
  go_wp2
  refine bodyPost_ret (v := .tuple #[.agg #[.slice A3 dn c3, .int .i64 (pad : Int), .int .i64 (code : Int), .int .i64 (last : Int), .int .i64 (step : Int), .slice B3 sn d3, .bool e', .bool ack, .bool wh], .agg #[.bool bad, .bool conn, .int .i64 (fc : Int)]]) (by simp [results, Try.results10, go_sem, r0, r1, r2, r3, r4, r5, r6, r7, r8, t0, t1, t2]) rfl HN.out
set_option maxRecDepth 100000 in
set_option maxHeartbeats 4000000 in
theorem rread1 (F S : Int) (l : List Nat) (A : Option Addr) (n c : Nat) (w : World) (hA : At .u8 w w.heap.size A l) (hb : ∀ x ∈ l, x < 256) (hl : l.length = n) (hc : A = none → c = 0) (hcl : n ≤ c) (hn : n ≤ 100000) :
    Calls Try.prog 10 #[.agg #[.int .i64 1, .int .i64 F, .int .i64 S, .slice A n c]] w (PtPost w (padded (⟨1, F, S, l⟩ : Frm))) := by
  have HPD : Hid (∀ W, Below w.heap.size w W → Calls Try.prog 22 #[.agg #[.int .i64 1, .int .i64 F, .int .i64 S, .slice A n c]] W (PtPost W (padded (⟨1, F, S, l⟩ : Frm)))) := Lib.hid (fun W hb' => rpadded1 F S l A n c W (hA.up hb') hb hl hc hcl hn)
  obtain ⟨R, hR⟩ : ∃ R, R = padded (⟨1, F, S, l⟩ : Frm) := ⟨_, rfl⟩
  rw [← hR] at HPD ⊢
  obtain ⟨⟨D, pad, code, last, step, sets, e', ack, wh⟩, ⟨bad, conn, fc⟩⟩ := R
  clear hA hb hl hc hcl hn hR
  obtain ⟨T0, hbl, hsz⟩ := four_of w (⟨1, F, S, l⟩ : Frm) A n c
  obtain ⟨g, hg⟩ : ∃ g, g = w.heap.size := ⟨_, rfl⟩
  obtain ⟨w1, hw1⟩ : ∃ w1, w1 = w4of w (⟨1, F, S, l⟩ : Frm) A n c := ⟨_, rfl⟩
  rw [← hw1, ← hg] at T0
  rw [← hw1] at hbl hsz
  have hw1' : w1 = ((((w.alloc (.cells #[.int .i64 1, .int .i64 F, .int .i64 S, .slice A n c] 34)).alloc (.cells #[.slice none 0 0, .int .i64 0, .int .i64 0, .int .i64 0, .int .i64 0, .slice none 0 0, .bool false, .bool false, .bool false] 28)).alloc (.cells #[.bool false, .bool false, .int .i64 0] 30)).alloc (.cells #[.slice none 0 0, .int .i64 0, .int .i64 0, .int .i64 0, .int .i64 0, .slice none 0 0, .bool false, .bool false, .bool false] 28)) := hw1
  obtain ⟨x0, x1, x2, x3⟩ := three_frm T0.1
  simp only [] at x0 x1 x2 x3
  have HT := Lib.hid T0
  have HW := Lib.hid hw1'
  have HG := Lib.hid hg
  have HBL := Lib.hid hbl
  have HSZ : Hid (w1.heap.size = g + 1 + 1 + 1 + 1) := Lib.hid (by rw [hsz, hg])
  clear T0 hw1' hw1 hg hbl hsz
  go_enter Try.func10, Try.ntmps10
  go_wp2
  rw [← HW.out, ← HG.out]
  go_quiet (fail)
  have T2 := HT.out.drewN nq
  have hb2 : Below w.heap.size w (w1.drewN nq) := below_drewN HBL.out _
  have hs2 : (w1.drewN nq).heap.size = g + 1 + 1 + 1 + 1 := HSZ.out
  obtain ⟨w2, hw2⟩ : ∃ w2, w2 = w1.drewN nq := ⟨_, rfl⟩
  rw [← hw2] at T2 hb2 hs2 ⊢
  obtain ⟨x0, x1, x2, x3⟩ := three_frm T2.1
  simp only [] at x0 x1 x2 x3
  have HT2 := Lib.hid T2
  have HB2 := Lib.hid hb2
  have HS2 := Lib.hid hs2
  clear hw2 hb2 hs2 HT HW HBL HSZ
  have HP2 := Lib.hid (HPD.out w2 HB2.out)
  clear T2 HPD
  go_wp2_with fail
  with_reducible refine (HP2.out).mono ?_
  rintro e w3 hP
  have hN := hP.stored HG.out HB2.out (by have := HS2.out; omega)
  obtain ⟨A3, c3, B3, d3, rfl, _, _, _, _, _, _, _, _, hb3⟩ := hP
  have T3 := HT2.out.up hb3
  have r0 : w3.cell? ⟨g + 1, 0, none⟩ = some (.slice none 0 0) := cell_of_row _ (g + 1) 0 _ 28 _ T3.1.2.1
  have r1 : w3.cell? ⟨g + 1, 1, none⟩ = some (.int .i64 0) := cell_of_row _ (g + 1) 1 _ 28 _ T3.1.2.1
  have r2 : w3.cell? ⟨g + 1, 2, none⟩ = some (.int .i64 0) := cell_of_row _ (g + 1) 2 _ 28 _ T3.1.2.1
  have r3 : w3.cell? ⟨g + 1, 3, none⟩ = some (.int .i64 0) := cell_of_row _ (g + 1) 3 _ 28 _ T3.1.2.1
  have r4 : w3.cell? ⟨g + 1, 4, none⟩ = some (.int .i64 0) := cell_of_row _ (g + 1) 4 _ 28 _ T3.1.2.1
  have r5 : w3.cell? ⟨g + 1, 5, none⟩ = some (.slice none 0 0) := cell_of_row _ (g + 1) 5 _ 28 _ T3.1.2.1
  have r6 : w3.cell? ⟨g + 1, 6, none⟩ = some (.bool false) := cell_of_row _ (g + 1) 6 _ 28 _ T3.1.2.1
  have r7 : w3.cell? ⟨g + 1, 7, none⟩ = some (.bool false) := cell_of_row _ (g + 1) 7 _ 28 _ T3.1.2.1
  have r8 : w3.cell? ⟨g + 1, 8, none⟩ = some (.bool false) := cell_of_row _ (g + 1) 8 _ 28 _ T3.1.2.1
  have t0 : w3.cell? ⟨g + 1 + 1, 0, none⟩ = some (.bool false) := cell_of_row _ (g + 1 + 1) 0 _ 30 _ T3.1.2.2
  have t1 : w3.cell? ⟨g + 1 + 1, 1, none⟩ = some (.bool false) := cell_of_row _ (g + 1 + 1) 1 _ 30 _ T3.1.2.2
  have t2 : w3.cell? ⟨g + 1 + 1, 2, none⟩ = some (.int .i64 0) := cell_of_row _ (g + 1 + 1) 2 _ 30 _ T3.1.2.2
  obtain ⟨f0, f1, f2, f3, f4, f5, f6, f7, f8, u0, u1, u2⟩ := three_froz T3.1
  simp only [prt, flt] at hN ⊢
  obtain ⟨dn, hdn⟩ : ∃ dn, dn = D.length := ⟨_, rfl⟩
  obtain ⟨sn, hsn⟩ : ∃ sn, sn = sets.length := ⟨_, rfl⟩
  rw [← hdn, ← hsn] at hN ⊢
  have HN := Lib.hid (hN (.slice A3 dn c3) (.int .i64 (pad : Int)) (.int .i64 (code : Int)) (.int .i64 (last : Int)) (.int .i64 (step : Int)) (.slice B3 sn d3) (.bool e') (.bool ack) (.bool wh) (.bool bad) (.bool conn) (.int .i64 (fc : Int)))
  clear T3 hb3 hN hdn hsn
  go_wp2
  refine bodyPost_ret (v := .tuple #[.agg #[.slice A3 dn c3, .int .i64 (pad : Int), .int .i64 (code : Int), .int .i64 (last : Int), .int .i64 (step : Int), .slice B3 sn d3, .bool e', .bool ack, .bool wh], .agg #[.bool bad, .bool conn, .int .i64 (fc : Int)]]) (by simp [results, Try.results10, go_sem, r0, r1, r2, r3, r4, r5, r6, r7, r8, t0, t1, t2]) rfl HN.out
end Go.Proofs.Ytelbldhnlmggiaa
