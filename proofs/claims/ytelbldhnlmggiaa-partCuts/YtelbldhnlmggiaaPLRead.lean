/- The landed Read, by its kinds. -/
import Derived.Test.YtelbldhnlmggiaaPLSmall
namespace Go.Proofs.Ytelbldhnlmggiaa
open Go.RowKit Fr

set_option maxRecDepth 100000 in
set_option maxHeartbeats 4000000 in
theorem pread_k0 (F S : Int) (l : List Nat) (A : Option Addr) (n c : Nat) (w : World) (R : Prt × Flt) (hpd : ∀ W, Below w.heap.size w W → Calls Try.prog 17 #[.agg #[.int .i64 0, .int .i64 F, .int .i64 S, .slice A n c]] W (PtPost W R)) :
    Calls Try.prog 9 #[.agg #[.int .i64 0, .int .i64 F, .int .i64 S, .slice A n c]] w (PtPost w R) := by
  have HPD := Lib.hid hpd
  clear hpd
  obtain ⟨⟨D, pad, code, last, step, sets, e', ack, wh⟩, ⟨bad, conn, fc⟩⟩ := R
  obtain ⟨T0, hbl, hsz⟩ := three_of w (⟨0, F, S, l⟩ : Frm) A n c
  obtain ⟨g, hg⟩ : ∃ g, g = w.heap.size := ⟨_, rfl⟩
  obtain ⟨w1, hw1⟩ : ∃ w1, w1 = w3of w (⟨0, F, S, l⟩ : Frm) A n c := ⟨_, rfl⟩
  rw [← hw1, ← hg] at T0
  rw [← hw1] at hbl hsz
  have hw1' : w1 = (((w.alloc (.cells #[.int .i64 0, .int .i64 F, .int .i64 S, .slice A n c] 34)).alloc (.cells #[.slice none 0 0, .int .i64 0, .int .i64 0, .int .i64 0, .int .i64 0, .slice none 0 0, .bool false, .bool false, .bool false] 28)).alloc (.cells #[.bool false, .bool false, .int .i64 0] 30)) := hw1
  obtain ⟨x0, x1, x2, x3⟩ := three_frm T0
  simp only [] at x0 x1 x2 x3
  have HT := Lib.hid T0
  have HW := Lib.hid hw1'
  have HG := Lib.hid hg
  have HBL := Lib.hid hbl
  have HSZ : Hid (w1.heap.size = g + 1 + 1 + 1) := Lib.hid (by rw [hsz, hg])
  clear T0 hw1' hw1 hg hbl hsz
  go_enter Try.func9, Try.ntmps9
  go_upto_region 1 with fail
  rw [← HW.out, ← HG.out]
  go_wp2_with fail
  with_reducible refine (HPD.out w1 HBL.out).mono ?_
  rintro e w3 hP
  have hN := hP.stored HG.out HBL.out (by have := HSZ.out; omega)
  obtain ⟨A3, c3, B3, d3, rfl, _, _, _, _, _, _, _, _, hb3⟩ := hP
  have T3 := HT.out.up hb3
  have r0 : w3.cell? ⟨g + 1, 0, none⟩ = some (.slice none 0 0) := cell_of_row _ (g + 1) 0 _ 28 _ T3.2.1
  have r1 : w3.cell? ⟨g + 1, 1, none⟩ = some (.int .i64 0) := cell_of_row _ (g + 1) 1 _ 28 _ T3.2.1
  have r2 : w3.cell? ⟨g + 1, 2, none⟩ = some (.int .i64 0) := cell_of_row _ (g + 1) 2 _ 28 _ T3.2.1
  have r3 : w3.cell? ⟨g + 1, 3, none⟩ = some (.int .i64 0) := cell_of_row _ (g + 1) 3 _ 28 _ T3.2.1
  have r4 : w3.cell? ⟨g + 1, 4, none⟩ = some (.int .i64 0) := cell_of_row _ (g + 1) 4 _ 28 _ T3.2.1
  have r5 : w3.cell? ⟨g + 1, 5, none⟩ = some (.slice none 0 0) := cell_of_row _ (g + 1) 5 _ 28 _ T3.2.1
  have r6 : w3.cell? ⟨g + 1, 6, none⟩ = some (.bool false) := cell_of_row _ (g + 1) 6 _ 28 _ T3.2.1
  have r7 : w3.cell? ⟨g + 1, 7, none⟩ = some (.bool false) := cell_of_row _ (g + 1) 7 _ 28 _ T3.2.1
  have r8 : w3.cell? ⟨g + 1, 8, none⟩ = some (.bool false) := cell_of_row _ (g + 1) 8 _ 28 _ T3.2.1
  have t0 : w3.cell? ⟨g + 1 + 1, 0, none⟩ = some (.bool false) := cell_of_row _ (g + 1 + 1) 0 _ 30 _ T3.2.2
  have t1 : w3.cell? ⟨g + 1 + 1, 1, none⟩ = some (.bool false) := cell_of_row _ (g + 1 + 1) 1 _ 30 _ T3.2.2
  have t2 : w3.cell? ⟨g + 1 + 1, 2, none⟩ = some (.int .i64 0) := cell_of_row _ (g + 1 + 1) 2 _ 30 _ T3.2.2
  obtain ⟨f0, f1, f2, f3, f4, f5, f6, f7, f8, u0, u1, u2⟩ := three_froz T3
  simp only [prt, flt] at hN ⊢
  obtain ⟨dn, hdn⟩ : ∃ dn, dn = D.length := ⟨_, rfl⟩
  obtain ⟨sn, hsn⟩ : ∃ sn, sn = sets.length := ⟨_, rfl⟩
  rw [← hdn, ← hsn] at hN ⊢
  have HN := Lib.hid (hN (.slice A3 dn c3) (.int .i64 (pad : Int)) (.int .i64 (code : Int)) (.int .i64 (last : Int)) (.int .i64 (step : Int)) (.slice B3 sn d3) (.bool e') (.bool ack) (.bool wh) (.bool bad) (.bool conn) (.int .i64 (fc : Int)))
  clear T3 hb3 hN hdn hsn
  go_wp2
  refine bodyPost_ret (v := .tuple #[.agg #[.slice A3 dn c3, .int .i64 (pad : Int), .int .i64 (code : Int), .int .i64 (last : Int), .int .i64 (step : Int), .slice B3 sn d3, .bool e', .bool ack, .bool wh], .agg #[.bool bad, .bool conn, .int .i64 (fc : Int)]]) (by simp [results, Try.results9, go_sem, r0, r1, r2, r3, r4, r5, r6, r7, r8, t0, t1, t2]) rfl HN.out
set_option maxRecDepth 100000 in
set_option maxHeartbeats 4000000 in
theorem pread_k1 (F S : Int) (l : List Nat) (A : Option Addr) (n c : Nat) (w : World) (R : Prt × Flt) (hpd : ∀ W, Below w.heap.size w W → Calls Try.prog 17 #[.agg #[.int .i64 1, .int .i64 F, .int .i64 S, .slice A n c]] W (PtPost W R)) :
    Calls Try.prog 9 #[.agg #[.int .i64 1, .int .i64 F, .int .i64 S, .slice A n c]] w (PtPost w R) := by
  have HPD := Lib.hid hpd
  clear hpd
  obtain ⟨⟨D, pad, code, last, step, sets, e', ack, wh⟩, ⟨bad, conn, fc⟩⟩ := R
  obtain ⟨T0, hbl, hsz⟩ := three_of w (⟨1, F, S, l⟩ : Frm) A n c
  obtain ⟨g, hg⟩ : ∃ g, g = w.heap.size := ⟨_, rfl⟩
  obtain ⟨w1, hw1⟩ : ∃ w1, w1 = w3of w (⟨1, F, S, l⟩ : Frm) A n c := ⟨_, rfl⟩
  rw [← hw1, ← hg] at T0
  rw [← hw1] at hbl hsz
  have hw1' : w1 = (((w.alloc (.cells #[.int .i64 1, .int .i64 F, .int .i64 S, .slice A n c] 34)).alloc (.cells #[.slice none 0 0, .int .i64 0, .int .i64 0, .int .i64 0, .int .i64 0, .slice none 0 0, .bool false, .bool false, .bool false] 28)).alloc (.cells #[.bool false, .bool false, .int .i64 0] 30)) := hw1
  obtain ⟨x0, x1, x2, x3⟩ := three_frm T0
  simp only [] at x0 x1 x2 x3
  have HT := Lib.hid T0
  have HW := Lib.hid hw1'
  have HG := Lib.hid hg
  have HBL := Lib.hid hbl
  have HSZ : Hid (w1.heap.size = g + 1 + 1 + 1) := Lib.hid (by rw [hsz, hg])
  clear T0 hw1' hw1 hg hbl hsz
  go_enter Try.func9, Try.ntmps9
  go_upto_region 1 with fail
  rw [← HW.out, ← HG.out]
  go_wp2_with fail
  with_reducible refine (HPD.out w1 HBL.out).mono ?_
  rintro e w3 hP
  have hN := hP.stored HG.out HBL.out (by have := HSZ.out; omega)
  obtain ⟨A3, c3, B3, d3, rfl, _, _, _, _, _, _, _, _, hb3⟩ := hP
  have T3 := HT.out.up hb3
  have r0 : w3.cell? ⟨g + 1, 0, none⟩ = some (.slice none 0 0) := cell_of_row _ (g + 1) 0 _ 28 _ T3.2.1
  have r1 : w3.cell? ⟨g + 1, 1, none⟩ = some (.int .i64 0) := cell_of_row _ (g + 1) 1 _ 28 _ T3.2.1
  have r2 : w3.cell? ⟨g + 1, 2, none⟩ = some (.int .i64 0) := cell_of_row _ (g + 1) 2 _ 28 _ T3.2.1
  have r3 : w3.cell? ⟨g + 1, 3, none⟩ = some (.int .i64 0) := cell_of_row _ (g + 1) 3 _ 28 _ T3.2.1
  have r4 : w3.cell? ⟨g + 1, 4, none⟩ = some (.int .i64 0) := cell_of_row _ (g + 1) 4 _ 28 _ T3.2.1
  have r5 : w3.cell? ⟨g + 1, 5, none⟩ = some (.slice none 0 0) := cell_of_row _ (g + 1) 5 _ 28 _ T3.2.1
  have r6 : w3.cell? ⟨g + 1, 6, none⟩ = some (.bool false) := cell_of_row _ (g + 1) 6 _ 28 _ T3.2.1
  have r7 : w3.cell? ⟨g + 1, 7, none⟩ = some (.bool false) := cell_of_row _ (g + 1) 7 _ 28 _ T3.2.1
  have r8 : w3.cell? ⟨g + 1, 8, none⟩ = some (.bool false) := cell_of_row _ (g + 1) 8 _ 28 _ T3.2.1
  have t0 : w3.cell? ⟨g + 1 + 1, 0, none⟩ = some (.bool false) := cell_of_row _ (g + 1 + 1) 0 _ 30 _ T3.2.2
  have t1 : w3.cell? ⟨g + 1 + 1, 1, none⟩ = some (.bool false) := cell_of_row _ (g + 1 + 1) 1 _ 30 _ T3.2.2
  have t2 : w3.cell? ⟨g + 1 + 1, 2, none⟩ = some (.int .i64 0) := cell_of_row _ (g + 1 + 1) 2 _ 30 _ T3.2.2
  obtain ⟨f0, f1, f2, f3, f4, f5, f6, f7, f8, u0, u1, u2⟩ := three_froz T3
  simp only [prt, flt] at hN ⊢
  obtain ⟨dn, hdn⟩ : ∃ dn, dn = D.length := ⟨_, rfl⟩
  obtain ⟨sn, hsn⟩ : ∃ sn, sn = sets.length := ⟨_, rfl⟩
  rw [← hdn, ← hsn] at hN ⊢
  have HN := Lib.hid (hN (.slice A3 dn c3) (.int .i64 (pad : Int)) (.int .i64 (code : Int)) (.int .i64 (last : Int)) (.int .i64 (step : Int)) (.slice B3 sn d3) (.bool e') (.bool ack) (.bool wh) (.bool bad) (.bool conn) (.int .i64 (fc : Int)))
  clear T3 hb3 hN hdn hsn
  go_wp2
  refine bodyPost_ret (v := .tuple #[.agg #[.slice A3 dn c3, .int .i64 (pad : Int), .int .i64 (code : Int), .int .i64 (last : Int), .int .i64 (step : Int), .slice B3 sn d3, .bool e', .bool ack, .bool wh], .agg #[.bool bad, .bool conn, .int .i64 (fc : Int)]]) (by simp [results, Try.results9, go_sem, r0, r1, r2, r3, r4, r5, r6, r7, r8, t0, t1, t2]) rfl HN.out
set_option maxRecDepth 100000 in
set_option maxHeartbeats 4000000 in
theorem pread_k2 (F S : Int) (l : List Nat) (A : Option Addr) (n c : Nat) (w : World) (R : Prt × Flt) (hpd : ∀ W, Below w.heap.size w W → Calls Try.prog 18 #[.agg #[.int .i64 2, .int .i64 F, .int .i64 S, .slice A n c]] W (PtPost W R)) :
    Calls Try.prog 9 #[.agg #[.int .i64 2, .int .i64 F, .int .i64 S, .slice A n c]] w (PtPost w R) := by
  have HPD := Lib.hid hpd
  clear hpd
  obtain ⟨⟨D, pad, code, last, step, sets, e', ack, wh⟩, ⟨bad, conn, fc⟩⟩ := R
  obtain ⟨T0, hbl, hsz⟩ := three_of w (⟨2, F, S, l⟩ : Frm) A n c
  obtain ⟨g, hg⟩ : ∃ g, g = w.heap.size := ⟨_, rfl⟩
  obtain ⟨w1, hw1⟩ : ∃ w1, w1 = w3of w (⟨2, F, S, l⟩ : Frm) A n c := ⟨_, rfl⟩
  rw [← hw1, ← hg] at T0
  rw [← hw1] at hbl hsz
  have hw1' : w1 = (((w.alloc (.cells #[.int .i64 2, .int .i64 F, .int .i64 S, .slice A n c] 34)).alloc (.cells #[.slice none 0 0, .int .i64 0, .int .i64 0, .int .i64 0, .int .i64 0, .slice none 0 0, .bool false, .bool false, .bool false] 28)).alloc (.cells #[.bool false, .bool false, .int .i64 0] 30)) := hw1
  obtain ⟨x0, x1, x2, x3⟩ := three_frm T0
  simp only [] at x0 x1 x2 x3
  have HT := Lib.hid T0
  have HW := Lib.hid hw1'
  have HG := Lib.hid hg
  have HBL := Lib.hid hbl
  have HSZ : Hid (w1.heap.size = g + 1 + 1 + 1) := Lib.hid (by rw [hsz, hg])
  clear T0 hw1' hw1 hg hbl hsz
  go_enter Try.func9, Try.ntmps9
  go_upto_region 1 with fail
  rw [← HW.out, ← HG.out]
  go_wp2_with fail
  with_reducible refine (HPD.out w1 HBL.out).mono ?_
  rintro e w3 hP
  have hN := hP.stored HG.out HBL.out (by have := HSZ.out; omega)
  obtain ⟨A3, c3, B3, d3, rfl, _, _, _, _, _, _, _, _, hb3⟩ := hP
  have T3 := HT.out.up hb3
  have r0 : w3.cell? ⟨g + 1, 0, none⟩ = some (.slice none 0 0) := cell_of_row _ (g + 1) 0 _ 28 _ T3.2.1
  have r1 : w3.cell? ⟨g + 1, 1, none⟩ = some (.int .i64 0) := cell_of_row _ (g + 1) 1 _ 28 _ T3.2.1
  have r2 : w3.cell? ⟨g + 1, 2, none⟩ = some (.int .i64 0) := cell_of_row _ (g + 1) 2 _ 28 _ T3.2.1
  have r3 : w3.cell? ⟨g + 1, 3, none⟩ = some (.int .i64 0) := cell_of_row _ (g + 1) 3 _ 28 _ T3.2.1
  have r4 : w3.cell? ⟨g + 1, 4, none⟩ = some (.int .i64 0) := cell_of_row _ (g + 1) 4 _ 28 _ T3.2.1
  have r5 : w3.cell? ⟨g + 1, 5, none⟩ = some (.slice none 0 0) := cell_of_row _ (g + 1) 5 _ 28 _ T3.2.1
  have r6 : w3.cell? ⟨g + 1, 6, none⟩ = some (.bool false) := cell_of_row _ (g + 1) 6 _ 28 _ T3.2.1
  have r7 : w3.cell? ⟨g + 1, 7, none⟩ = some (.bool false) := cell_of_row _ (g + 1) 7 _ 28 _ T3.2.1
  have r8 : w3.cell? ⟨g + 1, 8, none⟩ = some (.bool false) := cell_of_row _ (g + 1) 8 _ 28 _ T3.2.1
  have t0 : w3.cell? ⟨g + 1 + 1, 0, none⟩ = some (.bool false) := cell_of_row _ (g + 1 + 1) 0 _ 30 _ T3.2.2
  have t1 : w3.cell? ⟨g + 1 + 1, 1, none⟩ = some (.bool false) := cell_of_row _ (g + 1 + 1) 1 _ 30 _ T3.2.2
  have t2 : w3.cell? ⟨g + 1 + 1, 2, none⟩ = some (.int .i64 0) := cell_of_row _ (g + 1 + 1) 2 _ 30 _ T3.2.2
  obtain ⟨f0, f1, f2, f3, f4, f5, f6, f7, f8, u0, u1, u2⟩ := three_froz T3
  simp only [prt, flt] at hN ⊢
  obtain ⟨dn, hdn⟩ : ∃ dn, dn = D.length := ⟨_, rfl⟩
  obtain ⟨sn, hsn⟩ : ∃ sn, sn = sets.length := ⟨_, rfl⟩
  rw [← hdn, ← hsn] at hN ⊢
  have HN := Lib.hid (hN (.slice A3 dn c3) (.int .i64 (pad : Int)) (.int .i64 (code : Int)) (.int .i64 (last : Int)) (.int .i64 (step : Int)) (.slice B3 sn d3) (.bool e') (.bool ack) (.bool wh) (.bool bad) (.bool conn) (.int .i64 (fc : Int)))
  clear T3 hb3 hN hdn hsn
  go_wp2
  refine bodyPost_ret (v := .tuple #[.agg #[.slice A3 dn c3, .int .i64 (pad : Int), .int .i64 (code : Int), .int .i64 (last : Int), .int .i64 (step : Int), .slice B3 sn d3, .bool e', .bool ack, .bool wh], .agg #[.bool bad, .bool conn, .int .i64 (fc : Int)]]) (by simp [results, Try.results9, go_sem, r0, r1, r2, r3, r4, r5, r6, r7, r8, t0, t1, t2]) rfl HN.out
set_option maxRecDepth 100000 in
set_option maxHeartbeats 4000000 in
theorem pread_k3 (F S : Int) (l : List Nat) (A : Option Addr) (n c : Nat) (w : World) (R : Prt × Flt) (hpd : ∀ W, Below w.heap.size w W → Calls Try.prog 18 #[.agg #[.int .i64 3, .int .i64 F, .int .i64 S, .slice A n c]] W (PtPost W R)) :
    Calls Try.prog 9 #[.agg #[.int .i64 3, .int .i64 F, .int .i64 S, .slice A n c]] w (PtPost w R) := by
  have HPD := Lib.hid hpd
  clear hpd
  obtain ⟨⟨D, pad, code, last, step, sets, e', ack, wh⟩, ⟨bad, conn, fc⟩⟩ := R
  obtain ⟨T0, hbl, hsz⟩ := three_of w (⟨3, F, S, l⟩ : Frm) A n c
  obtain ⟨g, hg⟩ : ∃ g, g = w.heap.size := ⟨_, rfl⟩
  obtain ⟨w1, hw1⟩ : ∃ w1, w1 = w3of w (⟨3, F, S, l⟩ : Frm) A n c := ⟨_, rfl⟩
  rw [← hw1, ← hg] at T0
  rw [← hw1] at hbl hsz
  have hw1' : w1 = (((w.alloc (.cells #[.int .i64 3, .int .i64 F, .int .i64 S, .slice A n c] 34)).alloc (.cells #[.slice none 0 0, .int .i64 0, .int .i64 0, .int .i64 0, .int .i64 0, .slice none 0 0, .bool false, .bool false, .bool false] 28)).alloc (.cells #[.bool false, .bool false, .int .i64 0] 30)) := hw1
  obtain ⟨x0, x1, x2, x3⟩ := three_frm T0
  simp only [] at x0 x1 x2 x3
  have HT := Lib.hid T0
  have HW := Lib.hid hw1'
  have HG := Lib.hid hg
  have HBL := Lib.hid hbl
  have HSZ : Hid (w1.heap.size = g + 1 + 1 + 1) := Lib.hid (by rw [hsz, hg])
  clear T0 hw1' hw1 hg hbl hsz
  go_enter Try.func9, Try.ntmps9
  go_upto_region 1 with fail
  rw [← HW.out, ← HG.out]
  go_wp2_with fail
  with_reducible refine (HPD.out w1 HBL.out).mono ?_
  rintro e w3 hP
  have hN := hP.stored HG.out HBL.out (by have := HSZ.out; omega)
  obtain ⟨A3, c3, B3, d3, rfl, _, _, _, _, _, _, _, _, hb3⟩ := hP
  have T3 := HT.out.up hb3
  have r0 : w3.cell? ⟨g + 1, 0, none⟩ = some (.slice none 0 0) := cell_of_row _ (g + 1) 0 _ 28 _ T3.2.1
  have r1 : w3.cell? ⟨g + 1, 1, none⟩ = some (.int .i64 0) := cell_of_row _ (g + 1) 1 _ 28 _ T3.2.1
  have r2 : w3.cell? ⟨g + 1, 2, none⟩ = some (.int .i64 0) := cell_of_row _ (g + 1) 2 _ 28 _ T3.2.1
  have r3 : w3.cell? ⟨g + 1, 3, none⟩ = some (.int .i64 0) := cell_of_row _ (g + 1) 3 _ 28 _ T3.2.1
  have r4 : w3.cell? ⟨g + 1, 4, none⟩ = some (.int .i64 0) := cell_of_row _ (g + 1) 4 _ 28 _ T3.2.1
  have r5 : w3.cell? ⟨g + 1, 5, none⟩ = some (.slice none 0 0) := cell_of_row _ (g + 1) 5 _ 28 _ T3.2.1
  have r6 : w3.cell? ⟨g + 1, 6, none⟩ = some (.bool false) := cell_of_row _ (g + 1) 6 _ 28 _ T3.2.1
  have r7 : w3.cell? ⟨g + 1, 7, none⟩ = some (.bool false) := cell_of_row _ (g + 1) 7 _ 28 _ T3.2.1
  have r8 : w3.cell? ⟨g + 1, 8, none⟩ = some (.bool false) := cell_of_row _ (g + 1) 8 _ 28 _ T3.2.1
  have t0 : w3.cell? ⟨g + 1 + 1, 0, none⟩ = some (.bool false) := cell_of_row _ (g + 1 + 1) 0 _ 30 _ T3.2.2
  have t1 : w3.cell? ⟨g + 1 + 1, 1, none⟩ = some (.bool false) := cell_of_row _ (g + 1 + 1) 1 _ 30 _ T3.2.2
  have t2 : w3.cell? ⟨g + 1 + 1, 2, none⟩ = some (.int .i64 0) := cell_of_row _ (g + 1 + 1) 2 _ 30 _ T3.2.2
  obtain ⟨f0, f1, f2, f3, f4, f5, f6, f7, f8, u0, u1, u2⟩ := three_froz T3
  simp only [prt, flt] at hN ⊢
  obtain ⟨dn, hdn⟩ : ∃ dn, dn = D.length := ⟨_, rfl⟩
  obtain ⟨sn, hsn⟩ : ∃ sn, sn = sets.length := ⟨_, rfl⟩
  rw [← hdn, ← hsn] at hN ⊢
  have HN := Lib.hid (hN (.slice A3 dn c3) (.int .i64 (pad : Int)) (.int .i64 (code : Int)) (.int .i64 (last : Int)) (.int .i64 (step : Int)) (.slice B3 sn d3) (.bool e') (.bool ack) (.bool wh) (.bool bad) (.bool conn) (.int .i64 (fc : Int)))
  clear T3 hb3 hN hdn hsn
  go_wp2
  refine bodyPost_ret (v := .tuple #[.agg #[.slice A3 dn c3, .int .i64 (pad : Int), .int .i64 (code : Int), .int .i64 (last : Int), .int .i64 (step : Int), .slice B3 sn d3, .bool e', .bool ack, .bool wh], .agg #[.bool bad, .bool conn, .int .i64 (fc : Int)]]) (by simp [results, Try.results9, go_sem, r0, r1, r2, r3, r4, r5, r6, r7, r8, t0, t1, t2]) rfl HN.out
set_option maxRecDepth 100000 in
set_option maxHeartbeats 4000000 in
theorem pread_k9 (F S : Int) (l : List Nat) (A : Option Addr) (n c : Nat) (w : World) (R : Prt × Flt) (hpd : ∀ W, Below w.heap.size w W → Calls Try.prog 18 #[.agg #[.int .i64 9, .int .i64 F, .int .i64 S, .slice A n c]] W (PtPost W R)) :
    Calls Try.prog 9 #[.agg #[.int .i64 9, .int .i64 F, .int .i64 S, .slice A n c]] w (PtPost w R) := by
  have HPD := Lib.hid hpd
  clear hpd
  obtain ⟨⟨D, pad, code, last, step, sets, e', ack, wh⟩, ⟨bad, conn, fc⟩⟩ := R
  obtain ⟨T0, hbl, hsz⟩ := three_of w (⟨9, F, S, l⟩ : Frm) A n c
  obtain ⟨g, hg⟩ : ∃ g, g = w.heap.size := ⟨_, rfl⟩
  obtain ⟨w1, hw1⟩ : ∃ w1, w1 = w3of w (⟨9, F, S, l⟩ : Frm) A n c := ⟨_, rfl⟩
  rw [← hw1, ← hg] at T0
  rw [← hw1] at hbl hsz
  have hw1' : w1 = (((w.alloc (.cells #[.int .i64 9, .int .i64 F, .int .i64 S, .slice A n c] 34)).alloc (.cells #[.slice none 0 0, .int .i64 0, .int .i64 0, .int .i64 0, .int .i64 0, .slice none 0 0, .bool false, .bool false, .bool false] 28)).alloc (.cells #[.bool false, .bool false, .int .i64 0] 30)) := hw1
  obtain ⟨x0, x1, x2, x3⟩ := three_frm T0
  simp only [] at x0 x1 x2 x3
  have HT := Lib.hid T0
  have HW := Lib.hid hw1'
  have HG := Lib.hid hg
  have HBL := Lib.hid hbl
  have HSZ : Hid (w1.heap.size = g + 1 + 1 + 1) := Lib.hid (by rw [hsz, hg])
  clear T0 hw1' hw1 hg hbl hsz
  go_enter Try.func9, Try.ntmps9
  go_upto_region 1 with fail
  rw [← HW.out, ← HG.out]
  go_wp2_with fail
  with_reducible refine (HPD.out w1 HBL.out).mono ?_
  rintro e w3 hP
  have hN := hP.stored HG.out HBL.out (by have := HSZ.out; omega)
  obtain ⟨A3, c3, B3, d3, rfl, _, _, _, _, _, _, _, _, hb3⟩ := hP
  have T3 := HT.out.up hb3
  have r0 : w3.cell? ⟨g + 1, 0, none⟩ = some (.slice none 0 0) := cell_of_row _ (g + 1) 0 _ 28 _ T3.2.1
  have r1 : w3.cell? ⟨g + 1, 1, none⟩ = some (.int .i64 0) := cell_of_row _ (g + 1) 1 _ 28 _ T3.2.1
  have r2 : w3.cell? ⟨g + 1, 2, none⟩ = some (.int .i64 0) := cell_of_row _ (g + 1) 2 _ 28 _ T3.2.1
  have r3 : w3.cell? ⟨g + 1, 3, none⟩ = some (.int .i64 0) := cell_of_row _ (g + 1) 3 _ 28 _ T3.2.1
  have r4 : w3.cell? ⟨g + 1, 4, none⟩ = some (.int .i64 0) := cell_of_row _ (g + 1) 4 _ 28 _ T3.2.1
  have r5 : w3.cell? ⟨g + 1, 5, none⟩ = some (.slice none 0 0) := cell_of_row _ (g + 1) 5 _ 28 _ T3.2.1
  have r6 : w3.cell? ⟨g + 1, 6, none⟩ = some (.bool false) := cell_of_row _ (g + 1) 6 _ 28 _ T3.2.1
  have r7 : w3.cell? ⟨g + 1, 7, none⟩ = some (.bool false) := cell_of_row _ (g + 1) 7 _ 28 _ T3.2.1
  have r8 : w3.cell? ⟨g + 1, 8, none⟩ = some (.bool false) := cell_of_row _ (g + 1) 8 _ 28 _ T3.2.1
  have t0 : w3.cell? ⟨g + 1 + 1, 0, none⟩ = some (.bool false) := cell_of_row _ (g + 1 + 1) 0 _ 30 _ T3.2.2
  have t1 : w3.cell? ⟨g + 1 + 1, 1, none⟩ = some (.bool false) := cell_of_row _ (g + 1 + 1) 1 _ 30 _ T3.2.2
  have t2 : w3.cell? ⟨g + 1 + 1, 2, none⟩ = some (.int .i64 0) := cell_of_row _ (g + 1 + 1) 2 _ 30 _ T3.2.2
  obtain ⟨f0, f1, f2, f3, f4, f5, f6, f7, f8, u0, u1, u2⟩ := three_froz T3
  simp only [prt, flt] at hN ⊢
  obtain ⟨dn, hdn⟩ : ∃ dn, dn = D.length := ⟨_, rfl⟩
  obtain ⟨sn, hsn⟩ : ∃ sn, sn = sets.length := ⟨_, rfl⟩
  rw [← hdn, ← hsn] at hN ⊢
  have HN := Lib.hid (hN (.slice A3 dn c3) (.int .i64 (pad : Int)) (.int .i64 (code : Int)) (.int .i64 (last : Int)) (.int .i64 (step : Int)) (.slice B3 sn d3) (.bool e') (.bool ack) (.bool wh) (.bool bad) (.bool conn) (.int .i64 (fc : Int)))
  clear T3 hb3 hN hdn hsn
  go_wp2
  refine bodyPost_ret (v := .tuple #[.agg #[.slice A3 dn c3, .int .i64 (pad : Int), .int .i64 (code : Int), .int .i64 (last : Int), .int .i64 (step : Int), .slice B3 sn d3, .bool e', .bool ack, .bool wh], .agg #[.bool bad, .bool conn, .int .i64 (fc : Int)]]) (by simp [results, Try.results9, go_sem, r0, r1, r2, r3, r4, r5, r6, r7, r8, t0, t1, t2]) rfl HN.out
set_option maxRecDepth 100000 in
set_option maxHeartbeats 4000000 in
theorem pread_k4 (F S : Int) (l : List Nat) (A : Option Addr) (n c : Nat) (w : World) (R : Prt × Flt) (hpd : ∀ W, Below w.heap.size w W → Calls Try.prog 19 #[.agg #[.int .i64 4, .int .i64 F, .int .i64 S, .slice A n c]] W (PtPost W R)) :
    Calls Try.prog 9 #[.agg #[.int .i64 4, .int .i64 F, .int .i64 S, .slice A n c]] w (PtPost w R) := by
  have HPD := Lib.hid hpd
  clear hpd
  obtain ⟨⟨D, pad, code, last, step, sets, e', ack, wh⟩, ⟨bad, conn, fc⟩⟩ := R
  obtain ⟨T0, hbl, hsz⟩ := three_of w (⟨4, F, S, l⟩ : Frm) A n c
  obtain ⟨g, hg⟩ : ∃ g, g = w.heap.size := ⟨_, rfl⟩
  obtain ⟨w1, hw1⟩ : ∃ w1, w1 = w3of w (⟨4, F, S, l⟩ : Frm) A n c := ⟨_, rfl⟩
  rw [← hw1, ← hg] at T0
  rw [← hw1] at hbl hsz
  have hw1' : w1 = (((w.alloc (.cells #[.int .i64 4, .int .i64 F, .int .i64 S, .slice A n c] 34)).alloc (.cells #[.slice none 0 0, .int .i64 0, .int .i64 0, .int .i64 0, .int .i64 0, .slice none 0 0, .bool false, .bool false, .bool false] 28)).alloc (.cells #[.bool false, .bool false, .int .i64 0] 30)) := hw1
  obtain ⟨x0, x1, x2, x3⟩ := three_frm T0
  simp only [] at x0 x1 x2 x3
  have HT := Lib.hid T0
  have HW := Lib.hid hw1'
  have HG := Lib.hid hg
  have HBL := Lib.hid hbl
  have HSZ : Hid (w1.heap.size = g + 1 + 1 + 1) := Lib.hid (by rw [hsz, hg])
  clear T0 hw1' hw1 hg hbl hsz
  go_enter Try.func9, Try.ntmps9
  go_upto_region 1 with fail
  rw [← HW.out, ← HG.out]
  go_wp2_with fail
  with_reducible refine (HPD.out w1 HBL.out).mono ?_
  rintro e w3 hP
  have hN := hP.stored HG.out HBL.out (by have := HSZ.out; omega)
  obtain ⟨A3, c3, B3, d3, rfl, _, _, _, _, _, _, _, _, hb3⟩ := hP
  have T3 := HT.out.up hb3
  have r0 : w3.cell? ⟨g + 1, 0, none⟩ = some (.slice none 0 0) := cell_of_row _ (g + 1) 0 _ 28 _ T3.2.1
  have r1 : w3.cell? ⟨g + 1, 1, none⟩ = some (.int .i64 0) := cell_of_row _ (g + 1) 1 _ 28 _ T3.2.1
  have r2 : w3.cell? ⟨g + 1, 2, none⟩ = some (.int .i64 0) := cell_of_row _ (g + 1) 2 _ 28 _ T3.2.1
  have r3 : w3.cell? ⟨g + 1, 3, none⟩ = some (.int .i64 0) := cell_of_row _ (g + 1) 3 _ 28 _ T3.2.1
  have r4 : w3.cell? ⟨g + 1, 4, none⟩ = some (.int .i64 0) := cell_of_row _ (g + 1) 4 _ 28 _ T3.2.1
  have r5 : w3.cell? ⟨g + 1, 5, none⟩ = some (.slice none 0 0) := cell_of_row _ (g + 1) 5 _ 28 _ T3.2.1
  have r6 : w3.cell? ⟨g + 1, 6, none⟩ = some (.bool false) := cell_of_row _ (g + 1) 6 _ 28 _ T3.2.1
  have r7 : w3.cell? ⟨g + 1, 7, none⟩ = some (.bool false) := cell_of_row _ (g + 1) 7 _ 28 _ T3.2.1
  have r8 : w3.cell? ⟨g + 1, 8, none⟩ = some (.bool false) := cell_of_row _ (g + 1) 8 _ 28 _ T3.2.1
  have t0 : w3.cell? ⟨g + 1 + 1, 0, none⟩ = some (.bool false) := cell_of_row _ (g + 1 + 1) 0 _ 30 _ T3.2.2
  have t1 : w3.cell? ⟨g + 1 + 1, 1, none⟩ = some (.bool false) := cell_of_row _ (g + 1 + 1) 1 _ 30 _ T3.2.2
  have t2 : w3.cell? ⟨g + 1 + 1, 2, none⟩ = some (.int .i64 0) := cell_of_row _ (g + 1 + 1) 2 _ 30 _ T3.2.2
  obtain ⟨f0, f1, f2, f3, f4, f5, f6, f7, f8, u0, u1, u2⟩ := three_froz T3
  simp only [prt, flt] at hN ⊢
  obtain ⟨dn, hdn⟩ : ∃ dn, dn = D.length := ⟨_, rfl⟩
  obtain ⟨sn, hsn⟩ : ∃ sn, sn = sets.length := ⟨_, rfl⟩
  rw [← hdn, ← hsn] at hN ⊢
  have HN := Lib.hid (hN (.slice A3 dn c3) (.int .i64 (pad : Int)) (.int .i64 (code : Int)) (.int .i64 (last : Int)) (.int .i64 (step : Int)) (.slice B3 sn d3) (.bool e') (.bool ack) (.bool wh) (.bool bad) (.bool conn) (.int .i64 (fc : Int)))
  clear T3 hb3 hN hdn hsn
  go_wp2
  refine bodyPost_ret (v := .tuple #[.agg #[.slice A3 dn c3, .int .i64 (pad : Int), .int .i64 (code : Int), .int .i64 (last : Int), .int .i64 (step : Int), .slice B3 sn d3, .bool e', .bool ack, .bool wh], .agg #[.bool bad, .bool conn, .int .i64 (fc : Int)]]) (by simp [results, Try.results9, go_sem, r0, r1, r2, r3, r4, r5, r6, r7, r8, t0, t1, t2]) rfl HN.out
set_option maxRecDepth 100000 in
set_option maxHeartbeats 4000000 in
theorem pread_k6 (F S : Int) (l : List Nat) (A : Option Addr) (n c : Nat) (w : World) (R : Prt × Flt) (hpd : ∀ W, Below w.heap.size w W → Calls Try.prog 19 #[.agg #[.int .i64 6, .int .i64 F, .int .i64 S, .slice A n c]] W (PtPost W R)) :
    Calls Try.prog 9 #[.agg #[.int .i64 6, .int .i64 F, .int .i64 S, .slice A n c]] w (PtPost w R) := by
  have HPD := Lib.hid hpd
  clear hpd
  obtain ⟨⟨D, pad, code, last, step, sets, e', ack, wh⟩, ⟨bad, conn, fc⟩⟩ := R
  obtain ⟨T0, hbl, hsz⟩ := three_of w (⟨6, F, S, l⟩ : Frm) A n c
  obtain ⟨g, hg⟩ : ∃ g, g = w.heap.size := ⟨_, rfl⟩
  obtain ⟨w1, hw1⟩ : ∃ w1, w1 = w3of w (⟨6, F, S, l⟩ : Frm) A n c := ⟨_, rfl⟩
  rw [← hw1, ← hg] at T0
  rw [← hw1] at hbl hsz
  have hw1' : w1 = (((w.alloc (.cells #[.int .i64 6, .int .i64 F, .int .i64 S, .slice A n c] 34)).alloc (.cells #[.slice none 0 0, .int .i64 0, .int .i64 0, .int .i64 0, .int .i64 0, .slice none 0 0, .bool false, .bool false, .bool false] 28)).alloc (.cells #[.bool false, .bool false, .int .i64 0] 30)) := hw1
  obtain ⟨x0, x1, x2, x3⟩ := three_frm T0
  simp only [] at x0 x1 x2 x3
  have HT := Lib.hid T0
  have HW := Lib.hid hw1'
  have HG := Lib.hid hg
  have HBL := Lib.hid hbl
  have HSZ : Hid (w1.heap.size = g + 1 + 1 + 1) := Lib.hid (by rw [hsz, hg])
  clear T0 hw1' hw1 hg hbl hsz
  go_enter Try.func9, Try.ntmps9
  go_upto_region 1 with fail
  rw [← HW.out, ← HG.out]
  go_wp2_with fail
  with_reducible refine (HPD.out w1 HBL.out).mono ?_
  rintro e w3 hP
  have hN := hP.stored HG.out HBL.out (by have := HSZ.out; omega)
  obtain ⟨A3, c3, B3, d3, rfl, _, _, _, _, _, _, _, _, hb3⟩ := hP
  have T3 := HT.out.up hb3
  have r0 : w3.cell? ⟨g + 1, 0, none⟩ = some (.slice none 0 0) := cell_of_row _ (g + 1) 0 _ 28 _ T3.2.1
  have r1 : w3.cell? ⟨g + 1, 1, none⟩ = some (.int .i64 0) := cell_of_row _ (g + 1) 1 _ 28 _ T3.2.1
  have r2 : w3.cell? ⟨g + 1, 2, none⟩ = some (.int .i64 0) := cell_of_row _ (g + 1) 2 _ 28 _ T3.2.1
  have r3 : w3.cell? ⟨g + 1, 3, none⟩ = some (.int .i64 0) := cell_of_row _ (g + 1) 3 _ 28 _ T3.2.1
  have r4 : w3.cell? ⟨g + 1, 4, none⟩ = some (.int .i64 0) := cell_of_row _ (g + 1) 4 _ 28 _ T3.2.1
  have r5 : w3.cell? ⟨g + 1, 5, none⟩ = some (.slice none 0 0) := cell_of_row _ (g + 1) 5 _ 28 _ T3.2.1
  have r6 : w3.cell? ⟨g + 1, 6, none⟩ = some (.bool false) := cell_of_row _ (g + 1) 6 _ 28 _ T3.2.1
  have r7 : w3.cell? ⟨g + 1, 7, none⟩ = some (.bool false) := cell_of_row _ (g + 1) 7 _ 28 _ T3.2.1
  have r8 : w3.cell? ⟨g + 1, 8, none⟩ = some (.bool false) := cell_of_row _ (g + 1) 8 _ 28 _ T3.2.1
  have t0 : w3.cell? ⟨g + 1 + 1, 0, none⟩ = some (.bool false) := cell_of_row _ (g + 1 + 1) 0 _ 30 _ T3.2.2
  have t1 : w3.cell? ⟨g + 1 + 1, 1, none⟩ = some (.bool false) := cell_of_row _ (g + 1 + 1) 1 _ 30 _ T3.2.2
  have t2 : w3.cell? ⟨g + 1 + 1, 2, none⟩ = some (.int .i64 0) := cell_of_row _ (g + 1 + 1) 2 _ 30 _ T3.2.2
  obtain ⟨f0, f1, f2, f3, f4, f5, f6, f7, f8, u0, u1, u2⟩ := three_froz T3
  simp only [prt, flt] at hN ⊢
  obtain ⟨dn, hdn⟩ : ∃ dn, dn = D.length := ⟨_, rfl⟩
  obtain ⟨sn, hsn⟩ : ∃ sn, sn = sets.length := ⟨_, rfl⟩
  rw [← hdn, ← hsn] at hN ⊢
  have HN := Lib.hid (hN (.slice A3 dn c3) (.int .i64 (pad : Int)) (.int .i64 (code : Int)) (.int .i64 (last : Int)) (.int .i64 (step : Int)) (.slice B3 sn d3) (.bool e') (.bool ack) (.bool wh) (.bool bad) (.bool conn) (.int .i64 (fc : Int)))
  clear T3 hb3 hN hdn hsn
  go_wp2
  refine bodyPost_ret (v := .tuple #[.agg #[.slice A3 dn c3, .int .i64 (pad : Int), .int .i64 (code : Int), .int .i64 (last : Int), .int .i64 (step : Int), .slice B3 sn d3, .bool e', .bool ack, .bool wh], .agg #[.bool bad, .bool conn, .int .i64 (fc : Int)]]) (by simp [results, Try.results9, go_sem, r0, r1, r2, r3, r4, r5, r6, r7, r8, t0, t1, t2]) rfl HN.out
set_option maxRecDepth 100000 in
set_option maxHeartbeats 4000000 in
theorem pread_k7 (F S : Int) (l : List Nat) (A : Option Addr) (n c : Nat) (w : World) (R : Prt × Flt) (hpd : ∀ W, Below w.heap.size w W → Calls Try.prog 19 #[.agg #[.int .i64 7, .int .i64 F, .int .i64 S, .slice A n c]] W (PtPost W R)) :
    Calls Try.prog 9 #[.agg #[.int .i64 7, .int .i64 F, .int .i64 S, .slice A n c]] w (PtPost w R) := by
  have HPD := Lib.hid hpd
  clear hpd
  obtain ⟨⟨D, pad, code, last, step, sets, e', ack, wh⟩, ⟨bad, conn, fc⟩⟩ := R
  obtain ⟨T0, hbl, hsz⟩ := three_of w (⟨7, F, S, l⟩ : Frm) A n c
  obtain ⟨g, hg⟩ : ∃ g, g = w.heap.size := ⟨_, rfl⟩
  obtain ⟨w1, hw1⟩ : ∃ w1, w1 = w3of w (⟨7, F, S, l⟩ : Frm) A n c := ⟨_, rfl⟩
  rw [← hw1, ← hg] at T0
  rw [← hw1] at hbl hsz
  have hw1' : w1 = (((w.alloc (.cells #[.int .i64 7, .int .i64 F, .int .i64 S, .slice A n c] 34)).alloc (.cells #[.slice none 0 0, .int .i64 0, .int .i64 0, .int .i64 0, .int .i64 0, .slice none 0 0, .bool false, .bool false, .bool false] 28)).alloc (.cells #[.bool false, .bool false, .int .i64 0] 30)) := hw1
  obtain ⟨x0, x1, x2, x3⟩ := three_frm T0
  simp only [] at x0 x1 x2 x3
  have HT := Lib.hid T0
  have HW := Lib.hid hw1'
  have HG := Lib.hid hg
  have HBL := Lib.hid hbl
  have HSZ : Hid (w1.heap.size = g + 1 + 1 + 1) := Lib.hid (by rw [hsz, hg])
  clear T0 hw1' hw1 hg hbl hsz
  go_enter Try.func9, Try.ntmps9
  go_upto_region 1 with fail
  rw [← HW.out, ← HG.out]
  go_wp2_with fail
  with_reducible refine (HPD.out w1 HBL.out).mono ?_
  rintro e w3 hP
  have hN := hP.stored HG.out HBL.out (by have := HSZ.out; omega)
  obtain ⟨A3, c3, B3, d3, rfl, _, _, _, _, _, _, _, _, hb3⟩ := hP
  have T3 := HT.out.up hb3
  have r0 : w3.cell? ⟨g + 1, 0, none⟩ = some (.slice none 0 0) := cell_of_row _ (g + 1) 0 _ 28 _ T3.2.1
  have r1 : w3.cell? ⟨g + 1, 1, none⟩ = some (.int .i64 0) := cell_of_row _ (g + 1) 1 _ 28 _ T3.2.1
  have r2 : w3.cell? ⟨g + 1, 2, none⟩ = some (.int .i64 0) := cell_of_row _ (g + 1) 2 _ 28 _ T3.2.1
  have r3 : w3.cell? ⟨g + 1, 3, none⟩ = some (.int .i64 0) := cell_of_row _ (g + 1) 3 _ 28 _ T3.2.1
  have r4 : w3.cell? ⟨g + 1, 4, none⟩ = some (.int .i64 0) := cell_of_row _ (g + 1) 4 _ 28 _ T3.2.1
  have r5 : w3.cell? ⟨g + 1, 5, none⟩ = some (.slice none 0 0) := cell_of_row _ (g + 1) 5 _ 28 _ T3.2.1
  have r6 : w3.cell? ⟨g + 1, 6, none⟩ = some (.bool false) := cell_of_row _ (g + 1) 6 _ 28 _ T3.2.1
  have r7 : w3.cell? ⟨g + 1, 7, none⟩ = some (.bool false) := cell_of_row _ (g + 1) 7 _ 28 _ T3.2.1
  have r8 : w3.cell? ⟨g + 1, 8, none⟩ = some (.bool false) := cell_of_row _ (g + 1) 8 _ 28 _ T3.2.1
  have t0 : w3.cell? ⟨g + 1 + 1, 0, none⟩ = some (.bool false) := cell_of_row _ (g + 1 + 1) 0 _ 30 _ T3.2.2
  have t1 : w3.cell? ⟨g + 1 + 1, 1, none⟩ = some (.bool false) := cell_of_row _ (g + 1 + 1) 1 _ 30 _ T3.2.2
  have t2 : w3.cell? ⟨g + 1 + 1, 2, none⟩ = some (.int .i64 0) := cell_of_row _ (g + 1 + 1) 2 _ 30 _ T3.2.2
  obtain ⟨f0, f1, f2, f3, f4, f5, f6, f7, f8, u0, u1, u2⟩ := three_froz T3
  simp only [prt, flt] at hN ⊢
  obtain ⟨dn, hdn⟩ : ∃ dn, dn = D.length := ⟨_, rfl⟩
  obtain ⟨sn, hsn⟩ : ∃ sn, sn = sets.length := ⟨_, rfl⟩
  rw [← hdn, ← hsn] at hN ⊢
  have HN := Lib.hid (hN (.slice A3 dn c3) (.int .i64 (pad : Int)) (.int .i64 (code : Int)) (.int .i64 (last : Int)) (.int .i64 (step : Int)) (.slice B3 sn d3) (.bool e') (.bool ack) (.bool wh) (.bool bad) (.bool conn) (.int .i64 (fc : Int)))
  clear T3 hb3 hN hdn hsn
  go_wp2
  refine bodyPost_ret (v := .tuple #[.agg #[.slice A3 dn c3, .int .i64 (pad : Int), .int .i64 (code : Int), .int .i64 (last : Int), .int .i64 (step : Int), .slice B3 sn d3, .bool e', .bool ack, .bool wh], .agg #[.bool bad, .bool conn, .int .i64 (fc : Int)]]) (by simp [results, Try.results9, go_sem, r0, r1, r2, r3, r4, r5, r6, r7, r8, t0, t1, t2]) rfl HN.out
set_option maxRecDepth 100000 in
set_option maxHeartbeats 4000000 in
theorem pread_k8 (F S : Int) (l : List Nat) (A : Option Addr) (n c : Nat) (w : World) (R : Prt × Flt) (hpd : ∀ W, Below w.heap.size w W → Calls Try.prog 21 #[.agg #[.int .i64 8, .int .i64 F, .int .i64 S, .slice A n c]] W (PtPost W R)) :
    Calls Try.prog 9 #[.agg #[.int .i64 8, .int .i64 F, .int .i64 S, .slice A n c]] w (PtPost w R) := by
  have HPD := Lib.hid hpd
  clear hpd
  obtain ⟨⟨D, pad, code, last, step, sets, e', ack, wh⟩, ⟨bad, conn, fc⟩⟩ := R
  obtain ⟨T0, hbl, hsz⟩ := three_of w (⟨8, F, S, l⟩ : Frm) A n c
  obtain ⟨g, hg⟩ : ∃ g, g = w.heap.size := ⟨_, rfl⟩
  obtain ⟨w1, hw1⟩ : ∃ w1, w1 = w3of w (⟨8, F, S, l⟩ : Frm) A n c := ⟨_, rfl⟩
  rw [← hw1, ← hg] at T0
  rw [← hw1] at hbl hsz
  have hw1' : w1 = (((w.alloc (.cells #[.int .i64 8, .int .i64 F, .int .i64 S, .slice A n c] 34)).alloc (.cells #[.slice none 0 0, .int .i64 0, .int .i64 0, .int .i64 0, .int .i64 0, .slice none 0 0, .bool false, .bool false, .bool false] 28)).alloc (.cells #[.bool false, .bool false, .int .i64 0] 30)) := hw1
  obtain ⟨x0, x1, x2, x3⟩ := three_frm T0
  simp only [] at x0 x1 x2 x3
  have HT := Lib.hid T0
  have HW := Lib.hid hw1'
  have HG := Lib.hid hg
  have HBL := Lib.hid hbl
  have HSZ : Hid (w1.heap.size = g + 1 + 1 + 1) := Lib.hid (by rw [hsz, hg])
  clear T0 hw1' hw1 hg hbl hsz
  go_enter Try.func9, Try.ntmps9
  go_upto_region 1 with fail
  rw [← HW.out, ← HG.out]
  go_wp2_with fail
  with_reducible refine (HPD.out w1 HBL.out).mono ?_
  rintro e w3 hP
  have hN := hP.stored HG.out HBL.out (by have := HSZ.out; omega)
  obtain ⟨A3, c3, B3, d3, rfl, _, _, _, _, _, _, _, _, hb3⟩ := hP
  have T3 := HT.out.up hb3
  have r0 : w3.cell? ⟨g + 1, 0, none⟩ = some (.slice none 0 0) := cell_of_row _ (g + 1) 0 _ 28 _ T3.2.1
  have r1 : w3.cell? ⟨g + 1, 1, none⟩ = some (.int .i64 0) := cell_of_row _ (g + 1) 1 _ 28 _ T3.2.1
  have r2 : w3.cell? ⟨g + 1, 2, none⟩ = some (.int .i64 0) := cell_of_row _ (g + 1) 2 _ 28 _ T3.2.1
  have r3 : w3.cell? ⟨g + 1, 3, none⟩ = some (.int .i64 0) := cell_of_row _ (g + 1) 3 _ 28 _ T3.2.1
  have r4 : w3.cell? ⟨g + 1, 4, none⟩ = some (.int .i64 0) := cell_of_row _ (g + 1) 4 _ 28 _ T3.2.1
  have r5 : w3.cell? ⟨g + 1, 5, none⟩ = some (.slice none 0 0) := cell_of_row _ (g + 1) 5 _ 28 _ T3.2.1
  have r6 : w3.cell? ⟨g + 1, 6, none⟩ = some (.bool false) := cell_of_row _ (g + 1) 6 _ 28 _ T3.2.1
  have r7 : w3.cell? ⟨g + 1, 7, none⟩ = some (.bool false) := cell_of_row _ (g + 1) 7 _ 28 _ T3.2.1
  have r8 : w3.cell? ⟨g + 1, 8, none⟩ = some (.bool false) := cell_of_row _ (g + 1) 8 _ 28 _ T3.2.1
  have t0 : w3.cell? ⟨g + 1 + 1, 0, none⟩ = some (.bool false) := cell_of_row _ (g + 1 + 1) 0 _ 30 _ T3.2.2
  have t1 : w3.cell? ⟨g + 1 + 1, 1, none⟩ = some (.bool false) := cell_of_row _ (g + 1 + 1) 1 _ 30 _ T3.2.2
  have t2 : w3.cell? ⟨g + 1 + 1, 2, none⟩ = some (.int .i64 0) := cell_of_row _ (g + 1 + 1) 2 _ 30 _ T3.2.2
  obtain ⟨f0, f1, f2, f3, f4, f5, f6, f7, f8, u0, u1, u2⟩ := three_froz T3
  simp only [prt, flt] at hN ⊢
  obtain ⟨dn, hdn⟩ : ∃ dn, dn = D.length := ⟨_, rfl⟩
  obtain ⟨sn, hsn⟩ : ∃ sn, sn = sets.length := ⟨_, rfl⟩
  rw [← hdn, ← hsn] at hN ⊢
  have HN := Lib.hid (hN (.slice A3 dn c3) (.int .i64 (pad : Int)) (.int .i64 (code : Int)) (.int .i64 (last : Int)) (.int .i64 (step : Int)) (.slice B3 sn d3) (.bool e') (.bool ack) (.bool wh) (.bool bad) (.bool conn) (.int .i64 (fc : Int)))
  clear T3 hb3 hN hdn hsn
  go_wp2
  refine bodyPost_ret (v := .tuple #[.agg #[.slice A3 dn c3, .int .i64 (pad : Int), .int .i64 (code : Int), .int .i64 (last : Int), .int .i64 (step : Int), .slice B3 sn d3, .bool e', .bool ack, .bool wh], .agg #[.bool bad, .bool conn, .int .i64 (fc : Int)]]) (by simp [results, Try.results9, go_sem, r0, r1, r2, r3, r4, r5, r6, r7, r8, t0, t1, t2]) rfl HN.out
set_option maxRecDepth 100000 in
set_option maxHeartbeats 4000000 in
theorem pread_k5 (F S : Int) (l : List Nat) (A : Option Addr) (n c : Nat) (w : World) :
    Calls Try.prog 9 #[.agg #[.int .i64 5, .int .i64 F, .int .i64 S, .slice A n c]] w (PtPost w (noPrt, ⟨true, true, 1⟩)) := by
  obtain ⟨T0, hbl, hsz⟩ := three_of w (⟨5, F, S, l⟩ : Frm) A n c
  obtain ⟨g, hg⟩ : ∃ g, g = w.heap.size := ⟨_, rfl⟩
  obtain ⟨w1, hw1⟩ : ∃ w1, w1 = w3of w (⟨5, F, S, l⟩ : Frm) A n c := ⟨_, rfl⟩
  rw [← hw1, ← hg] at T0
  rw [← hw1] at hbl hsz
  have hw1' : w1 = (((w.alloc (.cells #[.int .i64 5, .int .i64 F, .int .i64 S, .slice A n c] 34)).alloc (.cells #[.slice none 0 0, .int .i64 0, .int .i64 0, .int .i64 0, .int .i64 0, .slice none 0 0, .bool false, .bool false, .bool false] 28)).alloc (.cells #[.bool false, .bool false, .int .i64 0] 30)) := hw1
  obtain ⟨x0, x1, x2, x3⟩ := three_frm T0
  simp only [] at x0 x1 x2 x3
  have HT := Lib.hid T0
  have HW := Lib.hid hw1'
  have HG := Lib.hid hg
  have HBL := Lib.hid hbl
  have HSZ : Hid (w1.heap.size = g + 1 + 1 + 1) := Lib.hid (by rw [hsz, hg])
  clear T0 hw1' hw1 hg hbl hsz
  go_enter Try.func9, Try.ntmps9
  go_upto_region 1 with fail
  rw [← HW.out, ← HG.out]
  go_wp2_with fail
  with_reducible refine (pfault_any 1 w1).mono ?_
  rintro e w9 ⟨rfl, hb9⟩
  have T9 := HT.out.up hb9
  have r0 : w9.cell? ⟨g + 1, 0, none⟩ = some (.slice none 0 0) := cell_of_row _ (g + 1) 0 _ 28 _ T9.2.1
  have r1 : w9.cell? ⟨g + 1, 1, none⟩ = some (.int .i64 0) := cell_of_row _ (g + 1) 1 _ 28 _ T9.2.1
  have r2 : w9.cell? ⟨g + 1, 2, none⟩ = some (.int .i64 0) := cell_of_row _ (g + 1) 2 _ 28 _ T9.2.1
  have r3 : w9.cell? ⟨g + 1, 3, none⟩ = some (.int .i64 0) := cell_of_row _ (g + 1) 3 _ 28 _ T9.2.1
  have r4 : w9.cell? ⟨g + 1, 4, none⟩ = some (.int .i64 0) := cell_of_row _ (g + 1) 4 _ 28 _ T9.2.1
  have r5 : w9.cell? ⟨g + 1, 5, none⟩ = some (.slice none 0 0) := cell_of_row _ (g + 1) 5 _ 28 _ T9.2.1
  have r6 : w9.cell? ⟨g + 1, 6, none⟩ = some (.bool false) := cell_of_row _ (g + 1) 6 _ 28 _ T9.2.1
  have r7 : w9.cell? ⟨g + 1, 7, none⟩ = some (.bool false) := cell_of_row _ (g + 1) 7 _ 28 _ T9.2.1
  have r8 : w9.cell? ⟨g + 1, 8, none⟩ = some (.bool false) := cell_of_row _ (g + 1) 8 _ 28 _ T9.2.1
  have t0 : w9.cell? ⟨g + 1 + 1, 0, none⟩ = some (.bool false) := cell_of_row _ (g + 1 + 1) 0 _ 30 _ T9.2.2
  have t1 : w9.cell? ⟨g + 1 + 1, 1, none⟩ = some (.bool false) := cell_of_row _ (g + 1 + 1) 1 _ 30 _ T9.2.2
  have t2 : w9.cell? ⟨g + 1 + 1, 2, none⟩ = some (.int .i64 0) := cell_of_row _ (g + 1 + 1) 2 _ 30 _ T9.2.2
  obtain ⟨f0, f1, f2, f3, f4, f5, f6, f7, f8, u0, u1, u2⟩ := three_froz T9
  have HN : Hid (PtPost w (noPrt, ⟨true, true, 1⟩) (.returned (.tuple #[.agg #[.slice none 0 0, .int .i64 0, .int .i64 0, .int .i64 0, .int .i64 0, .slice none 0 0, .bool false, .bool false, .bool false], .agg #[.bool true, .bool true, .int .i64 1]])) (stores w9 g (.slice none 0 0) (.int .i64 0) (.int .i64 0) (.int .i64 0) (.int .i64 0) (.slice none 0 0) (.bool false) (.bool false) (.bool false) (.bool true) (.bool true) (.int .i64 1))) := Lib.hid (rd_bare HG.out (HBL.out.trans (hb9.mono HBL.out.size)) rfl rfl _ _ _ _ _ _ _ _ _ _ _ _)
  clear T9 hb9
  go_wp2
  refine bodyPost_ret (v := .tuple #[.agg #[.slice none 0 0, .int .i64 0, .int .i64 0, .int .i64 0, .int .i64 0, .slice none 0 0, .bool false, .bool false, .bool false], .agg #[.bool true, .bool true, .int .i64 1]]) (by simp [results, Try.results9, go_sem, r0, r1, r2, r3, r4, r5, r6, r7, r8, t0, t1, t2]) rfl HN.out
set_option maxRecDepth 100000 in
set_option maxHeartbeats 4000000 in
theorem pread_ko (k F S : Int) (l : List Nat) (A : Option Addr) (n c : Nat) (w : World) (hk : k < 0 ∨ 9 < k) :
    Calls Try.prog 9 #[.agg #[.int .i64 k, .int .i64 F, .int .i64 S, .slice A n c]] w (PtPost w (noPrt, noFlt)) := by
  have q0 : (k == 0) = false := by rw [beq_eq_false_iff_ne]; omega
  have q1 : (k == 1) = false := by rw [beq_eq_false_iff_ne]; omega
  have q2 : (k == 2) = false := by rw [beq_eq_false_iff_ne]; omega
  have q3 : (k == 3) = false := by rw [beq_eq_false_iff_ne]; omega
  have q4 : (k == 4) = false := by rw [beq_eq_false_iff_ne]; omega
  have q5 : (k == 5) = false := by rw [beq_eq_false_iff_ne]; omega
  have q6 : (k == 6) = false := by rw [beq_eq_false_iff_ne]; omega
  have q7 : (k == 7) = false := by rw [beq_eq_false_iff_ne]; omega
  have q8 : (k == 8) = false := by rw [beq_eq_false_iff_ne]; omega
  have q9 : (k == 9) = false := by rw [beq_eq_false_iff_ne]; omega
  clear hk
  obtain ⟨T0, hbl, hsz⟩ := three_of w (⟨k, F, S, l⟩ : Frm) A n c
  obtain ⟨g, hg⟩ : ∃ g, g = w.heap.size := ⟨_, rfl⟩
  obtain ⟨w1, hw1⟩ : ∃ w1, w1 = w3of w (⟨k, F, S, l⟩ : Frm) A n c := ⟨_, rfl⟩
  rw [← hw1, ← hg] at T0
  rw [← hw1] at hbl hsz
  have hw1' : w1 = (((w.alloc (.cells #[.int .i64 k, .int .i64 F, .int .i64 S, .slice A n c] 34)).alloc (.cells #[.slice none 0 0, .int .i64 0, .int .i64 0, .int .i64 0, .int .i64 0, .slice none 0 0, .bool false, .bool false, .bool false] 28)).alloc (.cells #[.bool false, .bool false, .int .i64 0] 30)) := hw1
  obtain ⟨x0, x1, x2, x3⟩ := three_frm T0
  simp only [] at x0 x1 x2 x3
  have HT := Lib.hid T0
  have HW := Lib.hid hw1'
  have HG := Lib.hid hg
  have HBL := Lib.hid hbl
  have HSZ : Hid (w1.heap.size = g + 1 + 1 + 1) := Lib.hid (by rw [hsz, hg])
  clear T0 hw1' hw1 hg hbl hsz
  go_enter Try.func9, Try.ntmps9
  go_upto_region 1 with fail
  rw [← HW.out, ← HG.out]
  have r0 : w1.cell? ⟨g + 1, 0, none⟩ = some (.slice none 0 0) := cell_of_row _ (g + 1) 0 _ 28 _ HT.out.2.1
  have r1 : w1.cell? ⟨g + 1, 1, none⟩ = some (.int .i64 0) := cell_of_row _ (g + 1) 1 _ 28 _ HT.out.2.1
  have r2 : w1.cell? ⟨g + 1, 2, none⟩ = some (.int .i64 0) := cell_of_row _ (g + 1) 2 _ 28 _ HT.out.2.1
  have r3 : w1.cell? ⟨g + 1, 3, none⟩ = some (.int .i64 0) := cell_of_row _ (g + 1) 3 _ 28 _ HT.out.2.1
  have r4 : w1.cell? ⟨g + 1, 4, none⟩ = some (.int .i64 0) := cell_of_row _ (g + 1) 4 _ 28 _ HT.out.2.1
  have r5 : w1.cell? ⟨g + 1, 5, none⟩ = some (.slice none 0 0) := cell_of_row _ (g + 1) 5 _ 28 _ HT.out.2.1
  have r6 : w1.cell? ⟨g + 1, 6, none⟩ = some (.bool false) := cell_of_row _ (g + 1) 6 _ 28 _ HT.out.2.1
  have r7 : w1.cell? ⟨g + 1, 7, none⟩ = some (.bool false) := cell_of_row _ (g + 1) 7 _ 28 _ HT.out.2.1
  have r8 : w1.cell? ⟨g + 1, 8, none⟩ = some (.bool false) := cell_of_row _ (g + 1) 8 _ 28 _ HT.out.2.1
  have t0 : w1.cell? ⟨g + 1 + 1, 0, none⟩ = some (.bool false) := cell_of_row _ (g + 1 + 1) 0 _ 30 _ HT.out.2.2
  have t1 : w1.cell? ⟨g + 1 + 1, 1, none⟩ = some (.bool false) := cell_of_row _ (g + 1 + 1) 1 _ 30 _ HT.out.2.2
  have t2 : w1.cell? ⟨g + 1 + 1, 2, none⟩ = some (.int .i64 0) := cell_of_row _ (g + 1 + 1) 2 _ 30 _ HT.out.2.2
  obtain ⟨f0, f1, f2, f3, f4, f5, f6, f7, f8, u0, u1, u2⟩ := three_froz HT.out
  have HN : Hid (PtPost w (noPrt, noFlt) (.returned (.tuple #[.agg #[.slice none 0 0, .int .i64 0, .int .i64 0, .int .i64 0, .int .i64 0, .slice none 0 0, .bool false, .bool false, .bool false], .agg #[.bool false, .bool false, .int .i64 0]])) (stores w1 g (.slice none 0 0) (.int .i64 0) (.int .i64 0) (.int .i64 0) (.int .i64 0) (.slice none 0 0) (.bool false) (.bool false) (.bool false) (.bool false) (.bool false) (.int .i64 0))) := Lib.hid (rd_bare HG.out HBL.out rfl rfl _ _ _ _ _ _ _ _ _ _ _ _)
  go_wp2
  refine bodyPost_ret (v := .tuple #[.agg #[.slice none 0 0, .int .i64 0, .int .i64 0, .int .i64 0, .int .i64 0, .slice none 0 0, .bool false, .bool false, .bool false], .agg #[.bool false, .bool false, .int .i64 0]]) (by simp [results, Try.results9, go_sem, r0, r1, r2, r3, r4, r5, r6, r7, r8, t0, t1, t2]) rfl HN.out
end Go.Proofs.Ytelbldhnlmggiaa
