/- The document's Read: Settings. -/
import Derived.Test.YtelbldhnlmggiaaPtFour
import Derived.BigQuiet
import Derived.Test.YtelbldhnlmggiaaPtSets
import Derived.Test.YtelbldhnlmggiaaPBits
namespace Go.Proofs.Ytelbldhnlmggiaa
open Go.RowKit Fr

/-- Handed back with settings that lie behind the four blocks. -/
theorem rd_sets {w W : World} {g d B : Nat} {P : Prt} {F : Flt} {A : Option Addr} (hg : g = w.heap.size) (hb : Below w.heap.size w W) (hd : P.data = []) (hB : g + 1 + 1 < B) (ho : W.ownsRow B 37 2 (.slice A P.sets.length d) P.sets.length (cS P.sets)) (x0 x1 x2 x3 x4 x5 x6 x7 x8 y0 y1 y2 : Value) :
    PtPost w (P, F) (.returned (.tuple #[prt P none 0 A d, flt F])) (stores W g x0 x1 x2 x3 x4 x5 x6 x7 x8 y0 y1 y2) := by
  have ho2 := row_keeps ho (stores_keeps W g x0 x1 x2 x3 x4 x5 x6 x7 x8 y0 y1 y2) (fun k hk e => by have := rowS_block ho k hk; omega)
  obtain ⟨_, _, e, h1, h2⟩ := rowS_shape ho2
  injection e with e1 _ e3
  subst e1 e3
  refine ⟨none, 0, A, d, rfl, ?_, fun _ => rfl, by simp [hd], AtS.of_own ho2, h2, h1, (fun b o s e => by cases e), fun b o s e => ?_, stores_below hg hb _ _ _ _ _ _ _ _ _ _ _ _⟩
  · simp only [hd]
    exact at_nil _ _ _ _
  · subst e
    have := rowS_block ho b rfl
    omega
theorem Four.far {W W' : World} {g n c : Nat} {f : Frm} {A : Option Addr} {cs : Array Value} (h : Four W g f A n c cs) (hb : Below (g + 1 + 1 + 1 + 1) W W') : Four W' g f A n c cs :=
  ⟨⟨(hb.block g (by omega)).trans h.1.1, (hb.block (g + 1) (by omega)).trans h.1.2.1, (hb.block (g + 1 + 1) (by omega)).trans h.1.2.2⟩, (hb.block (g + 1 + 1 + 1) (by omega)).trans h.2⟩
/-- Behind j settings. -/
def StR (w : World) (g : Nat) (F S : Int) (l : List Nat) (A : Option Addr) (n c : Nat) (b : Bool) (m : Nat) (i : Value) (wr : World) : Prop :=
  ∃ (j : Nat) (v : Value), j ≤ m ∧ i = .int .i64 ((6 * j : Nat) : Int) ∧ Four wr g (⟨4, F, S, l⟩ : Frm) A n c #[.slice none 0 0, .int .i64 0, .int .i64 0, .int .i64 0, .int .i64 0, v, .bool false, .bool b, .bool false] ∧ wr.ownsRow (g + 1 + 1 + 1 + 1) 37 2 v j (cS ((sixes l).take j)) ∧ Below w.heap.size w wr ∧ g + 1 + 1 + 1 + 1 ≤ wr.heap.size
set_option maxRecDepth 100000 in
set_option maxHeartbeats 4000000 in
theorem rread4_a (F S : Int) (l : List Nat) (A : Option Addr) (n c : Nat) (w : World) (hs : S ≠ 0) :
    Calls Try.prog 10 #[.agg #[.int .i64 4, .int .i64 F, .int .i64 S, .slice A n c]] w (PtPost w (noPrt, ⟨true, true, 1⟩)) := by
  have k1 : (S == 0) = false := by rw [beq_eq_false_iff_ne]; exact hs
  have k2 : (S != 0) = true := by rw [bne_iff_ne]; exact hs
  clear hs
  have e1 := and_is F 0 (by omega)
  rw [show ((2 ^ 0 : Nat) : Int) = 1 from rfl] at e1
  obtain ⟨T0, hbl, hsz⟩ := four_of w (⟨4, F, S, l⟩ : Frm) A n c
  obtain ⟨g, hg⟩ : ∃ g, g = w.heap.size := ⟨_, rfl⟩
  obtain ⟨w1, hw1⟩ : ∃ w1, w1 = w4of w (⟨4, F, S, l⟩ : Frm) A n c := ⟨_, rfl⟩
  rw [← hw1, ← hg] at T0
  rw [← hw1] at hbl hsz
  have hw1' : w1 = ((((w.alloc (.cells #[.int .i64 4, .int .i64 F, .int .i64 S, .slice A n c] 34)).alloc (.cells #[.slice none 0 0, .int .i64 0, .int .i64 0, .int .i64 0, .int .i64 0, .slice none 0 0, .bool false, .bool false, .bool false] 28)).alloc (.cells #[.bool false, .bool false, .int .i64 0] 30)).alloc (.cells #[.slice none 0 0, .int .i64 0, .int .i64 0, .int .i64 0, .int .i64 0, .slice none 0 0, .bool false, .bool false, .bool false] 28)) := hw1
  obtain ⟨x0, x1, x2, x3⟩ := three_frm T0.1
  simp only [] at x0 x1 x2 x3
  have HT := Lib.hid T0
  have HW := Lib.hid hw1'
  have HG := Lib.hid hg
  have HBL := Lib.hid hbl
  have HSZ : Hid (w1.heap.size = g + 1 + 1 + 1 + 1) := Lib.hid (by rw [hsz, hg])
  clear T0 hw1' hw1 hg hbl hsz
  go_enter Try.func10, Try.ntmps10
  go_wp2
  rw [← HW.out, ← HG.out]
  go_quiet (fail)
  have T2 := HT.out.drewN nq
  have hb2 : Below w.heap.size w (w1.drewN nq) := below_drewN HBL.out _
  have hs2 : (w1.drewN nq).heap.size = g + 1 + 1 + 1 + 1 := HSZ.out
  obtain ⟨w2, hw2⟩ : ∃ w2, w2 = w1.drewN nq := ⟨_, rfl⟩
  rw [← hw2] at T2 hb2 hs2 ⊢
  obtain ⟨x0, x1, x2, x3⟩ := three_frm T2.1
  simp only [] at x0 x1 x2 x3
  have HT2 := Lib.hid T2
  have HB2 := Lib.hid hb2
  have HS2 := Lib.hid hs2
  clear hw2 hb2 hs2 HT HW HBL HSZ
  have z7 : w2.frozen? ⟨g + 1 + 1 + 1, 7, none⟩ = false := frozen_of_row _ (g + 1 + 1 + 1) 7 _ 28 T2.2
  have p7 : w2.cell? ⟨g + 1 + 1 + 1, 7, none⟩ = some (.bool false) := cell_of_row _ (g + 1 + 1 + 1) 7 _ 28 _ T2.2
  have T3 := HT2.out.set 7 (.bool (bit F 0))
  have hb3 : Below w.heap.size w (w2.setCell ⟨g + 1 + 1 + 1, 7, none⟩ (.bool (bit F 0))) := HB2.out.setCell (p := ⟨g + 1 + 1 + 1, 7, none⟩) (show w.heap.size ≤ g + 1 + 1 + 1 by have := HG.out; omega) _
  obtain ⟨w3, hw3⟩ : ∃ w3, w3 = w2.setCell ⟨g + 1 + 1 + 1, 7, none⟩ (.bool (bit F 0)) := ⟨_, rfl⟩
  rw [← hw3] at T3 hb3
  have HT3 := Lib.hid T3
  have HB3 := Lib.hid hb3
  have HW3 := Lib.hid hw3
  clear T2 T3 hb3 hw3
  go_wp2_with fail
  rw [← HW3.out]
  with_reducible refine (rfault_any 1 true w3).mono ?_
  rintro e w4 ⟨rfl, hb4⟩
  have T4 := HT3.out.up hb4
  have r0 : w4.cell? ⟨g + 1, 0, none⟩ = some (.slice none 0 0) := cell_of_row _ (g + 1) 0 _ 28 _ T4.1.2.1
  have r1 : w4.cell? ⟨g + 1, 1, none⟩ = some (.int .i64 0) := cell_of_row _ (g + 1) 1 _ 28 _ T4.1.2.1
  have r2 : w4.cell? ⟨g + 1, 2, none⟩ = some (.int .i64 0) := cell_of_row _ (g + 1) 2 _ 28 _ T4.1.2.1
  have r3 : w4.cell? ⟨g + 1, 3, none⟩ = some (.int .i64 0) := cell_of_row _ (g + 1) 3 _ 28 _ T4.1.2.1
  have r4 : w4.cell? ⟨g + 1, 4, none⟩ = some (.int .i64 0) := cell_of_row _ (g + 1) 4 _ 28 _ T4.1.2.1
  have r5 : w4.cell? ⟨g + 1, 5, none⟩ = some (.slice none 0 0) := cell_of_row _ (g + 1) 5 _ 28 _ T4.1.2.1
  have r6 : w4.cell? ⟨g + 1, 6, none⟩ = some (.bool false) := cell_of_row _ (g + 1) 6 _ 28 _ T4.1.2.1
  have r7 : w4.cell? ⟨g + 1, 7, none⟩ = some (.bool false) := cell_of_row _ (g + 1) 7 _ 28 _ T4.1.2.1
  have r8 : w4.cell? ⟨g + 1, 8, none⟩ = some (.bool false) := cell_of_row _ (g + 1) 8 _ 28 _ T4.1.2.1
  have t0 : w4.cell? ⟨g + 1 + 1, 0, none⟩ = some (.bool false) := cell_of_row _ (g + 1 + 1) 0 _ 30 _ T4.1.2.2
  have t1 : w4.cell? ⟨g + 1 + 1, 1, none⟩ = some (.bool false) := cell_of_row _ (g + 1 + 1) 1 _ 30 _ T4.1.2.2
  have t2 : w4.cell? ⟨g + 1 + 1, 2, none⟩ = some (.int .i64 0) := cell_of_row _ (g + 1 + 1) 2 _ 30 _ T4.1.2.2
  obtain ⟨f0, f1, f2, f3, f4, f5, f6, f7, f8, u0, u1, u2⟩ := three_froz T4.1
  have HN : Hid (PtPost w (noPrt, ⟨true, true, 1⟩) (.returned (.tuple #[.agg #[.slice none 0 0, .int .i64 0, .int .i64 0, .int .i64 0, .int .i64 0, .slice none 0 0, .bool false, .bool false, .bool false], .agg #[.bool true, .bool true, .int .i64 1]])) (stores w4 g (.slice none 0 0) (.int .i64 0) (.int .i64 0) (.int .i64 0) (.int .i64 0) (.slice none 0 0) (.bool false) (.bool false) (.bool false) (.bool true) (.bool true) (.int .i64 1))) := Lib.hid (rd_bare HG.out (HB3.out.trans (hb4.mono HB3.out.size)) rfl rfl _ _ _ _ _ _ _ _ _ _ _ _)
  clear T4 hb4
  go_wp2
  refine bodyPost_ret (v := .tuple #[.agg #[.slice none 0 0, .int .i64 0, .int .i64 0, .int .i64 0, .int .i64 0, .slice none 0 0, .bool false, .bool false, .bool false], .agg #[.bool true, .bool true, .int .i64 1]]) (by simp [results, Try.results10, go_sem, r0, r1, r2, r3, r4, r5, r6, r7, r8, t0, t1, t2]) rfl HN.out
set_option maxRecDepth 100000 in
set_option maxHeartbeats 4000000 in
theorem rread4_b (F S : Int) (l : List Nat) (A : Option Addr) (n c : Nat) (w : World) (hs : S = 0) (hB : bit F 0 = true) (hm : 0 < n) :
    Calls Try.prog 10 #[.agg #[.int .i64 4, .int .i64 F, .int .i64 S, .slice A n c]] w (PtPost w (noPrt, ⟨true, true, 6⟩)) := by
  have k1 : (S == 0) = true := by rw [hs]; rfl
  have k2 : (S != 0) = false := by rw [hs]; rfl
  clear hs
  have e1 := and_is F 0 (by omega)
  rw [show ((2 ^ 0 : Nat) : Int) = 1 from rfl, hB] at e1
  clear hB
  have k3 : (0 : Int) < (n : Int) := by omega
  clear hm
  obtain ⟨T0, hbl, hsz⟩ := four_of w (⟨4, F, S, l⟩ : Frm) A n c
  obtain ⟨g, hg⟩ : ∃ g, g = w.heap.size := ⟨_, rfl⟩
  obtain ⟨w1, hw1⟩ : ∃ w1, w1 = w4of w (⟨4, F, S, l⟩ : Frm) A n c := ⟨_, rfl⟩
  rw [← hw1, ← hg] at T0
  rw [← hw1] at hbl hsz
  have hw1' : w1 = ((((w.alloc (.cells #[.int .i64 4, .int .i64 F, .int .i64 S, .slice A n c] 34)).alloc (.cells #[.slice none 0 0, .int .i64 0, .int .i64 0, .int .i64 0, .int .i64 0, .slice none 0 0, .bool false, .bool false, .bool false] 28)).alloc (.cells #[.bool false, .bool false, .int .i64 0] 30)).alloc (.cells #[.slice none 0 0, .int .i64 0, .int .i64 0, .int .i64 0, .int .i64 0, .slice none 0 0, .bool false, .bool false, .bool false] 28)) := hw1
  obtain ⟨x0, x1, x2, x3⟩ := three_frm T0.1
  simp only [] at x0 x1 x2 x3
  have HT := Lib.hid T0
  have HW := Lib.hid hw1'
  have HG := Lib.hid hg
  have HBL := Lib.hid hbl
  have HSZ : Hid (w1.heap.size = g + 1 + 1 + 1 + 1) := Lib.hid (by rw [hsz, hg])
  clear T0 hw1' hw1 hg hbl hsz
  go_enter Try.func10, Try.ntmps10
  go_wp2
  rw [← HW.out, ← HG.out]
  go_quiet (fail)
  have T2 := HT.out.drewN nq
  have hb2 : Below w.heap.size w (w1.drewN nq) := below_drewN HBL.out _
  have hs2 : (w1.drewN nq).heap.size = g + 1 + 1 + 1 + 1 := HSZ.out
  obtain ⟨w2, hw2⟩ : ∃ w2, w2 = w1.drewN nq := ⟨_, rfl⟩
  rw [← hw2] at T2 hb2 hs2 ⊢
  obtain ⟨x0, x1, x2, x3⟩ := three_frm T2.1
  simp only [] at x0 x1 x2 x3
  have HT2 := Lib.hid T2
  have HB2 := Lib.hid hb2
  have HS2 := Lib.hid hs2
  clear hw2 hb2 hs2 HT HW HBL HSZ
  have z7 : w2.frozen? ⟨g + 1 + 1 + 1, 7, none⟩ = false := frozen_of_row _ (g + 1 + 1 + 1) 7 _ 28 T2.2
  have p7 : w2.cell? ⟨g + 1 + 1 + 1, 7, none⟩ = some (.bool false) := cell_of_row _ (g + 1 + 1 + 1) 7 _ 28 _ T2.2
  have T3 := HT2.out.set 7 (.bool true)
  have hb3 : Below w.heap.size w (w2.setCell ⟨g + 1 + 1 + 1, 7, none⟩ (.bool true)) := HB2.out.setCell (p := ⟨g + 1 + 1 + 1, 7, none⟩) (show w.heap.size ≤ g + 1 + 1 + 1 by have := HG.out; omega) _
  obtain ⟨w3, hw3⟩ : ∃ w3, w3 = w2.setCell ⟨g + 1 + 1 + 1, 7, none⟩ (.bool true) := ⟨_, rfl⟩
  rw [← hw3] at T3 hb3
  have HT3 := Lib.hid T3
  have HB3 := Lib.hid hb3
  have HW3 := Lib.hid hw3
  clear T2 T3 hb3 hw3
  go_wp2_with fail
  rw [← HW3.out]
  with_reducible refine (rfault_any 6 true w3).mono ?_
  rintro e w4 ⟨rfl, hb4⟩
  have T4 := HT3.out.up hb4
  have r0 : w4.cell? ⟨g + 1, 0, none⟩ = some (.slice none 0 0) := cell_of_row _ (g + 1) 0 _ 28 _ T4.1.2.1
  have r1 : w4.cell? ⟨g + 1, 1, none⟩ = some (.int .i64 0) := cell_of_row _ (g + 1) 1 _ 28 _ T4.1.2.1
  have r2 : w4.cell? ⟨g + 1, 2, none⟩ = some (.int .i64 0) := cell_of_row _ (g + 1) 2 _ 28 _ T4.1.2.1
  have r3 : w4.cell? ⟨g + 1, 3, none⟩ = some (.int .i64 0) := cell_of_row _ (g + 1) 3 _ 28 _ T4.1.2.1
  have r4 : w4.cell? ⟨g + 1, 4, none⟩ = some (.int .i64 0) := cell_of_row _ (g + 1) 4 _ 28 _ T4.1.2.1
  have r5 : w4.cell? ⟨g + 1, 5, none⟩ = some (.slice none 0 0) := cell_of_row _ (g + 1) 5 _ 28 _ T4.1.2.1
  have r6 : w4.cell? ⟨g + 1, 6, none⟩ = some (.bool false) := cell_of_row _ (g + 1) 6 _ 28 _ T4.1.2.1
  have r7 : w4.cell? ⟨g + 1, 7, none⟩ = some (.bool false) := cell_of_row _ (g + 1) 7 _ 28 _ T4.1.2.1
  have r8 : w4.cell? ⟨g + 1, 8, none⟩ = some (.bool false) := cell_of_row _ (g + 1) 8 _ 28 _ T4.1.2.1
  have t0 : w4.cell? ⟨g + 1 + 1, 0, none⟩ = some (.bool false) := cell_of_row _ (g + 1 + 1) 0 _ 30 _ T4.1.2.2
  have t1 : w4.cell? ⟨g + 1 + 1, 1, none⟩ = some (.bool false) := cell_of_row _ (g + 1 + 1) 1 _ 30 _ T4.1.2.2
  have t2 : w4.cell? ⟨g + 1 + 1, 2, none⟩ = some (.int .i64 0) := cell_of_row _ (g + 1 + 1) 2 _ 30 _ T4.1.2.2
  obtain ⟨f0, f1, f2, f3, f4, f5, f6, f7, f8, u0, u1, u2⟩ := three_froz T4.1
  have HN : Hid (PtPost w (noPrt, ⟨true, true, 6⟩) (.returned (.tuple #[.agg #[.slice none 0 0, .int .i64 0, .int .i64 0, .int .i64 0, .int .i64 0, .slice none 0 0, .bool false, .bool false, .bool false], .agg #[.bool true, .bool true, .int .i64 6]])) (stores w4 g (.slice none 0 0) (.int .i64 0) (.int .i64 0) (.int .i64 0) (.int .i64 0) (.slice none 0 0) (.bool false) (.bool false) (.bool false) (.bool true) (.bool true) (.int .i64 6))) := Lib.hid (rd_bare HG.out (HB3.out.trans (hb4.mono HB3.out.size)) rfl rfl _ _ _ _ _ _ _ _ _ _ _ _)
  clear T4 hb4
  go_wp2
  refine bodyPost_ret (v := .tuple #[.agg #[.slice none 0 0, .int .i64 0, .int .i64 0, .int .i64 0, .int .i64 0, .slice none 0 0, .bool false, .bool false, .bool false], .agg #[.bool true, .bool true, .int .i64 6]]) (by simp [results, Try.results10, go_sem, r0, r1, r2, r3, r4, r5, r6, r7, r8, t0, t1, t2]) rfl HN.out
set_option maxRecDepth 100000 in
set_option maxHeartbeats 4000000 in
theorem rread4_c (F S : Int) (l : List Nat) (A : Option Addr) (n c : Nat) (w : World) (hs : S = 0) (hB : bit F 0 = false) (hm : n % 6 ≠ 0) :
    Calls Try.prog 10 #[.agg #[.int .i64 4, .int .i64 F, .int .i64 S, .slice A n c]] w (PtPost w (noPrt, ⟨true, true, 6⟩)) := by
  have k1 : (S == 0) = true := by rw [hs]; rfl
  have k2 : (S != 0) = false := by rw [hs]; rfl
  clear hs
  have e1 := and_is F 0 (by omega)
  rw [show ((2 ^ 0 : Nat) : Int) = 1 from rfl, hB] at e1
  clear hB
  have k4 : ((n : Int) % 6 != 0) = true := by rw [bne_iff_ne]; omega
  clear hm
  obtain ⟨T0, hbl, hsz⟩ := four_of w (⟨4, F, S, l⟩ : Frm) A n c
  obtain ⟨g, hg⟩ : ∃ g, g = w.heap.size := ⟨_, rfl⟩
  obtain ⟨w1, hw1⟩ : ∃ w1, w1 = w4of w (⟨4, F, S, l⟩ : Frm) A n c := ⟨_, rfl⟩
  rw [← hw1, ← hg] at T0
  rw [← hw1] at hbl hsz
  have hw1' : w1 = ((((w.alloc (.cells #[.int .i64 4, .int .i64 F, .int .i64 S, .slice A n c] 34)).alloc (.cells #[.slice none 0 0, .int .i64 0, .int .i64 0, .int .i64 0, .int .i64 0, .slice none 0 0, .bool false, .bool false, .bool false] 28)).alloc (.cells #[.bool false, .bool false, .int .i64 0] 30)).alloc (.cells #[.slice none 0 0, .int .i64 0, .int .i64 0, .int .i64 0, .int .i64 0, .slice none 0 0, .bool false, .bool false, .bool false] 28)) := hw1
  obtain ⟨x0, x1, x2, x3⟩ := three_frm T0.1
  simp only [] at x0 x1 x2 x3
  have HT := Lib.hid T0
  have HW := Lib.hid hw1'
  have HG := Lib.hid hg
  have HBL := Lib.hid hbl
  have HSZ : Hid (w1.heap.size = g + 1 + 1 + 1 + 1) := Lib.hid (by rw [hsz, hg])
  clear T0 hw1' hw1 hg hbl hsz
  go_enter Try.func10, Try.ntmps10
  go_wp2
  rw [← HW.out, ← HG.out]
  go_quiet (fail)
  have T2 := HT.out.drewN nq
  have hb2 : Below w.heap.size w (w1.drewN nq) := below_drewN HBL.out _
  have hs2 : (w1.drewN nq).heap.size = g + 1 + 1 + 1 + 1 := HSZ.out
  obtain ⟨w2, hw2⟩ : ∃ w2, w2 = w1.drewN nq := ⟨_, rfl⟩
  rw [← hw2] at T2 hb2 hs2 ⊢
  obtain ⟨x0, x1, x2, x3⟩ := three_frm T2.1
  simp only [] at x0 x1 x2 x3
  have HT2 := Lib.hid T2
  have HB2 := Lib.hid hb2
  have HS2 := Lib.hid hs2
  clear hw2 hb2 hs2 HT HW HBL HSZ
  have z7 : w2.frozen? ⟨g + 1 + 1 + 1, 7, none⟩ = false := frozen_of_row _ (g + 1 + 1 + 1) 7 _ 28 T2.2
  have p7 : w2.cell? ⟨g + 1 + 1 + 1, 7, none⟩ = some (.bool false) := cell_of_row _ (g + 1 + 1 + 1) 7 _ 28 _ T2.2
  have T3 := HT2.out.set 7 (.bool false)
  have hb3 : Below w.heap.size w (w2.setCell ⟨g + 1 + 1 + 1, 7, none⟩ (.bool false)) := HB2.out.setCell (p := ⟨g + 1 + 1 + 1, 7, none⟩) (show w.heap.size ≤ g + 1 + 1 + 1 by have := HG.out; omega) _
  obtain ⟨w3, hw3⟩ : ∃ w3, w3 = w2.setCell ⟨g + 1 + 1 + 1, 7, none⟩ (.bool false) := ⟨_, rfl⟩
  rw [← hw3] at T3 hb3
  have HT3 := Lib.hid T3
  have HB3 := Lib.hid hb3
  have HW3 := Lib.hid hw3
  clear T2 T3 hb3 hw3
  go_wp2_with fail
  rw [← HW3.out]
  with_reducible refine (rfault_any 6 true w3).mono ?_
  rintro e w4 ⟨rfl, hb4⟩
  have T4 := HT3.out.up hb4
  have r0 : w4.cell? ⟨g + 1, 0, none⟩ = some (.slice none 0 0) := cell_of_row _ (g + 1) 0 _ 28 _ T4.1.2.1
  have r1 : w4.cell? ⟨g + 1, 1, none⟩ = some (.int .i64 0) := cell_of_row _ (g + 1) 1 _ 28 _ T4.1.2.1
  have r2 : w4.cell? ⟨g + 1, 2, none⟩ = some (.int .i64 0) := cell_of_row _ (g + 1) 2 _ 28 _ T4.1.2.1
  have r3 : w4.cell? ⟨g + 1, 3, none⟩ = some (.int .i64 0) := cell_of_row _ (g + 1) 3 _ 28 _ T4.1.2.1
  have r4 : w4.cell? ⟨g + 1, 4, none⟩ = some (.int .i64 0) := cell_of_row _ (g + 1) 4 _ 28 _ T4.1.2.1
  have r5 : w4.cell? ⟨g + 1, 5, none⟩ = some (.slice none 0 0) := cell_of_row _ (g + 1) 5 _ 28 _ T4.1.2.1
  have r6 : w4.cell? ⟨g + 1, 6, none⟩ = some (.bool false) := cell_of_row _ (g + 1) 6 _ 28 _ T4.1.2.1
  have r7 : w4.cell? ⟨g + 1, 7, none⟩ = some (.bool false) := cell_of_row _ (g + 1) 7 _ 28 _ T4.1.2.1
  have r8 : w4.cell? ⟨g + 1, 8, none⟩ = some (.bool false) := cell_of_row _ (g + 1) 8 _ 28 _ T4.1.2.1
  have t0 : w4.cell? ⟨g + 1 + 1, 0, none⟩ = some (.bool false) := cell_of_row _ (g + 1 + 1) 0 _ 30 _ T4.1.2.2
  have t1 : w4.cell? ⟨g + 1 + 1, 1, none⟩ = some (.bool false) := cell_of_row _ (g + 1 + 1) 1 _ 30 _ T4.1.2.2
  have t2 : w4.cell? ⟨g + 1 + 1, 2, none⟩ = some (.int .i64 0) := cell_of_row _ (g + 1 + 1) 2 _ 30 _ T4.1.2.2
  obtain ⟨f0, f1, f2, f3, f4, f5, f6, f7, f8, u0, u1, u2⟩ := three_froz T4.1
  have HN : Hid (PtPost w (noPrt, ⟨true, true, 6⟩) (.returned (.tuple #[.agg #[.slice none 0 0, .int .i64 0, .int .i64 0, .int .i64 0, .int .i64 0, .slice none 0 0, .bool false, .bool false, .bool false], .agg #[.bool true, .bool true, .int .i64 6]])) (stores w4 g (.slice none 0 0) (.int .i64 0) (.int .i64 0) (.int .i64 0) (.int .i64 0) (.slice none 0 0) (.bool false) (.bool false) (.bool false) (.bool true) (.bool true) (.int .i64 6))) := Lib.hid (rd_bare HG.out (HB3.out.trans (hb4.mono HB3.out.size)) rfl rfl _ _ _ _ _ _ _ _ _ _ _ _)
  clear T4 hb4
  go_wp2
  refine bodyPost_ret (v := .tuple #[.agg #[.slice none 0 0, .int .i64 0, .int .i64 0, .int .i64 0, .int .i64 0, .slice none 0 0, .bool false, .bool false, .bool false], .agg #[.bool true, .bool true, .int .i64 6]]) (by simp [results, Try.results10, go_sem, r0, r1, r2, r3, r4, r5, r6, r7, r8, t0, t1, t2]) rfl HN.out
end Go.Proofs.Ytelbldhnlmggiaa
