/- The document's Read: Settings. -/
import Derived.Test.YtelbldhnlmggiaaPtRead4
import Derived.BigQuiet
import Derived.Test.YtelbldhnlmggiaaPtSets
import Derived.Test.YtelbldhnlmggiaaPBits
namespace Go.Proofs.Ytelbldhnlmggiaa
open Go.RowKit Fr

set_option maxRecDepth 100000 in
set_option maxHeartbeats 4000000 in
theorem rread4_t (F S : Int) (l : List Nat) (A : Option Addr) (n c : Nat) (w : World) (m : Nat) (hl : l.length = n) (hm : n = 6 * m) (hs : S = 0) (hB : bit F 0 = true) (hm0 : n = 0) :
    Calls Try.prog 10 #[.agg #[.int .i64 4, .int .i64 F, .int .i64 S, .slice A n c]] w (PtPost w (⟨[], 0, 0, 0, 0, sixes l, false, true, false⟩, noFlt)) := by
  have HM := Lib.hid hm
  have HSL : Hid ((sixes l).length = m) := Lib.hid (sixes_len m l (by omega))
  have e6 : ((n : Int) % 6 != 0) = false := by rw [bne_eq_false_iff_eq]; omega
  have k3 : ¬ (0 : Int) < (n : Int) := by omega
  have HM0 := Lib.hid hm0
  clear hm0
  clear hl hm
  have k1 : (S == 0) = true := by rw [hs]; rfl
  have k2 : (S != 0) = false := by rw [hs]; rfl
  clear hs
  have e1 := and_is F 0 (by omega)
  rw [show ((2 ^ 0 : Nat) : Int) = 1 from rfl, hB] at e1
  clear hB
  obtain ⟨T0, hbl, hsz⟩ := four_of w (⟨4, F, S, l⟩ : Frm) A n c
  obtain ⟨g, hg⟩ : ∃ g, g = w.heap.size := ⟨_, rfl⟩
  obtain ⟨w1, hw1⟩ : ∃ w1, w1 = w4of w (⟨4, F, S, l⟩ : Frm) A n c := ⟨_, rfl⟩
  rw [← hw1, ← hg] at T0
  rw [← hw1] at hbl hsz
  have hw1' : w1 = ((((w.alloc (.cells #[.int .i64 4, .int .i64 F, .int .i64 S, .slice A n c] 34)).alloc (.cells #[.slice none 0 0, .int .i64 0, .int .i64 0, .int .i64 0, .int .i64 0, .slice none 0 0, .bool false, .bool false, .bool false] 28)).alloc (.cells #[.bool false, .bool false, .int .i64 0] 30)).alloc (.cells #[.slice none 0 0, .int .i64 0, .int .i64 0, .int .i64 0, .int .i64 0, .slice none 0 0, .bool false, .bool false, .bool false] 28)) := hw1
  obtain ⟨x0, x1, x2, x3⟩ := three_frm T0.1
  simp only [] at x0 x1 x2 x3
  have HT := Lib.hid T0
  have HW := Lib.hid hw1'
  have HG := Lib.hid hg
  have HBL := Lib.hid hbl
  have HSZ : Hid (w1.heap.size = g + 1 + 1 + 1 + 1) := Lib.hid (by rw [hsz, hg])
  clear T0 hw1' hw1 hg hbl hsz
  go_enter Try.func10, Try.ntmps10
  go_wp2
  rw [← HW.out, ← HG.out]
  go_quiet (fail)
  have T2 := HT.out.drewN nq
  have hb2 : Below w.heap.size w (w1.drewN nq) := below_drewN HBL.out _
  have hs2 : (w1.drewN nq).heap.size = g + 1 + 1 + 1 + 1 := HSZ.out
  obtain ⟨w2, hw2⟩ : ∃ w2, w2 = w1.drewN nq := ⟨_, rfl⟩
  rw [← hw2] at T2 hb2 hs2 ⊢
  obtain ⟨x0, x1, x2, x3⟩ := three_frm T2.1
  simp only [] at x0 x1 x2 x3
  have HT2 := Lib.hid T2
  have HB2 := Lib.hid hb2
  have HS2 := Lib.hid hs2
  clear hw2 hb2 hs2 HT HW HBL HSZ
  have z7 : w2.frozen? ⟨g + 1 + 1 + 1, 7, none⟩ = false := frozen_of_row _ (g + 1 + 1 + 1) 7 _ 28 T2.2
  have p7 : w2.cell? ⟨g + 1 + 1 + 1, 7, none⟩ = some (.bool false) := cell_of_row _ (g + 1 + 1 + 1) 7 _ 28 _ T2.2
  have HSTART : Hid (StR w g F S l A n c true m (.int .i64 0) (w2.setCell ⟨g + 1 + 1 + 1, 7, none⟩ (.bool true))) := Lib.hid (by
    have T3 := HT2.out.set 7 (.bool true)
    exact ⟨0, .slice none 0 0, Nat.zero_le _, rfl, T3, World.ownsRow_nil _ _ _ _, HB2.out.setCell (p := ⟨g + 1 + 1 + 1, 7, none⟩) (show w.heap.size ≤ g + 1 + 1 + 1 by have := HG.out; omega) _, by simp [World.setCell]; have := HS2.out; omega⟩)
  clear T2
  go_wp2
  go_loopw [7] (fun i wr => StR w g F S l A n c true m i wr) (fun i _ => n - (intOf i).toNat)
  case atStart => exact HSTART.out
  case round =>
    obtain ⟨j, v, hj, rfl, T, hrow, hbw, hsz⟩ := hrel
    obtain ⟨Av, cv, rfl, hjc, hAv⟩ := rowS_shape hrow
    by_cases hlt : j < m
    · exact absurd hlt (by have := HM.out; have := HM0.out; omega)
    · obtain rfl : j = m := by omega
      obtain ⟨q, hq⟩ : ∃ q, q = 6 * j := ⟨_, rfl⟩
      rw [← hq]
      have ki : ¬ (q : Int) < (n : Int) := by have := HM.out; omega
      clear hq hj hlt hjc hAv
      have p0 : wr.cell? ⟨g + 1 + 1 + 1, 0, none⟩ = some (.slice none 0 0) := cell_of_row _ (g + 1 + 1 + 1) 0 _ 28 _ T.2
      have p1 : wr.cell? ⟨g + 1 + 1 + 1, 1, none⟩ = some (.int .i64 0) := cell_of_row _ (g + 1 + 1 + 1) 1 _ 28 _ T.2
      have p2 : wr.cell? ⟨g + 1 + 1 + 1, 2, none⟩ = some (.int .i64 0) := cell_of_row _ (g + 1 + 1 + 1) 2 _ 28 _ T.2
      have p3 : wr.cell? ⟨g + 1 + 1 + 1, 3, none⟩ = some (.int .i64 0) := cell_of_row _ (g + 1 + 1 + 1) 3 _ 28 _ T.2
      have p4 : wr.cell? ⟨g + 1 + 1 + 1, 4, none⟩ = some (.int .i64 0) := cell_of_row _ (g + 1 + 1 + 1) 4 _ 28 _ T.2
      have p5 : wr.cell? ⟨g + 1 + 1 + 1, 5, none⟩ = some (.slice Av j cv) := cell_of_row _ (g + 1 + 1 + 1) 5 _ 28 _ T.2
      have p6 : wr.cell? ⟨g + 1 + 1 + 1, 6, none⟩ = some (.bool false) := cell_of_row _ (g + 1 + 1 + 1) 6 _ 28 _ T.2
      have p7 : wr.cell? ⟨g + 1 + 1 + 1, 7, none⟩ = some (.bool true) := cell_of_row _ (g + 1 + 1 + 1) 7 _ 28 _ T.2
      have p8 : wr.cell? ⟨g + 1 + 1 + 1, 8, none⟩ = some (.bool false) := cell_of_row _ (g + 1 + 1 + 1) 8 _ 28 _ T.2
      have r0 : wr.cell? ⟨g + 1, 0, none⟩ = some (.slice none 0 0) := cell_of_row _ (g + 1) 0 _ 28 _ T.1.2.1
      have r1 : wr.cell? ⟨g + 1, 1, none⟩ = some (.int .i64 0) := cell_of_row _ (g + 1) 1 _ 28 _ T.1.2.1
      have r2 : wr.cell? ⟨g + 1, 2, none⟩ = some (.int .i64 0) := cell_of_row _ (g + 1) 2 _ 28 _ T.1.2.1
      have r3 : wr.cell? ⟨g + 1, 3, none⟩ = some (.int .i64 0) := cell_of_row _ (g + 1) 3 _ 28 _ T.1.2.1
      have r4 : wr.cell? ⟨g + 1, 4, none⟩ = some (.int .i64 0) := cell_of_row _ (g + 1) 4 _ 28 _ T.1.2.1
      have r5 : wr.cell? ⟨g + 1, 5, none⟩ = some (.slice none 0 0) := cell_of_row _ (g + 1) 5 _ 28 _ T.1.2.1
      have r6 : wr.cell? ⟨g + 1, 6, none⟩ = some (.bool false) := cell_of_row _ (g + 1) 6 _ 28 _ T.1.2.1
      have r7 : wr.cell? ⟨g + 1, 7, none⟩ = some (.bool false) := cell_of_row _ (g + 1) 7 _ 28 _ T.1.2.1
      have r8 : wr.cell? ⟨g + 1, 8, none⟩ = some (.bool false) := cell_of_row _ (g + 1) 8 _ 28 _ T.1.2.1
      have t0 : wr.cell? ⟨g + 1 + 1, 0, none⟩ = some (.bool false) := cell_of_row _ (g + 1 + 1) 0 _ 30 _ T.1.2.2
      have t1 : wr.cell? ⟨g + 1 + 1, 1, none⟩ = some (.bool false) := cell_of_row _ (g + 1 + 1) 1 _ 30 _ T.1.2.2
      have t2 : wr.cell? ⟨g + 1 + 1, 2, none⟩ = some (.int .i64 0) := cell_of_row _ (g + 1 + 1) 2 _ 30 _ T.1.2.2
      obtain ⟨f0, f1, f2, f3, f4, f5, f6, f7, f8, u0, u1, u2⟩ := three_froz T.1
      have HN : Hid (PtPost w (⟨[], 0, 0, 0, 0, sixes l, false, true, false⟩, noFlt) (.returned (.tuple #[.agg #[.slice none 0 0, .int .i64 0, .int .i64 0, .int .i64 0, .int .i64 0, .slice Av j cv, .bool false, .bool true, .bool false], .agg #[.bool false, .bool false, .int .i64 0]])) (stores wr g (.slice none 0 0) (.int .i64 0) (.int .i64 0) (.int .i64 0) (.int .i64 0) (.slice Av j cv) (.bool false) (.bool true) (.bool false) (.bool false) (.bool false) (.int .i64 0))) := Lib.hid (by
        have hsl : (sixes l).length = j := HSL.out
        rw [List.take_of_length_le (by omega)] at hrow
        subst hsl
        exact rd_sets (P := ⟨[], 0, 0, 0, 0, sixes l, false, true, false⟩) (A := Av) (d := cv) HG.out hbw rfl (by omega) hrow _ _ _ _ _ _ _ _ _ _ _ _)
      clear T hbw hrow hsz
      go_wp2
      refine bodyPost_ret (v := .tuple #[.agg #[.slice none 0 0, .int .i64 0, .int .i64 0, .int .i64 0, .int .i64 0, .slice Av j cv, .bool false, .bool true, .bool false], .agg #[.bool false, .bool false, .int .i64 0]]) (by simp [results, Try.results10, go_sem, r0, r1, r2, r3, r4, r5, r6, r7, r8, t0, t1, t2]) rfl HN.out
end Go.Proofs.Ytelbldhnlmggiaa
/- The document's Read: Settings. -/
namespace Go.Proofs.Ytelbldhnlmggiaa
open Go.RowKit Fr

set_option maxRecDepth 100000 in
set_option maxHeartbeats 4000000 in
theorem rread4_f (F S : Int) (l : List Nat) (A : Option Addr) (n c : Nat) (w : World) (m : Nat) (hA : At .u8 w w.heap.size A l) (hb : ∀ x ∈ l, x < 256) (hl : l.length = n) (hcl : n ≤ c) (hn : n ≤ 100000) (hm : n = 6 * m) (hs : S = 0) (hB : bit F 0 = false) :
    Calls Try.prog 10 #[.agg #[.int .i64 4, .int .i64 F, .int .i64 S, .slice A n c]] w (PtPost w (⟨[], 0, 0, 0, 0, sixes l, false, false, false⟩, noFlt)) := by
  have HA := Lib.hid hA
  have HL := Lib.hid hl
  have HB := Lib.hid hb
  have HCL := Lib.hid hcl
  have HNN := Lib.hid hn
  have HM := Lib.hid hm
  have HSL : Hid ((sixes l).length = m) := Lib.hid (sixes_len m l (by omega))
  have e6 : ((n : Int) % 6 != 0) = false := by rw [bne_eq_false_iff_eq]; omega
  clear hA hl hb hcl hn hm
  have k1 : (S == 0) = true := by rw [hs]; rfl
  have k2 : (S != 0) = false := by rw [hs]; rfl
  clear hs
  have e1 := and_is F 0 (by omega)
  rw [show ((2 ^ 0 : Nat) : Int) = 1 from rfl, hB] at e1
  clear hB
  obtain ⟨T0, hbl, hsz⟩ := four_of w (⟨4, F, S, l⟩ : Frm) A n c
  obtain ⟨g, hg⟩ : ∃ g, g = w.heap.size := ⟨_, rfl⟩
  obtain ⟨w1, hw1⟩ : ∃ w1, w1 = w4of w (⟨4, F, S, l⟩ : Frm) A n c := ⟨_, rfl⟩
  rw [← hw1, ← hg] at T0
  rw [← hw1] at hbl hsz
  have hw1' : w1 = ((((w.alloc (.cells #[.int .i64 4, .int .i64 F, .int .i64 S, .slice A n c] 34)).alloc (.cells #[.slice none 0 0, .int .i64 0, .int .i64 0, .int .i64 0, .int .i64 0, .slice none 0 0, .bool false, .bool false, .bool false] 28)).alloc (.cells #[.bool false, .bool false, .int .i64 0] 30)).alloc (.cells #[.slice none 0 0, .int .i64 0, .int .i64 0, .int .i64 0, .int .i64 0, .slice none 0 0, .bool false, .bool false, .bool false] 28)) := hw1
  obtain ⟨x0, x1, x2, x3⟩ := three_frm T0.1
  simp only [] at x0 x1 x2 x3
  have HT := Lib.hid T0
  have HW := Lib.hid hw1'
  have HG := Lib.hid hg
  have HBL := Lib.hid hbl
  have HSZ : Hid (w1.heap.size = g + 1 + 1 + 1 + 1) := Lib.hid (by rw [hsz, hg])
  clear T0 hw1' hw1 hg hbl hsz
  go_enter Try.func10, Try.ntmps10
  go_wp2
  rw [← HW.out, ← HG.out]
  go_quiet (fail)
  have T2 := HT.out.drewN nq
  have hb2 : Below w.heap.size w (w1.drewN nq) := below_drewN HBL.out _
  have hs2 : (w1.drewN nq).heap.size = g + 1 + 1 + 1 + 1 := HSZ.out
  obtain ⟨w2, hw2⟩ : ∃ w2, w2 = w1.drewN nq := ⟨_, rfl⟩
  rw [← hw2] at T2 hb2 hs2 ⊢
  obtain ⟨x0, x1, x2, x3⟩ := three_frm T2.1
  simp only [] at x0 x1 x2 x3
  have HT2 := Lib.hid T2
  have HB2 := Lib.hid hb2
  have HS2 := Lib.hid hs2
  clear hw2 hb2 hs2 HT HW HBL HSZ
  have z7 : w2.frozen? ⟨g + 1 + 1 + 1, 7, none⟩ = false := frozen_of_row _ (g + 1 + 1 + 1) 7 _ 28 T2.2
  have p7 : w2.cell? ⟨g + 1 + 1 + 1, 7, none⟩ = some (.bool false) := cell_of_row _ (g + 1 + 1 + 1) 7 _ 28 _ T2.2
  have HSTART : Hid (StR w g F S l A n c false m (.int .i64 0) (w2.setCell ⟨g + 1 + 1 + 1, 7, none⟩ (.bool false))) := Lib.hid (by
    have T3 := HT2.out.set 7 (.bool false)
    exact ⟨0, .slice none 0 0, Nat.zero_le _, rfl, T3, World.ownsRow_nil _ _ _ _, HB2.out.setCell (p := ⟨g + 1 + 1 + 1, 7, none⟩) (show w.heap.size ≤ g + 1 + 1 + 1 by have := HG.out; omega) _, by simp [World.setCell]; have := HS2.out; omega⟩)
  clear T2
  go_wp2
  go_loopw [7] (fun i wr => StR w g F S l A n c false m i wr) (fun i _ => n - (intOf i).toNat)
  case atStart => exact HSTART.out
  case round =>
    obtain ⟨j, v, hj, rfl, T, hrow, hbw, hsz⟩ := hrel
    obtain ⟨Av, cv, rfl, hjc, hAv⟩ := rowS_shape hrow
    by_cases hlt : j < m
    · obtain ⟨q, hq⟩ : ∃ q, q = 6 * j := ⟨_, rfl⟩
      obtain ⟨q2, hq2⟩ : ∃ q2, q2 = q + 2 := ⟨_, rfl⟩
      obtain ⟨q6, hq6⟩ : ∃ q6, q6 = q + 6 := ⟨_, rfl⟩
      rw [← hq]
      have hm6 := HM.out
      have ki : (q : Int) < (n : Int) := by omega
      have a2 : (q : Int) + 2 = (q2 : Int) := by omega
      have a6 : (q : Int) + 6 = (q6 : Int) := by omega
      have w2' : IntKind.i64.wrap (q2 : Int) = (q2 : Int) := i64_ofNat q2 (by have := HNN.out; omega)
      have w6' : IntKind.i64.wrap (q6 : Int) = (q6 : Int) := i64_ofNat q6 (by have := HNN.out; omega)
      obtain ⟨A2, hA2⟩ : ∃ A2, A2 = cutAt A c q := ⟨_, rfl⟩
      obtain ⟨A6, hA6⟩ : ∃ A6, A6 = cutAt A c q2 := ⟨_, rfl⟩
      obtain ⟨c2, hc2⟩ : ∃ c2, c2 = c - q := ⟨_, rfl⟩
      obtain ⟨c6, hc6⟩ : ∃ c6, c6 = c - q2 := ⟨_, rfl⟩
      have hs1 := fun (W : World) => slice_lh A n c q q2 2 W (by omega) (by have := HCL.out; omega) (by omega)
      have hs2' := fun (W : World) => slice_lh A n c q2 q6 4 W (by omega) (by have := HCL.out; omega) (by omega)
      rw [← hA2, ← hc2] at hs1
      rw [← hA6, ← hc6] at hs2'
      obtain ⟨X, hX⟩ : ∃ X, X = val ((l.drop q).take 2) := ⟨_, rfl⟩
      obtain ⟨Y, hY⟩ : ∃ Y, Y = val ((l.drop q2).take 4) := ⟨_, rfl⟩
      have HVX : Hid (Calls Try.prog 24 #[.slice A2 2 c2] wr.drew fun e w' => e = .returned (.int .i64 (X : Int)) ∧ w' = wr.drew) := Lib.hid (by
        rw [hX, hA2, hc2]
        exact rval_any _ ((l.drop q).take 2) 2 (c - q) wr.drew ((HA.out.up hbw.drew).mid (by have := HL.out; have := HCL.out; omega)) (fun x hx => HB.out x (List.mem_of_mem_drop (List.mem_of_mem_take hx))) (by rw [List.length_take, List.length_drop]; have := HL.out; omega) (by omega))
      have HVY : Hid (Calls Try.prog 24 #[.slice A6 4 c6] wr.drew fun e w' => e = .returned (.int .i64 (Y : Int)) ∧ w' = wr.drew) := Lib.hid (by
        rw [hY, hA6, hc6]
        exact rval_any _ ((l.drop q2).take 4) 4 (c - q2) wr.drew ((HA.out.up hbw.drew).mid (by have := HL.out; have := HCL.out; omega)) (fun x hx => HB.out x (List.mem_of_mem_drop (List.mem_of_mem_take hx))) (by rw [List.length_take, List.length_drop]; have := HL.out; omega) (by omega))
      have hnext : (sixes l).take (j + 1) = (sixes l).take j ++ [((X : Int), (Y : Int))] := by
        have hjl : j < (sixes l).length := by rw [HSL.out]; exact hlt
        rw [take_succ _ j hjl, sixes_at m l (by have := HL.out; omega) j hjl, hX, hY, hq2, hq]
      obtain ⟨wl, hwl⟩ : ∃ wl, wl = wr.alloc (.cells #[.int .i64 (X : Int), .int .i64 (Y : Int)] 37) := ⟨_, rfl⟩
      have hbl : Below wr.heap.size wr wl := by rw [hwl]; exact (Below.refl _ _).alloc (Nat.le_refl _) _
      have TL := T.up hbl
      have y5 : wr.cell? ⟨g + 1 + 1 + 1, 5, none⟩ = some (.slice Av j cv) := cell_of_row _ (g + 1 + 1 + 1) 5 _ 28 _ T.2
      have yl : (wr.alloc (.cells #[.int .i64 (X : Int), .int .i64 (Y : Int)] 37)).cell? ⟨g + 1 + 1 + 1, 5, none⟩ = some (.slice Av j cv) := by rw [← hwl]; exact cell_of_row _ (g + 1 + 1 + 1) 5 _ 28 _ TL.2
      have HOWN : Hid ((wr.alloc (.cells #[.int .i64 (X : Int), .int .i64 (Y : Int)] 37)).drew.ownsRow (g + 1 + 1 + 1 + 1) 37 2 (.slice Av j cv) j (cS ((sixes l).take j))) := Lib.hid (by rw [← hwl]; exact row_keeps hrow (Keeps.of_below (S := fun _ => False) hbl.drew) (fun _ _ h => h))
      have HCE : Hid (∀ i u, (cS [((X : Int), (Y : Int))])[i]? = some u → (wr.alloc (.cells #[.int .i64 (X : Int), .int .i64 (Y : Int)] 37)).drew.cell? ((⟨wr.heap.size, 0, none⟩ : Addr).add i) = some u) := Lib.hid (new_cells wr (cS [((X : Int), (Y : Int))]) 37)
      have HS : Hid (∀ W cs, Four W g (⟨4, F, S, l⟩ : Frm) A n c cs → W.cell? ⟨g, 3, none⟩ = some (.slice A n c)) := Lib.hid (fun W cs h => (three_frm h.1).2.2.2)
      have HT4 := Lib.hid T
      have HTL : Hid (Four (wr.alloc (.cells #[.int .i64 (X : Int), .int .i64 (Y : Int)] 37)).drew g (⟨4, F, S, l⟩ : Frm) A n c #[.slice none 0 0, .int .i64 0, .int .i64 0, .int .i64 0, .int .i64 0, .slice Av j cv, .bool false, .bool false, .bool false]) := Lib.hid (by rw [← hwl]; exact TL)
      have HKEY : Hid (∀ v9 w9, World.ownsRow w9 (g + 1 + 1 + 1 + 1) 37 2 v9 (j + 1) (cS ((sixes l).take j ++ [((X : Int), (Y : Int))])) → (wr.alloc (.cells #[.int .i64 (X : Int), .int .i64 (Y : Int)] 37)).drew.grownBy w9 (Value.slice Av j cv).ownBlock → Four w9 g (⟨4, F, S, l⟩ : Frm) A n c #[.slice none 0 0, .int .i64 0, .int .i64 0, .int .i64 0, .int .i64 0, .slice Av j cv, .bool false, .bool false, .bool false] ∧ StR w g F S l A n c false m (.int .i64 (q6 : Int)) (w9.setCell ⟨g + 1 + 1 + 1, 5, none⟩ v9)) := Lib.hid (fun v9 w9 ho9 hg9 => by
        have hb9 : Below (g + 1 + 1 + 1 + 1) wr w9 := ((hbl.mono hsz).drew).grown (by rw [hwl]; exact hg9) (by have := hbl.size; show _ ≤ wl.heap.size; omega) (rowS_block hrow)
        have T9 := T.far hb9
        refine ⟨T9, j + 1, v9, by omega, by rw [show q6 = 6 * (j + 1) by omega], T9.set 5 v9, ?_, ?_, ?_⟩
        · rw [hnext]
          exact row_keeps ho9 ((Keeps.refl (fun k => k = g + 1 + 1 + 1) w9).setCell (S := fun k => k = g + 1 + 1 + 1) (p := ⟨g + 1 + 1 + 1, 5, none⟩) rfl _) (fun k hk e => by have := rowS_block ho9 k hk; omega)
        · exact (hbw.trans (hb9.mono (by have := HG.out; omega))).setCell (p := ⟨g + 1 + 1 + 1, 5, none⟩) (show w.heap.size ≤ g + 1 + 1 + 1 by have := HG.out; omega) _
        · have := hb9.size
          show _ ≤ (w9.setCell ⟨g + 1 + 1 + 1, 5, none⟩ v9).heap.size
          simp [World.setCell]
          omega)
      have HJN : Hid (j + 1 ≤ 1000000) := Lib.hid (by have := HNN.out; omega)
      have HSZW : Hid (g + 1 + 1 + 1 + 1 ≤ wr.heap.size) := Lib.hid hsz
      have hmeas : Hid (q < n ∧ q6 = q + 6) := Lib.hid (by omega)
      obtain ⟨x0, x1, x2, x3⟩ := three_frm T.1
      clear x0 x1 x2
      have k1' : (q : Int) ≤ (q2 : Int) := by omega
      have k2' : (q2 : Int) ≤ (q6 : Int) := by omega
      have k3' : (0 : Int) ≤ (q : Int) := by omega
      have k4' : (0 : Int) ≤ (q2 : Int) := by omega
      have k5' : (q2 : Int) ≤ (c : Int) := by have := HCL.out; omega
      have k6' : (q6 : Int) ≤ (c : Int) := by have := HCL.out; omega
      clear hX hY hA2 hA6 hc2 hc6 hnext T TL hrow hbw hsz hbl hwl hjc hAv hj hlt hm6 hq hq2 hq6
      go_wp2
      refine wp_region_held_drew (S := fun w' => w'.cell? ⟨g, 3, none⟩ = some (.slice A n c)) (by kernel_rfl) x3 (fun hHeld => ?_)
      refine wpAnyH_take (i := 0) (v := ?_) rfl (by kernel_rfl) (by kernel_rfl) (by kernel_rfl) (fun _ _ _ h => h) (Or.inl ⟨by rfl, ?_⟩) hHeld ?_
      rotate_left
      · intro w hSw
        try dsimp only at hSw
        go_simp
        try with_reducible rfl
      change wpAnyH _ _ _ _ _ _ _ (Act.put _ (some 75) _) _
      simp only [Act.put, List.setIfInBounds_toArray, List.set_cons_zero, List.set_cons_succ]
      refine wpAnyH_take (i := 2) (v := ?_) rfl (by kernel_rfl) (by kernel_rfl) (by kernel_rfl) (fun _ _ _ h => h) (Or.inl ⟨by rfl, ?_⟩) hHeld ?_
      rotate_left
      · intro w hSw
        try dsimp only at hSw
        go_simp
        try with_reducible rfl
      change wpAnyH _ _ _ _ _ _ _ (Act.put _ (some 77) _) _
      simp only [Act.put, List.setIfInBounds_toArray, List.set_cons_zero, List.set_cons_succ]
      refine wpAnyH_take (i := 3) (v := ?_) rfl (by kernel_rfl) (by kernel_rfl) (by kernel_rfl) (fun _ _ _ h => h) (Or.inl ⟨by rfl, ?_⟩) hHeld ?_
      rotate_left
      · intro w hSw
        try dsimp only at hSw
        go_simp
        try with_reducible rfl
      change wpAnyH _ _ _ _ _ _ _ (Act.put _ (some 78) _) _
      simp only [Act.put, List.setIfInBounds_toArray, List.set_cons_zero, List.set_cons_succ]
      refine wpAnyH_take (i := 4) (v := ?_) rfl (by kernel_rfl) (by kernel_rfl) (by kernel_rfl) (fun _ _ _ h => h) (Or.inl ⟨by rfl, ?_⟩) hHeld ?_
      rotate_left
      · intro w hSw
        try dsimp only at hSw
        go_simp
        try with_reducible rfl
      change wpAnyH _ _ _ _ _ _ _ (Act.put _ (some 79) _) _
      simp only [Act.put, List.setIfInBounds_toArray, List.set_cons_zero, List.set_cons_succ]
      refine wpAnyH_take (i := 5) (v := ?_) rfl (by kernel_rfl) (by kernel_rfl) (by kernel_rfl) (fun _ _ _ h => h) (Or.inl ⟨by rfl, ?_⟩) hHeld ?_
      rotate_left
      · intro w hSw
        try dsimp only at hSw
        go_simp
        try with_reducible rfl
      change wpAnyH _ _ _ _ _ _ _ (Act.put _ (some 80) _) _
      simp only [Act.put, List.setIfInBounds_toArray, List.set_cons_zero, List.set_cons_succ]
      refine wpAnyH_take (i := 6) (v := ?_) rfl (by kernel_rfl) (by kernel_rfl) (by kernel_rfl) (fun _ _ _ h => h) (Or.inl ⟨by rfl, ?_⟩) hHeld ?_
      rotate_left
      · intro w hSw
        try dsimp only at hSw
        go_simp
        try with_reducible rfl
      change wpAnyH _ _ _ _ _ _ _ (Act.put _ (some 81) _) _
      simp only [Act.put, List.setIfInBounds_toArray, List.set_cons_zero, List.set_cons_succ]
      refine wpAnyH_take (i := 7) (v := ?_) rfl (by kernel_rfl) (by kernel_rfl) (by kernel_rfl) (fun _ _ _ h => h) (Or.inl ⟨by rfl, ?_⟩) hHeld ?_
      rotate_left
      · intro w hSw
        try dsimp only at hSw
        go_simp
        try with_reducible rfl
      change wpAnyH _ _ _ _ _ _ _ (Act.put _ (some 82) _) _
      simp only [Act.put, List.setIfInBounds_toArray, List.set_cons_zero, List.set_cons_succ]
      refine wpAnyH_take (i := 9) (v := ?_) rfl (by kernel_rfl) (by kernel_rfl) (by kernel_rfl) (fun _ _ _ h => h) (Or.inl ⟨by rfl, ?_⟩) hHeld ?_
      rotate_left
      · intro w hSw
        try dsimp only at hSw
        go_simp
        try with_reducible rfl
      change wpAnyH _ _ _ _ _ _ _ (Act.put _ (some 84) _) _
      simp only [Act.put, List.setIfInBounds_toArray, List.set_cons_zero, List.set_cons_succ]
      refine wpAnyH_take (i := 10) (v := ?_) rfl (by kernel_rfl) (by kernel_rfl) (by kernel_rfl) (fun _ _ _ h => h) (Or.inl ⟨by rfl, ?_⟩) hHeld ?_
      rotate_left
      · intro w hSw
        try dsimp only at hSw
        go_simp
        try with_reducible rfl
      change wpAnyH _ _ _ _ _ _ _ (Act.put _ (some 85) _) _
      simp only [Act.put, List.setIfInBounds_toArray, List.set_cons_zero, List.set_cons_succ]
      refine wpAnyH_take (i := 11) (v := ?_) rfl (by kernel_rfl) (by kernel_rfl) (by kernel_rfl) (fun _ _ _ h => h) (Or.inl ⟨by rfl, ?_⟩) hHeld ?_
      rotate_left
      · intro w hSw
        try dsimp only at hSw
        go_simp
        try with_reducible rfl
      change wpAnyH _ _ _ _ _ _ _ (Act.put _ (some 86) _) _
      simp only [Act.put, List.setIfInBounds_toArray, List.set_cons_zero, List.set_cons_succ]
      refine wpAnyH_take (i := 12) (v := ?_) rfl (by kernel_rfl) (by kernel_rfl) (by kernel_rfl) (fun _ _ _ h => h) (Or.inl ⟨by rfl, ?_⟩) hHeld ?_
      rotate_left
      · intro w hSw
        try dsimp only at hSw
        go_simp
        try with_reducible rfl
      change wpAnyH _ _ _ _ _ _ _ (Act.put _ (some 87) _) _
      simp only [Act.put, List.setIfInBounds_toArray, List.set_cons_zero, List.set_cons_succ]
      refine wpAnyH_take (i := 13) (v := ?_) rfl (by kernel_rfl) (by kernel_rfl) (by kernel_rfl) (fun _ _ _ h => h) (Or.inl ⟨by rfl, ?_⟩) hHeld ?_
      rotate_left
      · intro w hSw
        try dsimp only at hSw
        go_simp
        try with_reducible rfl
      change wpAnyH _ _ _ _ _ _ _ (Act.put _ (some 88) _) _
      simp only [Act.put, List.setIfInBounds_toArray, List.set_cons_zero, List.set_cons_succ]
      refine wpAnyH_take (i := 14) (v := ?_) rfl (by kernel_rfl) (by kernel_rfl) (by kernel_rfl) (fun _ _ _ h => h) (Or.inl ⟨by rfl, ?_⟩) hHeld ?_
      rotate_left
      · intro w hSw
        try dsimp only at hSw
        go_simp
        try with_reducible rfl
      change wpAnyH _ _ _ _ _ _ _ (Act.put _ (some 89) _) _
      simp only [Act.put, List.setIfInBounds_toArray, List.set_cons_zero, List.set_cons_succ]
      refine wpAnyH_take (i := 15) (v := ?_) rfl (by kernel_rfl) (by kernel_rfl) (by kernel_rfl) (fun _ _ _ h => h) (Or.inl ⟨by rfl, ?_⟩) hHeld ?_
      rotate_left
      · intro w hSw
        try dsimp only at hSw
        go_simp
        try with_reducible rfl
      change wpAnyH _ _ _ _ _ _ _ (Act.put _ (some 90) _) _
      simp only [Act.put, List.setIfInBounds_toArray, List.set_cons_zero, List.set_cons_succ]
      refine wpAnyH_ready (rs := [1, 8]) (by kernel_rfl) (by simp) ?_
      refine AllReadyH.cons rfl (fun K hK => ?_) ?_
      · go_simp
        refine hK.out _ _ (HS.out _ _ (HT4.out.drewN 1)) (fun hHeld => ?_)
        clear hK K
        refine wpAnyH_ready (rs := [8]) (by kernel_rfl) (by simp) ?_
        refine AllReadyH.cons rfl (fun K hK => ?_) ?_
        · go_simp
          with_reducible refine (HVX.out).mono ?_
          rintro e w3 ⟨rfl, rfl⟩
          refine hK.out _ _ (HS.out _ _ (HT4.out.drewN 1)) (fun hHeld => ?_)
          clear hK K
          refine wpAnyH_ready (rs := [16]) (by kernel_rfl) (by simp) ?_
          refine AllReadyH.cons rfl (fun K hK => ?_) ?_
          · go_simp
            with_reducible refine (HVY.out).mono ?_
            rintro e w3 ⟨rfl, rfl⟩
            refine hK.out _ _ (HS.out _ _ (HT4.out.drewN 1)) (fun hHeld => ?_)
            clear hK K
            refine wpAnyH_take (i := 17) (v := ?_) rfl (by kernel_rfl) (by kernel_rfl) (by kernel_rfl) (fun _ _ _ h => h) (Or.inl ⟨by rfl, ?_⟩) hHeld ?_
            rotate_left
            · intro w hSw
              try dsimp only at hSw
              go_simp
              try with_reducible rfl
            change wpAnyH _ _ _ _ _ _ _ (Act.put _ (some 92) _) _
            simp only [Act.put, List.setIfInBounds_toArray, List.set_cons_zero, List.set_cons_succ]
            refine wpAnyH_ready (rs := [18]) (by kernel_rfl) (by simp) ?_
            refine AllReadyH.cons rfl (fun K hK => ?_) ?_
            · go_simp
              refine hK.out _ _ (HS.out _ _ HTL.out) (fun hHeld => ?_)
              clear hK K
              refine wpAnyH_ready (rs := [19]) (by kernel_rfl) (by simp) ?_
              refine AllReadyH.cons rfl (fun K hK => ?_) ?_
              · refine step_appS rfl (.tmp 76) (.tmp 93) rfl (g + 1 + 1 + 1 + 1) (.slice Av j cv) j ((sixes l).take j) (by simp [Act.eval]) HOWN.out ⟨wr.heap.size, 0, none⟩ [((X : Int), (Y : Int))] 1 (by simp [Act.eval]) HCE.out HJN.out (by have := HSZW.out; simp; omega) ?_
                intro v9 w9 ho9 hg9
                obtain ⟨T9, hR9⟩ := HKEY.out v9 w9 ho9 hg9
                obtain ⟨A9, c9, hv9, _, _⟩ := rowS_shape ho9
                subst hv9
                have p5 : w9.cell? ⟨g + 1 + 1 + 1, 5, none⟩ = some (.slice Av j cv) := cell_of_row _ (g + 1 + 1 + 1) 5 _ 28 _ T9.2
                have z5 : w9.frozen? ⟨g + 1 + 1 + 1, 5, none⟩ = false := frozen_of_row _ (g + 1 + 1 + 1) 5 _ 28 T9.2
                have HR9 := Lib.hid hR9
                have HT9 := Lib.hid T9
                clear hR9 ho9 hg9 T9
                refine hK.out _ _ (HS.out _ _ HT9.out) (fun hHeld => ?_)
                clear hK K
                refine wpAnyH_take (i := 20) (v := ?_) rfl (by kernel_rfl) (by kernel_rfl) (by kernel_rfl) (fun _ _ _ h => h) (Or.inl ⟨by rfl, ?_⟩) hHeld ?_
                rotate_left
                · intro w hSw
                  try dsimp only at hSw
                  go_simp
                  try with_reducible rfl
                change wpAnyH _ _ _ _ _ _ _ (Act.put _ (some 95) _) _
                simp only [Act.put, List.setIfInBounds_toArray]
                refine wpAnyH_ready (rs := [21]) (by kernel_rfl) (by simp) ?_
                refine AllReadyH.cons rfl (fun K hK => ?_) ?_
                · go_simp
                  refine hK.out _ _ (HS.out _ _ (HT9.out.set 5 _)) (fun hHeld => ?_)
                  clear hK K
                  refine wpAnyH_done (by kernel_rfl) ?_ _
                  go_wp2
                  go_roundw
                  case rel => exact HR9.out
                  case measure => (have := hmeas.out; simp [intOf]; omega)
                exact AllReadyH.nil
              exact AllReadyH.nil
            exact AllReadyH.nil
          exact AllReadyH.nil
        exact AllReadyH.nil
      refine AllReadyH.cons rfl (fun K hK => ?_) ?_
      · go_simp
        with_reducible refine (HVX.out).mono ?_
        rintro e w3 ⟨rfl, rfl⟩
        refine hK.out _ _ (HS.out _ _ (HT4.out.drewN 1)) (fun hHeld => ?_)
        clear hK K
        refine wpAnyH_ready (rs := [1, 16]) (by kernel_rfl) (by simp) ?_
        refine AllReadyH.cons rfl (fun K hK => ?_) ?_
        · go_simp
          refine hK.out _ _ (HS.out _ _ (HT4.out.drewN 1)) (fun hHeld => ?_)
          clear hK K
          refine wpAnyH_ready (rs := [16]) (by kernel_rfl) (by simp) ?_
          refine AllReadyH.cons rfl (fun K hK => ?_) ?_
          · go_simp
            with_reducible refine (HVY.out).mono ?_
            rintro e w3 ⟨rfl, rfl⟩
            refine hK.out _ _ (HS.out _ _ (HT4.out.drewN 1)) (fun hHeld => ?_)
            clear hK K
            refine wpAnyH_take (i := 17) (v := ?_) rfl (by kernel_rfl) (by kernel_rfl) (by kernel_rfl) (fun _ _ _ h => h) (Or.inl ⟨by rfl, ?_⟩) hHeld ?_
            rotate_left
            · intro w hSw
              try dsimp only at hSw
              go_simp
              try with_reducible rfl
            change wpAnyH _ _ _ _ _ _ _ (Act.put _ (some 92) _) _
            simp only [Act.put, List.setIfInBounds_toArray, List.set_cons_zero, List.set_cons_succ]
            refine wpAnyH_ready (rs := [18]) (by kernel_rfl) (by simp) ?_
            refine AllReadyH.cons rfl (fun K hK => ?_) ?_
            · go_simp
              refine hK.out _ _ (HS.out _ _ HTL.out) (fun hHeld => ?_)
              clear hK K
              refine wpAnyH_ready (rs := [19]) (by kernel_rfl) (by simp) ?_
              refine AllReadyH.cons rfl (fun K hK => ?_) ?_
              · refine step_appS rfl (.tmp 76) (.tmp 93) rfl (g + 1 + 1 + 1 + 1) (.slice Av j cv) j ((sixes l).take j) (by simp [Act.eval]) HOWN.out ⟨wr.heap.size, 0, none⟩ [((X : Int), (Y : Int))] 1 (by simp [Act.eval]) HCE.out HJN.out (by have := HSZW.out; simp; omega) ?_
                intro v9 w9 ho9 hg9
                obtain ⟨T9, hR9⟩ := HKEY.out v9 w9 ho9 hg9
                obtain ⟨A9, c9, hv9, _, _⟩ := rowS_shape ho9
                subst hv9
                have p5 : w9.cell? ⟨g + 1 + 1 + 1, 5, none⟩ = some (.slice Av j cv) := cell_of_row _ (g + 1 + 1 + 1) 5 _ 28 _ T9.2
                have z5 : w9.frozen? ⟨g + 1 + 1 + 1, 5, none⟩ = false := frozen_of_row _ (g + 1 + 1 + 1) 5 _ 28 T9.2
                have HR9 := Lib.hid hR9
                have HT9 := Lib.hid T9
                clear hR9 ho9 hg9 T9
                refine hK.out _ _ (HS.out _ _ HT9.out) (fun hHeld => ?_)
                clear hK K
                refine wpAnyH_take (i := 20) (v := ?_) rfl (by kernel_rfl) (by kernel_rfl) (by kernel_rfl) (fun _ _ _ h => h) (Or.inl ⟨by rfl, ?_⟩) hHeld ?_
                rotate_left
                · intro w hSw
                  try dsimp only at hSw
                  go_simp
                  try with_reducible rfl
                change wpAnyH _ _ _ _ _ _ _ (Act.put _ (some 95) _) _
                simp only [Act.put, List.setIfInBounds_toArray]
                refine wpAnyH_ready (rs := [21]) (by kernel_rfl) (by simp) ?_
                refine AllReadyH.cons rfl (fun K hK => ?_) ?_
                · go_simp
                  refine hK.out _ _ (HS.out _ _ (HT9.out.set 5 _)) (fun hHeld => ?_)
                  clear hK K
                  refine wpAnyH_done (by kernel_rfl) ?_ _
                  go_wp2
                  go_roundw
                  case rel => exact HR9.out
                  case measure => (have := hmeas.out; simp [intOf]; omega)
                exact AllReadyH.nil
              exact AllReadyH.nil
            exact AllReadyH.nil
          exact AllReadyH.nil
        refine AllReadyH.cons rfl (fun K hK => ?_) ?_
        · go_simp
          with_reducible refine (HVY.out).mono ?_
          rintro e w3 ⟨rfl, rfl⟩
          refine hK.out _ _ (HS.out _ _ (HT4.out.drewN 1)) (fun hHeld => ?_)
          clear hK K
          refine wpAnyH_take (i := 17) (v := ?_) rfl (by kernel_rfl) (by kernel_rfl) (by kernel_rfl) (fun _ _ _ h => h) (Or.inl ⟨by rfl, ?_⟩) hHeld ?_
          rotate_left
          · intro w hSw
            try dsimp only at hSw
            go_simp
            try with_reducible rfl
          change wpAnyH _ _ _ _ _ _ _ (Act.put _ (some 92) _) _
          simp only [Act.put, List.setIfInBounds_toArray, List.set_cons_zero, List.set_cons_succ]
          refine wpAnyH_ready (rs := [1, 18]) (by kernel_rfl) (by simp) ?_
          refine AllReadyH.cons rfl (fun K hK => ?_) ?_
          · go_simp
            refine hK.out _ _ (HS.out _ _ (HT4.out.drewN 1)) (fun hHeld => ?_)
            clear hK K
            refine wpAnyH_ready (rs := [18]) (by kernel_rfl) (by simp) ?_
            refine AllReadyH.cons rfl (fun K hK => ?_) ?_
            · go_simp
              refine hK.out _ _ (HS.out _ _ HTL.out) (fun hHeld => ?_)
              clear hK K
              refine wpAnyH_ready (rs := [19]) (by kernel_rfl) (by simp) ?_
              refine AllReadyH.cons rfl (fun K hK => ?_) ?_
              · refine step_appS rfl (.tmp 76) (.tmp 93) rfl (g + 1 + 1 + 1 + 1) (.slice Av j cv) j ((sixes l).take j) (by simp [Act.eval]) HOWN.out ⟨wr.heap.size, 0, none⟩ [((X : Int), (Y : Int))] 1 (by simp [Act.eval]) HCE.out HJN.out (by have := HSZW.out; simp; omega) ?_
                intro v9 w9 ho9 hg9
                obtain ⟨T9, hR9⟩ := HKEY.out v9 w9 ho9 hg9
                obtain ⟨A9, c9, hv9, _, _⟩ := rowS_shape ho9
                subst hv9
                have p5 : w9.cell? ⟨g + 1 + 1 + 1, 5, none⟩ = some (.slice Av j cv) := cell_of_row _ (g + 1 + 1 + 1) 5 _ 28 _ T9.2
                have z5 : w9.frozen? ⟨g + 1 + 1 + 1, 5, none⟩ = false := frozen_of_row _ (g + 1 + 1 + 1) 5 _ 28 T9.2
                have HR9 := Lib.hid hR9
                have HT9 := Lib.hid T9
                clear hR9 ho9 hg9 T9
                refine hK.out _ _ (HS.out _ _ HT9.out) (fun hHeld => ?_)
                clear hK K
                refine wpAnyH_take (i := 20) (v := ?_) rfl (by kernel_rfl) (by kernel_rfl) (by kernel_rfl) (fun _ _ _ h => h) (Or.inl ⟨by rfl, ?_⟩) hHeld ?_
                rotate_left
                · intro w hSw
                  try dsimp only at hSw
                  go_simp
                  try with_reducible rfl
                change wpAnyH _ _ _ _ _ _ _ (Act.put _ (some 95) _) _
                simp only [Act.put, List.setIfInBounds_toArray]
                refine wpAnyH_ready (rs := [21]) (by kernel_rfl) (by simp) ?_
                refine AllReadyH.cons rfl (fun K hK => ?_) ?_
                · go_simp
                  refine hK.out _ _ (HS.out _ _ (HT9.out.set 5 _)) (fun hHeld => ?_)
                  clear hK K
                  refine wpAnyH_done (by kernel_rfl) ?_ _
                  go_wp2
                  go_roundw
                  case rel => exact HR9.out
                  case measure => (have := hmeas.out; simp [intOf]; omega)
                exact AllReadyH.nil
              exact AllReadyH.nil
            exact AllReadyH.nil
          refine AllReadyH.cons rfl (fun K hK => ?_) ?_
          · go_simp
            refine hK.out _ _ (HS.out _ _ HTL.out) (fun hHeld => ?_)
            clear hK K
            refine wpAnyH_ready (rs := [1]) (by kernel_rfl) (by simp) ?_
            refine AllReadyH.cons rfl (fun K hK => ?_) ?_
            · go_simp
              refine hK.out _ _ (HS.out _ _ HTL.out) (fun hHeld => ?_)
              clear hK K
              refine wpAnyH_ready (rs := [19]) (by kernel_rfl) (by simp) ?_
              refine AllReadyH.cons rfl (fun K hK => ?_) ?_
              · refine step_appS rfl (.tmp 76) (.tmp 93) rfl (g + 1 + 1 + 1 + 1) (.slice Av j cv) j ((sixes l).take j) (by simp [Act.eval]) HOWN.out ⟨wr.heap.size, 0, none⟩ [((X : Int), (Y : Int))] 1 (by simp [Act.eval]) HCE.out HJN.out (by have := HSZW.out; simp; omega) ?_
                intro v9 w9 ho9 hg9
                obtain ⟨T9, hR9⟩ := HKEY.out v9 w9 ho9 hg9
                obtain ⟨A9, c9, hv9, _, _⟩ := rowS_shape ho9
                subst hv9
                have p5 : w9.cell? ⟨g + 1 + 1 + 1, 5, none⟩ = some (.slice Av j cv) := cell_of_row _ (g + 1 + 1 + 1) 5 _ 28 _ T9.2
                have z5 : w9.frozen? ⟨g + 1 + 1 + 1, 5, none⟩ = false := frozen_of_row _ (g + 1 + 1 + 1) 5 _ 28 T9.2
                have HR9 := Lib.hid hR9
                have HT9 := Lib.hid T9
                clear hR9 ho9 hg9 T9
                refine hK.out _ _ (HS.out _ _ HT9.out) (fun hHeld => ?_)
                clear hK K
                refine wpAnyH_take (i := 20) (v := ?_) rfl (by kernel_rfl) (by kernel_rfl) (by kernel_rfl) (fun _ _ _ h => h) (Or.inl ⟨by rfl, ?_⟩) hHeld ?_
                rotate_left
                · intro w hSw
                  try dsimp only at hSw
                  go_simp
                  try with_reducible rfl
                change wpAnyH _ _ _ _ _ _ _ (Act.put _ (some 95) _) _
                simp only [Act.put, List.setIfInBounds_toArray]
                refine wpAnyH_ready (rs := [21]) (by kernel_rfl) (by simp) ?_
                refine AllReadyH.cons rfl (fun K hK => ?_) ?_
                · go_simp
                  refine hK.out _ _ (HS.out _ _ (HT9.out.set 5 _)) (fun hHeld => ?_)
                  clear hK K
                  refine wpAnyH_done (by kernel_rfl) ?_ _
                  go_wp2
                  go_roundw
                  case rel => exact HR9.out
                  case measure => (have := hmeas.out; simp [intOf]; omega)
                exact AllReadyH.nil
              exact AllReadyH.nil
            exact AllReadyH.nil
          exact AllReadyH.nil
        exact AllReadyH.nil
      exact AllReadyH.nil
    · obtain rfl : j = m := by omega
      obtain ⟨q, hq⟩ : ∃ q, q = 6 * j := ⟨_, rfl⟩
      rw [← hq]
      have ki : ¬ (q : Int) < (n : Int) := by have := HM.out; omega
      clear hq hj hlt hjc hAv
      have p0 : wr.cell? ⟨g + 1 + 1 + 1, 0, none⟩ = some (.slice none 0 0) := cell_of_row _ (g + 1 + 1 + 1) 0 _ 28 _ T.2
      have p1 : wr.cell? ⟨g + 1 + 1 + 1, 1, none⟩ = some (.int .i64 0) := cell_of_row _ (g + 1 + 1 + 1) 1 _ 28 _ T.2
      have p2 : wr.cell? ⟨g + 1 + 1 + 1, 2, none⟩ = some (.int .i64 0) := cell_of_row _ (g + 1 + 1 + 1) 2 _ 28 _ T.2
      have p3 : wr.cell? ⟨g + 1 + 1 + 1, 3, none⟩ = some (.int .i64 0) := cell_of_row _ (g + 1 + 1 + 1) 3 _ 28 _ T.2
      have p4 : wr.cell? ⟨g + 1 + 1 + 1, 4, none⟩ = some (.int .i64 0) := cell_of_row _ (g + 1 + 1 + 1) 4 _ 28 _ T.2
      have p5 : wr.cell? ⟨g + 1 + 1 + 1, 5, none⟩ = some (.slice Av j cv) := cell_of_row _ (g + 1 + 1 + 1) 5 _ 28 _ T.2
      have p6 : wr.cell? ⟨g + 1 + 1 + 1, 6, none⟩ = some (.bool false) := cell_of_row _ (g + 1 + 1 + 1) 6 _ 28 _ T.2
      have p7 : wr.cell? ⟨g + 1 + 1 + 1, 7, none⟩ = some (.bool false) := cell_of_row _ (g + 1 + 1 + 1) 7 _ 28 _ T.2
      have p8 : wr.cell? ⟨g + 1 + 1 + 1, 8, none⟩ = some (.bool false) := cell_of_row _ (g + 1 + 1 + 1) 8 _ 28 _ T.2
      have r0 : wr.cell? ⟨g + 1, 0, none⟩ = some (.slice none 0 0) := cell_of_row _ (g + 1) 0 _ 28 _ T.1.2.1
      have r1 : wr.cell? ⟨g + 1, 1, none⟩ = some (.int .i64 0) := cell_of_row _ (g + 1) 1 _ 28 _ T.1.2.1
      have r2 : wr.cell? ⟨g + 1, 2, none⟩ = some (.int .i64 0) := cell_of_row _ (g + 1) 2 _ 28 _ T.1.2.1
      have r3 : wr.cell? ⟨g + 1, 3, none⟩ = some (.int .i64 0) := cell_of_row _ (g + 1) 3 _ 28 _ T.1.2.1
      have r4 : wr.cell? ⟨g + 1, 4, none⟩ = some (.int .i64 0) := cell_of_row _ (g + 1) 4 _ 28 _ T.1.2.1
      have r5 : wr.cell? ⟨g + 1, 5, none⟩ = some (.slice none 0 0) := cell_of_row _ (g + 1) 5 _ 28 _ T.1.2.1
      have r6 : wr.cell? ⟨g + 1, 6, none⟩ = some (.bool false) := cell_of_row _ (g + 1) 6 _ 28 _ T.1.2.1
      have r7 : wr.cell? ⟨g + 1, 7, none⟩ = some (.bool false) := cell_of_row _ (g + 1) 7 _ 28 _ T.1.2.1
      have r8 : wr.cell? ⟨g + 1, 8, none⟩ = some (.bool false) := cell_of_row _ (g + 1) 8 _ 28 _ T.1.2.1
      have t0 : wr.cell? ⟨g + 1 + 1, 0, none⟩ = some (.bool false) := cell_of_row _ (g + 1 + 1) 0 _ 30 _ T.1.2.2
      have t1 : wr.cell? ⟨g + 1 + 1, 1, none⟩ = some (.bool false) := cell_of_row _ (g + 1 + 1) 1 _ 30 _ T.1.2.2
      have t2 : wr.cell? ⟨g + 1 + 1, 2, none⟩ = some (.int .i64 0) := cell_of_row _ (g + 1 + 1) 2 _ 30 _ T.1.2.2
      obtain ⟨f0, f1, f2, f3, f4, f5, f6, f7, f8, u0, u1, u2⟩ := three_froz T.1
      have HN : Hid (PtPost w (⟨[], 0, 0, 0, 0, sixes l, false, false, false⟩, noFlt) (.returned (.tuple #[.agg #[.slice none 0 0, .int .i64 0, .int .i64 0, .int .i64 0, .int .i64 0, .slice Av j cv, .bool false, .bool false, .bool false], .agg #[.bool false, .bool false, .int .i64 0]])) (stores wr g (.slice none 0 0) (.int .i64 0) (.int .i64 0) (.int .i64 0) (.int .i64 0) (.slice Av j cv) (.bool false) (.bool false) (.bool false) (.bool false) (.bool false) (.int .i64 0))) := Lib.hid (by
        have hsl : (sixes l).length = j := HSL.out
        rw [List.take_of_length_le (by omega)] at hrow
        subst hsl
        exact rd_sets (P := ⟨[], 0, 0, 0, 0, sixes l, false, false, false⟩) (A := Av) (d := cv) HG.out hbw rfl (by omega) hrow _ _ _ _ _ _ _ _ _ _ _ _)
      clear T hbw hrow hsz
      go_wp2
      refine bodyPost_ret (v := .tuple #[.agg #[.slice none 0 0, .int .i64 0, .int .i64 0, .int .i64 0, .int .i64 0, .slice Av j cv, .bool false, .bool false, .bool false], .agg #[.bool false, .bool false, .int .i64 0]]) (by simp [results, Try.results10, go_sem, r0, r1, r2, r3, r4, r5, r6, r7, r8, t0, t1, t2]) rfl HN.out
end Go.Proofs.Ytelbldhnlmggiaa
