/- The walk of PackShort. -/
import Derived.Test.YtiandidencnlcaaDoorUObj
namespace Go.Proofs.YtiandidencnlcaaDoor
open Go.RowKit

theorem put_four (h b n : Nat) (hn : n ≤ 400) : (Pn.put h b n).length ≤ 3 := by
  have h1 := Pn.nd_lt 1 (n - Pn.full b) (by omega)
  rw [Pn.put_len]
  split <;> omega
theorem put_one (h b n : Nat) (hn : n < Pn.full b) : Pn.put h b n = [Pn.hd h b + n] := by rw [Pn.put, if_pos hn]
theorem pstr_short (s : List Nat) (h : s.length ≤ 300) : (pstr s).length ≤ s.length + 3 := by
  unfold pstr
  split
  · have h1 := put_four 128 7 ((Hf.nBits s + 7) / 8) (by omega)
    have h3 := Hf.enc_len s
    rw [List.length_append]
    omega
  · have h2 := put_four 0 7 s.length (by omega)
    rw [List.length_append]
    omega
theorem sboth_le (n v : ByteArray) : (St.fnd n.toList v.toList 61 0).1 ≤ 61 ∧ (St.fnd n.toList v.toList 61 0).2 ≤ 61 := by
  refine ⟨?_, ?_⟩
  · rcases (fnd_is n.toList v.toList 61 0).1 with h | ⟨_, h, _⟩ <;> omega
  · rcases (fnd_is n.toList v.toList 61 0).2 with h | ⟨_, h, _⟩ <;> omega
theorem fndL_hit (n v : ByteArray) (x : Bool) : fndL n.toList v.toList [⟨n, v, x⟩] 0 = (1, 1) := by
  rw [fndL, show (n.toList == n.toList) = true by simp, show (v.toList == v.toList) = true by simp]
  rfl
theorem enc_calm (T : List Fld) (l : List Fld) (hl : allFit l = true) : EncS.enc ⟨4096, T, 4096, 0, false⟩ l = ((pall 4096 T l).1, 0, ⟨4096, (pall 4096 T l).2, 4096, 0, false⟩) := by
  rw [EncS.enc, if_pos hl]
  show (EncS.lims _ ++ _, _) = _
  rw [EncS.lims, if_neg (by simp), List.nil_append]
/-- What is written the first time, the second time, and never to be added. -/
theorem short_enc (F1 F2 : ByteArray) (h1 : F1.size ≤ 300) (h2 : F2.size ≤ 300) : ∃ (A C : List Nat) (x y : Nat) (T : List Fld),
    EncS.new.enc [⟨F1, F2, false⟩] = (A, 0, ⟨4096, T, 4096, 0, false⟩) ∧ 1 ≤ A.length ∧ A.length ≤ F1.size + F2.size + 9 ∧
    EncS.enc ⟨4096, T, 4096, 0, false⟩ [⟨F1, F2, false⟩] = ([x], 0, ⟨4096, T, 4096, 0, false⟩) ∧ 128 ≤ x ∧ x < 256 ∧
    EncS.enc ⟨4096, T, 4096, 0, false⟩ [⟨F1, F2, true⟩, ⟨F1, F2, true⟩] = (y :: C, 0, ⟨4096, T, 4096, 0, false⟩) ∧ 1 ≤ C.length ∧ y / 16 = 1 ∧ T.length ≤ 1 := by
  have hx : ∀ z, allFit [⟨F1, F2, z⟩] = true := fun z => allFit_iff.2 (fun g hg => by simp at hg; subst hg; exact ⟨by simp only []; omega, by simp only []; omega⟩)
  have hx2 : allFit [⟨F1, F2, true⟩, ⟨F1, F2, true⟩] = true := allFit_iff.2 (fun g hg => by simp at hg; subst hg; exact ⟨by simp only []; omega, by simp only []; omega⟩)
  obtain ⟨i, hi⟩ : ∃ i, i = (St.fnd F1.toList F2.toList 61 0).1 := ⟨_, rfl⟩
  have hi61 : i ≤ 61 := by rw [hi]; exact (sboth_le F1 F2).1
  have hf : ∀ b, Pn.full b = 2 ^ b - 1 := fun b => rfl
  have h3 : ∀ T : List Fld, ∃ (C : List Nat) (y : Nat), EncS.enc ⟨4096, T, 4096, 0, false⟩ [⟨F1, F2, true⟩, ⟨F1, F2, true⟩] = (y :: C, 0, ⟨4096, T, 4096, 0, false⟩) ∧ 1 ≤ C.length ∧ y / 16 = 1 := fun T => by
    have e : pfld 4096 T ⟨F1, F2, true⟩ = (plit T ⟨F1, F2, true⟩, T) := by rw [pfld, if_neg (by simp)]; rfl
    obtain ⟨y, r, hy, hy2⟩ := put_head 16 4 (pname T F1 F2)
    have hp : ∃ r2, plit T ⟨F1, F2, true⟩ = y :: r2 := by
      refine ⟨r ++ ((if pname T F1 F2 = 0 then pstr (nums F1) else []) ++ pstr (nums F2)), ?_⟩
      unfold plit
      simp only [if_true]
      rw [hy]
      rfl
    obtain ⟨r2, hr2⟩ := hp
    refine ⟨r2 ++ (plit T ⟨F1, F2, true⟩ ++ []), y, ?_, ?_, by omega⟩
    · rw [enc_calm T _ hx2, pall, pall, pall, e]
      simp only [e, hr2]
      rfl
    · rw [List.length_append, List.length_append, hr2]
      simp
      omega
  by_cases h0 : 0 < i
  · -- the static table has it
    have hb : ∀ T, pboth T F1 F2 = i := fun T => by rw [pboth, if_pos (by rw [← hi]; exact h0), hi]
    have e : ∀ T, pfld 4096 T ⟨F1, F2, false⟩ = ([128 + i], T) := fun T => by
      rw [pfld, hb, if_pos ⟨h0, rfl⟩, put_one 128 7 i (by rw [hf]; omega)]
      rfl
    obtain ⟨C, y, hC, hC1, hy⟩ := h3 []
    refine ⟨[128 + i], C, 128 + i, y, [], ?_, by simp, by simp, ?_, by omega, by omega, hC, hC1, hy, by simp⟩
    · rw [show EncS.new = ⟨4096, [], 4096, 0, false⟩ from rfl, enc_calm [] _ (hx false), pall, pall, e]
      rfl
    · rw [enc_calm [] _ (hx false), pall, pall, e]
      rfl
  · -- it has not
    have hi0 : i = 0 := by omega
    have hb0 : pboth [] F1 F2 = 0 := by rw [pboth, if_neg (by rw [← hi]; omega), if_neg (by simp [fndL])]
    have hb1 : pboth [⟨F1, F2, false⟩] F1 F2 = 62 := by
      rw [pboth, if_neg (by rw [← hi]; omega), fndL_hit, if_pos (by omega)]
      rfl
    have hadd : addL 4096 ⟨F1, F2, false⟩ [] = [⟨F1, F2, false⟩] := by
      rw [addL, fitL, if_pos (by rw [kept_size]; unfold fsize; simp only []; omega)]
      rfl
    have e0 : pfld 4096 [] ⟨F1, F2, false⟩ = (plit [] ⟨F1, F2, false⟩, [⟨F1, F2, false⟩]) := by
      rw [pfld, hb0, if_neg (by simp)]
      simp only [Bool.false_eq_true, if_false]
      rw [hadd]
    have e1 : pfld 4096 [⟨F1, F2, false⟩] ⟨F1, F2, false⟩ = ([190], [⟨F1, F2, false⟩]) := by
      rw [pfld, hb1, if_pos ⟨by omega, rfl⟩, put_one 128 7 62 (by rw [hf]; omega)]
      rfl
    have hlen : (plit [] ⟨F1, F2, false⟩).length ≤ F1.size + F2.size + 9 := by
      have hn : pname [] F1 F2 ≤ 61 := by
        rw [pname]
        split
        · exact (sboth_le F1 F2).2
        · rw [if_neg (by simp [fndL])]
          omega
      have a1 : (Pn.put 64 6 (pname [] F1 F2)).length = 1 := by rw [put_one 64 6 _ (by rw [hf]; omega)]; rfl
      have a2 := pstr_short (nums F1) (by rw [nums_len]; exact h1)
      have a3 := pstr_short (nums F2) (by rw [nums_len]; exact h2)
      rw [nums_len] at a2 a3
      have a4 : (if pname [] F1 F2 = 0 then pstr (nums F1) else []).length ≤ F1.size + 3 := by
        split
        · exact a2
        · simp
      unfold plit
      simp only [Bool.false_eq_true, if_false]
      rw [List.length_append, List.length_append, a1]
      omega
    obtain ⟨C, y, hC, hC1, hy⟩ := h3 [⟨F1, F2, false⟩]
    refine ⟨plit [] ⟨F1, F2, false⟩, C, 190, y, [⟨F1, F2, false⟩], ?_, ?_, hlen, ?_, by omega, by omega, hC, hC1, hy, by simp⟩
    · rw [show EncS.new = ⟨4096, [], 4096, 0, false⟩ from rfl, enc_calm [] _ (hx false), pall, pall, e0]
      simp
    · have := pfld_pos 4096 [] ⟨F1, F2, false⟩
      rw [e0] at this
      exact this
    · rw [enc_calm _ _ (hx false), pall, pall, e1]
      rfl
namespace packShort
set_option maxRecDepth 100000 in
set_option maxHeartbeats 8000000 in
theorem walk_in (F1 F2 : ByteArray) (F3 : Bool) (w : World) (hR : Rdy w) (h1 : F1.size ≤ 300) (h2 : F2.size ≤ 300) : Calls Tryd.prog 5 #[.agg #[.string F1, .string F2, .bool F3]] w (Yes w) := by
  have HR := Lib.hid fun (w' : World) (hb : Below w.heap.size w w') => hR.below hb
  have hb0 : Below w.heap.size w (w.alloc (.cells #[.string F1, .string F2, .bool F3] 52)) := (Below.refl _ _).alloc (Nat.le_refl _) _
  have hh0 : (w.alloc (.cells #[.string F1, .string F2, .bool F3] 52)).heap[w.heap.size]? = some (.cells #[.string F1, .string F2, .bool F3] 52 (0, 0)) := heap_alloc_new w _
  obtain ⟨g, hg⟩ : ∃ g, g = w.heap.size := ⟨_, rfl⟩
  obtain ⟨w0, hw0⟩ : ∃ W, W = w.alloc (.cells #[.string F1, .string F2, .bool F3] 52) := ⟨_, rfl⟩
  rw [← hw0] at hb0 hh0
  rw [← hg] at hh0
  have HFI := Lib.hid (first9_any w0 (HR.out w0 hb0))
  have HB0 := Lib.hid hb0
  have HH0 := Lib.hid hh0
  have HG := Lib.hid hg
  have HW0 := Lib.hid hw0
  obtain ⟨A1, C3, x, y, T, eA, hA1, hA9, eB, hx1, hx2, eC, hC1, hy, hT⟩ := short_enc F1 F2 h1 h2
  have htot : F1.size + F2.size + 32 ≤ 700 := by omega
  obtain ⟨nl, hnl⟩ : ∃ n, n = F1.size := ⟨_, rfl⟩
  obtain ⟨vl, hvl⟩ : ∃ n, n = F2.size := ⟨_, rfl⟩
  have sn : F1.size = nl := hnl.symm
  have sv : F2.size = vl := hvl.symm
  have HTOT := Lib.hid htot
  rw [sn] at h1 hA9
  rw [sv] at h2 hA9
  have c1 : ¬ (300 : Int) < (nl : Int) := by omega
  have c2 : ¬ (300 : Int) < (vl : Int) := by omega
  have HSN := Lib.hid sn
  have HSV := Lib.hid sv
  have HEA := Lib.hid eA
  have HEB := Lib.hid eB
  have HEC := Lib.hid eC
  clear hR hb0 hh0 hg hw0 hnl hvl eA eB eC htot
  go_enter Tryd.func5, Tryd.ntmps5
  go_wp2_with fail
  rw [← HW0.out, ← HG.out]
  with_reducible refine (HFI.out).mono ?_
  rintro e w1 ⟨rfl, hb1⟩
  have hh1 : w1.heap[g]? = some (.cells #[.string F1, .string F2, .bool F3] 52 (0, 0)) := (hb1.block g (lt_of_heap HH0.out)).trans HH0.out
  have x0 : w1.cell? ⟨g, 0, none⟩ = some (.string F1) := cell_of_row _ g 0 _ 52 _ hh1
  have x1 : w1.cell? ⟨g, 1, none⟩ = some (.string F2) := cell_of_row _ g 1 _ 52 _ hh1
  have hbw1 := HB0.out.trans (hb1.mono HB0.out.size)
  have HN := Lib.hid (HasQ.new (HR.out _ hbw1) hbw1)
  have HH1 := Lib.hid hh1
  clear hb1 hh1 hbw1 HFI HH0
  go_wp2_with fail
  with_reducible refine (HN.out).mono ?_
  rintro e w2 ⟨p, t, rfl, hH2, hb2⟩
  have hgl1 := lt_of_heap HH1.out
  have hh2 : w2.heap[g]? = some (.cells #[.string F1, .string F2, .bool F3] 52 (0, 0)) := (hb2.block g hgl1).trans HH1.out
  have HH2 := Lib.hid hh2
  have HHQ := Lib.hid (hH2.less (X' := fun x => x = g) (fun x hx => by subst hx; exact hgl1))
  have HTB := Lib.hid (hH2.table (HR.out _ hH2.below))
  clear hb2 hh2 hH2 HN hgl1 x0 x1
  go_wp2_with fail
  with_reducible refine (HTB.out).mono ?_
  rintro e w3 ⟨rfl, _, hb3⟩
  have hgl2 := lt_of_heap HH2.out
  have hgw : w.heap.size ≤ g := by have := HG.out; omega
  have hh3 : w3.heap[g]? = some (.cells #[.string F1, .string F2, .bool F3] 52 (0, 0)) := (hb3.block g hgl2).trans HH2.out
  have z0 : w3.cell? ⟨g, 0, none⟩ = some (.string F1) := cell_of_row _ g 0 _ 52 _ hh3
  have z1 : w3.cell? ⟨g, 1, none⟩ = some (.string F2) := cell_of_row _ g 1 _ 52 _ hh3
  have z2 : w3.cell? ⟨g, 2, none⟩ = some (.bool F3) := cell_of_row _ g 2 _ 52 _ hh3
  have fz2 : w3.frozen? ⟨g, 2, none⟩ = false := frozen_of_row w3 g 2 _ 52 hh3
  obtain ⟨gn, hgn⟩ : ∃ k, k = w3.heap.size := ⟨_, rfl⟩
  have hgne : g ≠ gn := by have := lt_of_heap hh3; omega
  have hwn : w.heap.size ≤ gn := by have := lt_of_heap hh3; omega
  -- behind the two stores
  obtain ⟨w5, hw5⟩ : ∃ W, W = ((w3.alloc (.cells #[.string F1, .string F2, .bool F3] 52)).setCell ⟨g, 2, none⟩ (.bool false)).setCell ⟨gn, 2, none⟩ (.bool true) := ⟨_, rfl⟩
  have hba : Below w3.heap.size w3 (w3.alloc (.cells #[.string F1, .string F2, .bool F3] 52)) := (Below.refl _ _).alloc (Nat.le_refl _) _
  have hha : (w3.alloc (.cells #[.string F1, .string F2, .bool F3] 52)).heap[g]? = some (.cells #[.string F1, .string F2, .bool F3] 52 (0, 0)) := (hba.block g (lt_of_heap hh3)).trans hh3
  have hna : (w3.alloc (.cells #[.string F1, .string F2, .bool F3] 52)).heap[gn]? = some (.cells #[.string F1, .string F2, .bool F3] 52 (0, 0)) := by rw [hgn]; exact heap_alloc_new w3 _
  have hk4 : Keeps (fun x => x = g) (w3.alloc (.cells #[.string F1, .string F2, .bool F3] 52)) ((w3.alloc (.cells #[.string F1, .string F2, .bool F3] 52)).setCell ⟨g, 2, none⟩ (.bool false)) := (Keeps.refl (fun x => x = g) _).setCell (S := fun x => x = g) (p := ⟨g, 2, none⟩) rfl _
  have hhb : ((w3.alloc (.cells #[.string F1, .string F2, .bool F3] 52)).setCell ⟨g, 2, none⟩ (.bool false)).heap[g]? = some (.cells #[.string F1, .string F2, .bool false] 52 (0, 0)) := by
    have := heap_setCell_same _ g 2 _ 52 (.bool false) hha
    simpa using this
  have hnb : ((w3.alloc (.cells #[.string F1, .string F2, .bool F3] 52)).setCell ⟨g, 2, none⟩ (.bool false)).heap[gn]? = some (.cells #[.string F1, .string F2, .bool F3] 52 (0, 0)) := (hk4.block gn (lt_of_heap hna) (fun e => hgne e.symm)).trans hna
  have hk5 : Keeps (fun x => x = gn) ((w3.alloc (.cells #[.string F1, .string F2, .bool F3] 52)).setCell ⟨g, 2, none⟩ (.bool false)) w5 := by rw [hw5]; exact (Keeps.refl (fun x => x = gn) _).setCell (S := fun x => x = gn) (p := ⟨gn, 2, none⟩) rfl _
  have hh5 : w5.heap[g]? = some (.cells #[.string F1, .string F2, .bool false] 52 (0, 0)) := (hk5.block g (lt_of_heap hhb) hgne).trans hhb
  have hn5 : w5.heap[gn]? = some (.cells #[.string F1, .string F2, .bool true] 52 (0, 0)) := by
    rw [hw5]
    have := heap_setCell_same _ gn 2 _ 52 (.bool true) hnb
    simpa using this
  have hH4 := (HHQ.out.quiet hb3).more hba
  have hH5 : HasQ w (fun x => x = g ∨ x = gn) p t EncS.new w5 := by
    refine HasQ.less ((hH4.touch hk4 (.inl rfl) hgw).touch hk5 (.inr ⟨by omega, by rw [hgn]; simp⟩) hwn) (fun x hx => ?_)
    rcases hx with rfl | rfl
    · exact .inl rfl
    · exact .inr ⟨by omega, by rw [hgn]; simp⟩
  have HW5 := Lib.hid hw5
  have HH5 := Lib.hid hh5
  have HN5 := Lib.hid hn5
  have HQ5 := Lib.hid hH5
  have HGN := Lib.hid hgn
  have a2 : (w3.alloc (.cells #[.string F1, .string F2, .bool F3] 52)).frozen? ⟨gn, 2, none⟩ = false := frozen_of_row _ gn 2 _ 52 hna
  have a3 : (w3.alloc (.cells #[.string F1, .string F2, .bool F3] 52)).cell? ⟨gn, 2, none⟩ = some (.bool F3) := cell_of_row _ gn 2 _ 52 _ hna
  rw [hgn] at a2 a3
  have d0 : (w3.alloc (.cells #[.string F1, .string F2, .bool F3] 52)).cell? ⟨g, 0, none⟩ = some (.string F1) := cell_of_row _ g 0 _ 52 _ hha
  have d1 : (w3.alloc (.cells #[.string F1, .string F2, .bool F3] 52)).cell? ⟨g, 1, none⟩ = some (.string F2) := cell_of_row _ g 1 _ 52 _ hha
  have d2 : (w3.alloc (.cells #[.string F1, .string F2, .bool F3] 52)).cell? ⟨g, 2, none⟩ = some (.bool F3) := cell_of_row _ g 2 _ 52 _ hha
  have d3 : (w3.alloc (.cells #[.string F1, .string F2, .bool F3] 52)).frozen? ⟨g, 2, none⟩ = false := frozen_of_row _ g 2 _ 52 hha
  have hgne' : ¬ g = w3.heap.size := fun e => hgne (e.trans hgn.symm)
  have hgne2 : ¬ w3.heap.size = g := fun e => hgne' e.symm
  have hs5 : w5.heap.size = gn + 1 := by rw [hw5, hgn]; simp
  have HS5 := Lib.hid hs5
  have hbl : Below w5.heap.size w5 (w5.alloc (.cells #[.string F1, .string F2, .bool false] 52)) := (Below.refl _ _).alloc (Nat.le_refl _) _
  have hH6 := hH5.more hbl
  have hD := hH6.enc (HR.out _ hH6.below) (some ⟨w5.heap.size, 0, none⟩) [⟨F1, F2, false⟩] 1 1 (atF_lit w5 [⟨F1, F2, false⟩]) rfl (fun h => by cases h) (Nat.le_refl _) (fun _ a ha => by injection ha with ha; subst ha; exact .inr ⟨Nat.le_refl _, by simp⟩) (by have := HTOT.out; simp only [tot, fsize]; omega)
  rw [HEA.out, hs5] at hD
  obtain ⟨m1, hm1⟩ : ∃ m, m = A1.length := ⟨_, rfl⟩
  simp only [← hm1] at hD
  rw [← hm1] at hA1 hA9
  have HD1 := Lib.hid hD
  have HCE := Lib.hid fun (W : World) (hk : ∀ z, z = g ∨ z = gn → W.heap[z]? = (w5.alloc (.cells #[.string F1, .string F2, .bool false] 52)).heap[z]?) => (show W.heap[g]? = some (.cells #[.string F1, .string F2, .bool false] 52 (0, 0)) ∧ W.heap[gn]? = some (.cells #[.string F1, .string F2, .bool true] 52 (0, 0)) from ⟨(hk g (.inl rfl)).trans ((hbl.block g (lt_of_heap hh5)).trans hh5), (hk gn (.inr rfl)).trans ((hbl.block gn (lt_of_heap hn5)).trans hn5)⟩)
  clear hb3 hh3 hba hha hna hk4 hhb hnb hk5 hh5 hn5 hH4 hH5 HHQ HTB HH2 HH1 hgl2 hw5 hgn hbl hH6 hD hm1 hs5 hgne
  go_wp2_with fail
  rw [← HGN.out]
  rw [← HW5.out]
  with_reducible refine (HD1.out).mono ?_
  rintro e w6 ⟨A6, c6, rfl, hH6, ho6⟩
  obtain ⟨hh6, hn6⟩ := HCE.out w6 (fun z hz => ho6.kept z (.inl hz))
  have y0 : w6.cell? ⟨g, 0, none⟩ = some (.string F1) := cell_of_row _ g 0 _ 52 _ hh6
  have y1 : w6.cell? ⟨g, 1, none⟩ = some (.string F2) := cell_of_row _ g 1 _ 52 _ hh6
  have y2 : w6.cell? ⟨g, 2, none⟩ = some (.bool false) := cell_of_row _ g 2 _ 52 _ hh6
  have hbl : Below w6.heap.size w6 (w6.alloc (.cells #[.string F1, .string F2, .bool false] 52)) := (Below.refl _ _).alloc (Nat.le_refl _) _
  have hH6' : HasQ w (fun x => x = g ∨ x = gn) p t ⟨4096, T, 4096, 0, false⟩ w6 := hH6.less (fun x hx => .inl (.inl hx))
  have hH7 := hH6'.more hbl
  have hD := hH7.enc (HR.out _ hH7.below) (some ⟨w6.heap.size, 0, none⟩) [⟨F1, F2, false⟩] 1 1 (atF_lit w6 [⟨F1, F2, false⟩]) rfl (fun h => by cases h) (Nat.le_refl _) (fun _ a ha => by injection ha with ha; subst ha; exact .inr ⟨Nat.le_refl _, by simp⟩) (by have := HTOT.out; simp only [tot, fsize]; omega)
  rw [HEB.out] at hD
  simp only [List.length_cons, List.length_nil] at hD
  have HD2 := Lib.hid hD
  have HCE2 := Lib.hid fun (W : World) (hk : ∀ z, z = g ∨ z = gn → W.heap[z]? = (w6.alloc (.cells #[.string F1, .string F2, .bool false] 52)).heap[z]?) => (show W.heap[g]? = some (.cells #[.string F1, .string F2, .bool false] 52 (0, 0)) ∧ W.heap[gn]? = some (.cells #[.string F1, .string F2, .bool true] 52 (0, 0)) from ⟨(hk g (.inl rfl)).trans ((hbl.block g (lt_of_heap hh6)).trans hh6), (hk gn (.inr rfl)).trans ((hbl.block gn (lt_of_heap hn6)).trans hn6)⟩)
  clear hh6 hn6 hbl hH6 hH6' hH7 hD ho6 HCE HD1 z0 z1 z2 fz2 a2 a3 d0 d1 d2 d3
  go_wp2_with fail
  with_reducible refine (HD2.out).mono ?_
  rintro e w7 ⟨A7, c7, rfl, hH7, ho7⟩
  obtain ⟨hh7, hn7⟩ := HCE2.out w7 (fun z hz => ho7.kept z (.inl hz))
  obtain ⟨b7, o7, rfl, hb7, hc7⟩ := ho7.at' (by simp)
  have k7 : w7.cell? ⟨b7, o7, none⟩ = some (.int .u8 (x : Int)) := by
    have := hc7 0 (by simp)
    simpa using this
  have hH7' : HasQ w (fun z => z = g ∨ z = gn ∨ z = b7) p t ⟨4096, T, 4096, 0, false⟩ w7 := hH7.less (fun z hz => by
    rcases hz with rfl | rfl | rfl
    · exact .inl (.inl (.inl rfl))
    · exact .inl (.inl (.inr rfl))
    · exact .inr ⟨hb7, _, _, rfl⟩)
  have HTB := Lib.hid (hH7'.table (HR.out _ hH7'.below))
  have HK7 : Hid (w7.heap[g]? = some (.cells #[.string F1, .string F2, .bool false] 52 (0, 0)) ∧ w7.heap[gn]? = some (.cells #[.string F1, .string F2, .bool true] 52 (0, 0)) ∧ w7.cell? ⟨b7, o7, none⟩ = some (.int .u8 (x : Int))) := Lib.hid ⟨hh7, hn7, k7⟩
  clear hh7 hn7 k7 hc7 ho7 hH7 hH7' HCE2 HD2 y0 y1 y2 hb7
  go_wp2_with fail
  with_reducible refine (HTB.out).mono ?_
  rintro e w8 ⟨rfl, hH8, hb8⟩
  have HLN := Lib.hid (hH8.len (HR.out _ hH8.below))
  have HH8 := Lib.hid hH8
  have HK8 : Hid (w8.heap[g]? = some (.cells #[.string F1, .string F2, .bool false] 52 (0, 0)) ∧ w8.heap[gn]? = some (.cells #[.string F1, .string F2, .bool true] 52 (0, 0)) ∧ w8.cell? ⟨b7, o7, none⟩ = some (.int .u8 (x : Int))) := Lib.hid (by
    obtain ⟨k1, k2, k3⟩ := HK7.out
    exact ⟨(hb8.block g (lt_of_heap k1)).trans k1, (hb8.block gn (lt_of_heap k2)).trans k2, (hb8.cell (p := ⟨b7, o7, none⟩) (World.block_lt_of_cell? w7 _ k3)).trans k3⟩)
  clear hb8 HTB hH8 HK7
  go_wp2_with fail
  with_reducible refine (HLN.out).mono ?_
  rintro e w9 ⟨rfl, hb9⟩
  obtain ⟨k1, k2, k3⟩ := HK8.out
  have hn9 : w9.heap[gn]? = some (.cells #[.string F1, .string F2, .bool true] 52 (0, 0)) := (hb9.block gn (lt_of_heap k2)).trans k2
  have hh9 : w9.heap[g]? = some (.cells #[.string F1, .string F2, .bool false] 52 (0, 0)) := (hb9.block g (lt_of_heap k1)).trans k1
  have hk9 : w9.cell? ⟨b7, o7, none⟩ = some (.int .u8 (x : Int)) := (hb9.cell (p := ⟨b7, o7, none⟩) (World.block_lt_of_cell? w8 _ k3)).trans k3
  have y0 : w9.cell? ⟨gn, 0, none⟩ = some (.string F1) := cell_of_row _ gn 0 _ 52 _ hn9
  have y1 : w9.cell? ⟨gn, 1, none⟩ = some (.string F2) := cell_of_row _ gn 1 _ 52 _ hn9
  have y2 : w9.cell? ⟨gn, 2, none⟩ = some (.bool true) := cell_of_row _ gn 2 _ 52 _ hn9
  have hH9 := HH8.out.quiet hb9
  have hbl : Below w9.heap.size w9 (w9.alloc (.cells #[.string F1, .string F2, .bool true, .string F1, .string F2, .bool true] 52)) := (Below.refl _ _).alloc (Nat.le_refl _) _
  have hH10 := hH9.more hbl
  have hD := hH10.enc (HR.out _ hH10.below) (some ⟨w9.heap.size, 0, none⟩) [⟨F1, F2, true⟩, ⟨F1, F2, true⟩] 2 2 (atF_lit w9 [⟨F1, F2, true⟩, ⟨F1, F2, true⟩]) rfl (fun h => by cases h) (Nat.le_refl _) (fun _ a ha => by injection ha with ha; subst ha; exact .inr ⟨Nat.le_refl _, by simp⟩) (by have := HTOT.out; simp only [tot, fsize]; omega)
  rw [HEC.out] at hD
  obtain ⟨m3, hm3⟩ : ∃ m, m = C3.length := ⟨_, rfl⟩
  simp only [List.length_cons, ← hm3] at hD
  rw [← hm3] at hC1
  have HD3 := Lib.hid hD
  have HCE3 := Lib.hid fun (W : World) (hk : ∀ z, z = g ∨ z = gn ∨ z = b7 → W.heap[z]? = (w9.alloc (.cells #[.string F1, .string F2, .bool true, .string F1, .string F2, .bool true] 52)).heap[z]?) => (show W.heap[g]? = some (.cells #[.string F1, .string F2, .bool false] 52 (0, 0)) ∧ W.cell? ⟨b7, o7, none⟩ = some (.int .u8 (x : Int)) from ⟨(hk g (.inl rfl)).trans ((hbl.block g (lt_of_heap hh9)).trans hh9), (World.cell?_of_block (a := ⟨b7, o7, none⟩) (hk b7 (.inr (.inr rfl)))).trans ((hbl.cell (p := ⟨b7, o7, none⟩) (World.block_lt_of_cell? w9 _ hk9)).trans hk9)⟩)
  clear hb9 k1 k2 k3 hn9 hh9 hk9 hH9 hbl hH10 hD hm3 HK8 HH8 HLN
  go_wp2_with fail
  with_reducible refine (HD3.out).mono ?_
  rintro e w10 ⟨A10, c10, rfl, hH10, ho10⟩
  obtain ⟨hh10, hk10⟩ := HCE3.out w10 (fun z hz => ho10.kept z (.inl hz))
  obtain ⟨b10, o10, rfl, hb10, hc10⟩ := ho10.at' (by simp)
  have k10 : w10.cell? ⟨b10, o10, none⟩ = some (.int .u8 (y : Int)) := by
    have := hc10 0 (by simp)
    simpa using this
  have hH10' : HasQ w (fun z => z = b7) p t ⟨4096, T, 4096, 0, false⟩ w10 := hH10.less (fun z hz => .inl (.inl (.inr (.inr hz))))
  have u0 : w10.cell? ⟨g, 0, none⟩ = some (.string F1) := cell_of_row _ g 0 _ 52 _ hh10
  have u1 : w10.cell? ⟨g, 1, none⟩ = some (.string F2) := cell_of_row _ g 1 _ 52 _ hh10
  have HF2 := Lib.hid (first9_any w10 (HR.out _ hH10'.below))
  have HH10 := Lib.hid hH10'
  have HK10 : Hid (w10.cell? ⟨b7, o7, none⟩ = some (.int .u8 (x : Int)) ∧ w10.cell? ⟨b10, o10, none⟩ = some (.int .u8 (y : Int))) := Lib.hid ⟨hk10, k10⟩
  have l1 : ¬ (m1 : Int) < 1 := by omega
  have l2 : ¬ (nl : Int) + (vl : Int) + 9 < (m1 : Int) := by omega
  clear hh10 hk10 k10 hc10 ho10 hH10 hH10' HCE3 HD3 y0 y1 y2 hb10
  go_wp2_with fail
  with_reducible refine (HF2.out).mono ?_
  rintro e w11 ⟨rfl, hb11⟩
  have e11 : w11.cell? ⟨b7, o7, none⟩ = some (.int .u8 (x : Int)) := (hb11.cell (p := ⟨b7, o7, none⟩) (World.block_lt_of_cell? w10 _ HK10.out.1)).trans HK10.out.1
  have hH11 := HH10.out.quiet hb11
  have HTB := Lib.hid (hH11.table (HR.out _ hH11.below))
  have HE11 := Lib.hid e11
  have HY11 := Lib.hid ((hb11.cell (p := ⟨b10, o10, none⟩) (World.block_lt_of_cell? w10 _ HK10.out.2)).trans HK10.out.2)
  have p1 : (128 : Int) ≤ (x : Int) := by omega
  have p2 : decide ((128 : Int) ≤ (x : Int)) = true := decide_eq_true p1
  clear hb11 hH11 HF2 HH10 HK10 u0 u1
  go_wp2_with fail
  with_reducible refine (HTB.out).mono ?_
  rintro e w12 ⟨rfl, hH12, hb12⟩
  have HLN := Lib.hid (hH12.len (HR.out _ hH12.below))
  have HY12 := Lib.hid ((hb12.cell (p := ⟨b10, o10, none⟩) (World.block_lt_of_cell? w11 _ HY11.out)).trans HY11.out)
  have HH12 := Lib.hid hH12
  clear hb12 hH12 HTB e11 HE11 HY11
  go_wp2_with fail
  with_reducible refine (HLN.out).mono ?_
  rintro e w13 ⟨rfl, hb13⟩
  have k13 : w13.cell? ⟨b10, o10, none⟩ = some (.int .u8 (y : Int)) := (hb13.cell (p := ⟨b10, o10, none⟩) (World.block_lt_of_cell? w12 _ HY12.out)).trans HY12.out
  have hZ := (HH12.out.quiet hb13).below
  have l3 : (2 : Int) ≤ ((m3 + 1 : Nat) : Int) := by omega
  have l4 : (0 : Int) < ((m3 + 1 : Nat) : Int) := by omega
  have q16 : ((y : Int) / 16 == 1) = true := by
    have : (y : Int) / 16 = 1 := by omega
    rw [this]
    rfl
  clear hb13 HH12 HLN HY12
  go_wp2
  go_ret
  exact ⟨rfl, hZ⟩
set_option maxRecDepth 100000 in
set_option maxHeartbeats 8000000 in
theorem walk_not (F1 F2 : ByteArray) (F3 : Bool) (w : World) (hR : Rdy w) (h1 : F1.size ≤ maxLen) (h2 : F2.size ≤ maxLen) (ho : ¬ (F1.size ≤ 300 ∧ F2.size ≤ 300)) : Calls Tryd.prog 5 #[.agg #[.string F1, .string F2, .bool F3]] w (Yes w) := by
  have HR := Lib.hid fun (w' : World) (hb : Below w.heap.size w w') => hR.below hb
  have hb0 : Below w.heap.size w (w.alloc (.cells #[.string F1, .string F2, .bool F3] 52)) := (Below.refl _ _).alloc (Nat.le_refl _) _
  have hh0 : (w.alloc (.cells #[.string F1, .string F2, .bool F3] 52)).heap[w.heap.size]? = some (.cells #[.string F1, .string F2, .bool F3] 52 (0, 0)) := heap_alloc_new w _
  obtain ⟨g, hg⟩ : ∃ g, g = w.heap.size := ⟨_, rfl⟩
  obtain ⟨w0, hw0⟩ : ∃ W, W = w.alloc (.cells #[.string F1, .string F2, .bool F3] 52) := ⟨_, rfl⟩
  rw [← hw0] at hb0 hh0
  rw [← hg] at hh0
  have HFI := Lib.hid (first9_any w0 (HR.out w0 hb0))
  have HB0 := Lib.hid hb0
  have HH0 := Lib.hid hh0
  have HG := Lib.hid hg
  have HW0 := Lib.hid hw0
  obtain ⟨nl, hnl⟩ : ∃ n, n = F1.size := ⟨_, rfl⟩
  obtain ⟨vl, hvl⟩ : ∃ n, n = F2.size := ⟨_, rfl⟩
  have sn : F1.size = nl := hnl.symm
  have sv : F2.size = vl := hvl.symm
  unfold maxLen at h1 h2
  rw [sn] at h1 ho
  rw [sv] at h2 ho
  clear hR hb0 hh0 hg hw0 hnl hvl
  rcases (show (300 : Int) < (nl : Int) ∨ (¬ (300 : Int) < (nl : Int) ∧ (300 : Int) < (vl : Int)) by omega) with c1 | ⟨c1, c2⟩
  all_goals
    clear ho
    go_enter Tryd.func5, Tryd.ntmps5
    go_wp2_with fail
    rw [← HW0.out, ← HG.out]
    with_reducible refine (HFI.out).mono ?_
    rintro e w1 ⟨rfl, hb1⟩
    have hh1 : w1.heap[g]? = some (.cells #[.string F1, .string F2, .bool F3] 52 (0, 0)) := (hb1.block g (lt_of_heap HH0.out)).trans HH0.out
    have x0 : w1.cell? ⟨g, 0, none⟩ = some (.string F1) := cell_of_row _ g 0 _ 52 _ hh1
    have x1 : w1.cell? ⟨g, 1, none⟩ = some (.string F2) := cell_of_row _ g 1 _ 52 _ hh1
    have hbw1 := HB0.out.trans (hb1.mono HB0.out.size)
    have HF2 := Lib.hid (first9_any w1 (HR.out _ hbw1))
    have HBW := Lib.hid hbw1
    clear hb1 hh1 hbw1
    go_wp2_with fail
    with_reducible refine (HF2.out).mono ?_
    rintro e w2 ⟨rfl, hb2⟩
    have hZ := HBW.out.trans (hb2.mono HBW.out.size)
    clear x0 x1 hb2
    go_wp2
    go_ret
    exact ⟨rfl, hZ⟩
theorem walk (F1 F2 : ByteArray) (F3 : Bool) (w : World) (hR : Rdy w) (h1 : F1.size ≤ maxLen) (h2 : F2.size ≤ maxLen) : Calls Tryd.prog 5 #[.agg #[.string F1, .string F2, .bool F3]] w (Yes w) := by
  by_cases h : F1.size ≤ 300 ∧ F2.size ≤ 300
  · exact walk_in F1 F2 F3 w hR h.1 h.2
  · exact walk_not F1 F2 F3 w hR h1 h2 h
end packShort
end Go.Proofs.YtiandidencnlcaaDoor
