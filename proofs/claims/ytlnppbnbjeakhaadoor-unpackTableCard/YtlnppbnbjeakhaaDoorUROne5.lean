/- Contract of the reference's one: a literal that is added. -/
import Derived.Test.YtlnppbnbjeakhaaDoorUROne4
namespace Go.Proofs.YtlnppbnbjeakhaaDoor
open Go.RowKit

set_option maxRecDepth 100000 in
set_option maxHeartbeats 8000000 in
theorem rone_add (A : Option Addr) (b : List Nat) (n c k y : Nat) (w : World) (S : Nat → Prop) (p q m : Nat) (L : List Fld) (dead : Bool) (hR : RD w S p q m L dead) (hA : At .u8 w w.heap.size A b) (hb : ∀ x ∈ b, x < 256) (hl : b.length = n) (hnc : n ≤ c) (hn : n ≤ 100000) (hk : k < n) (hy : b[k]? = some y) (hy64 : 64 ≤ y ∧ y < 128) :
    Calls Tryd.prog 28 #[.pointer (some ⟨p, 0, none⟩), .slice A n c, .int .i64 (k : Int)] w (OnPost S w p q dead (uone b k m L)) := by
  have hkl : k < b.length := by omega
  have hye : y = b[k] := by rw [List.getElem?_eq_getElem hkl] at hy; injection hy with hy; exact hy.symm
  have hgd : b.getD k 0 = y := by rw [List.getD, hy]; rfl
  have hy256 : y < 256 := by rw [hye]; exact hb _ (List.getElem_mem _)
  have hbt : ubits y = 6 := by unfold ubits; repeat (first | rw [if_pos (by omega)] | rw [if_neg (by omega)])
  obtain ⟨G, hG⟩ : ∃ G, G = Pn.getI (b.drop k) 6 := ⟨_, rfl⟩
  have HO : Hid (uone b k m L = uoneG b k m L y G.1 G.2.1 G.2.2) := Lib.hid (by rw [uone, hgd, hbt, hG]; rfl)
  obtain ⟨r, hr⟩ : ∃ r, r = n - k := ⟨_, rfl⟩
  obtain ⟨A2, hA2⟩ : ∃ A2, A2 = cutAt A c k := ⟨_, rfl⟩
  have hsl := fun (W : World) => slice_l A n c k r W (by omega) hr.symm
  rw [← hA2] at hsl
  obtain ⟨wa, hwa⟩ : ∃ wa, wa = (w.alloc (.cells #[.string ⟨#[]⟩, .string ⟨#[]⟩, .bool false] 44)).alloc (.cells #[.string ⟨#[]⟩, .string ⟨#[]⟩, .bool false] 44) := ⟨_, rfl⟩
  have hb0 : Below w.heap.size w (w.alloc (.cells #[.string ⟨#[]⟩, .string ⟨#[]⟩, .bool false] 44)) := (Below.refl _ _).alloc (Nat.le_refl _) _
  have hba : Below w.heap.size w wa := by rw [hwa]; exact hb0.alloc hb0.size _
  obtain ⟨g6, hg6⟩ : ∃ g, g = w.heap.size := ⟨_, rfl⟩
  obtain ⟨g10, hg10⟩ : ∃ g, g = (w.alloc (.cells #[.string ⟨#[]⟩, .string ⟨#[]⟩, .bool false] 44)).heap.size := ⟨_, rfl⟩
  have hg10w : g10 = g6 + 1 := by rw [hg10, hg6]; simp
  have hwas : wa.heap.size = g6 + 2 := by rw [hwa, hg6]; simp
  have hh10 : wa.heap[g10]? = some (.cells #[.string ⟨#[]⟩, .string ⟨#[]⟩, .bool false] 44) := by rw [hwa, hg10]; exact heap_alloc_new _ _
  have hh6 : wa.heap[g6]? = some (.cells #[.string ⟨#[]⟩, .string ⟨#[]⟩, .bool false] 44) := by
    have h1 : Below (w.heap.size + 1) (w.alloc (.cells #[.string ⟨#[]⟩, .string ⟨#[]⟩, .bool false] 44)) wa := by rw [hwa]; exact (Below.refl _ _).alloc (by simp) _
    rw [h1.block g6 (by omega), hg6]
    exact heap_alloc_new w _
  have HG6 := Lib.hid fun (W : World) (hB : Below wa.heap.size wa W) => (hB.block g6 (by omega)).trans hh6
  have HG10 := Lib.hid fun (W : World) (hB : Below wa.heap.size wa W) => (hB.block g10 (by omega)).trans hh10
  have HGB : Hid (w.heap.size ≤ g6) := Lib.hid (by omega)
  have HWS := Lib.hid hwas
  have HGW := Lib.hid hg6
  have HBA := Lib.hid hba
  have HGET := rget_any A2 (b.drop k) r (c - k) 6 wa (by rw [hA2]; exact (hA.up hba).drop (by omega)) (fun x hx => hb x (List.mem_of_mem_drop hx)) (by rw [List.length_drop]; omega) (by omega)
  rw [← hG] at HGET
  obtain ⟨v, u, e⟩ := G
  simp only [] at HO
  have HU : Hid (e = 0 → 1 ≤ u ∧ u ≤ r ∧ v ≤ 2147483647) := Lib.hid (fun he => by
    subst he
    have := get_used (b.drop k) 6 v u (by omega) (by omega) hG.symm
    rw [List.length_drop] at this
    omega)
  rw [hwa] at HGET
  replace HGET := Lib.hid HGET
  obtain ⟨bk, o, rfl, hbk, hc⟩ := hA.pos (by omega)
  have cy : wa.cell? ⟨bk, o + k, none⟩ = some (.int .u8 (y : Int)) := by rw [hye]; exact (hba.cell (p := ⟨bk, o + k, none⟩) hbk).trans (hc k hkl)
  rw [hwa] at cy
  have HRD := Lib.hid hR
  have HA := Lib.hid hA
  have HB := Lib.hid hb
  have HL := Lib.hid hl
  have HR := Lib.hid hr
  have HWA := Lib.hid hwa
  have ki : (k : Int) < (n : Int) := by omega
  have HG10W := Lib.hid hg10w
  clear hR hA hb hl hkl hye hgd hy hbt hG hr hA2 hb0 hg10w hwas hh10 hh6 hc hba hbk
  have y1 : ¬ (128 : Int) ≤ (y : Int) := by omega
  have y2 : (64 : Int) ≤ (y : Int) := by omega
  have y3 : (32 : Int) ≤ (y : Int) := by omega
  have y4 : (16 : Int) ≤ (y : Int) := by omega
  have y5 : ¬ (y : Int) < 32 := by omega
  have y6 : ¬ (y : Int) < 64 := by omega
  have y3d : decide ((32 : Int) ≤ (y : Int)) = true := decide_eq_true y3
  have y4d : decide ((16 : Int) ≤ (y : Int)) = true := decide_eq_true y4
  have y5d : decide ((y : Int) < 32) = false := decide_eq_false y5
  have y6d : decide ((y : Int) < 64) = false := decide_eq_false y6
  have ynv : decide (16 ≤ y ∧ y < 32) = false := decide_eq_false (by omega)
  by_cases he : e = 0
  · obtain ⟨hu1, hu2, hv⟩ := HU.out he
    subst he
    obtain ⟨s, hs⟩ : ∃ s, s = k + u := ⟨_, rfl⟩
    have es : (k : Int) + (u : Int) = (s : Int) := by omega
    have hsn : s ≤ n := by have := HR.out; omega
    obtain ⟨N, hN⟩ : ∃ N, N = uname b v s L := ⟨_, rfl⟩
    have HO2 : Hid (uone b k m L = ulit b m L y N) := Lib.hid (by rw [HO.out, uoneG, if_neg (by omega), if_neg (by omega), if_neg (by omega), hN, hs])
    have HN := Lib.hid hN
    have HNE : Hid (N.2.2 = true → N.2.1 ≤ n) := Lib.hid (fun h => by rw [hN] at h ⊢; have := uname_end b v s L (by have := HL.out; omega) h; have := HL.out; omega)
    have HNS : Hid (N.1.size ≤ 16384) := Lib.hid (by rw [hN]; have := HRD.out.fits; exact uname_size b v s L (by omega))
    obtain ⟨nm, k1, ok1⟩ := N
    simp only [] at HNE HNS
    have HYNV := Lib.hid ynv
    clear hs hN ynv
    go_enter Tryd.func28, Tryd.ntmps28
    go_wp2_with fail
    with_reducible refine (HGET.out).mono ?_
    rw [← HWA.out]
    rintro e1 w1 ⟨rfl, hb1⟩
    simp only []
    rw [← hg6, ← HG10W.out]
    clear hg6 hg10 hwa
    have hbw1 := HBA.out.trans (hb1.mono HBA.out.size)
    obtain ⟨g18, hg18⟩ : ∃ g, g = w1.heap.size := ⟨_, rfl⟩
    obtain ⟨wb, hwb⟩ : ∃ wb, wb = w1.alloc (.cells #[.string ⟨#[]⟩, .string ⟨#[]⟩, .bool false] 44) := ⟨_, rfl⟩
    have hbb : Below wa.heap.size wa wb := by rw [hwb]; exact hb1.alloc hb1.size _
    have hh18 : wb.heap[g18]? = some (.cells #[.string ⟨#[]⟩, .string ⟨#[]⟩, .bool false] 44) := by rw [hwb, hg18]; exact heap_alloc_new w1 _
    have hg18a : wa.heap.size ≤ g18 := by rw [hg18]; exact hb1.size
    have HGA := Lib.hid hg18a
    have HBB := Lib.hid hbb
    have HBW := Lib.hid (HBA.out.trans (hbb.mono HBA.out.size))
    have HH18 := Lib.hid hh18
    clear hb1 hbw1 hg18a hbb hh18
    go_upto_if 89 with fail
    rw [← hg18, ← hwb]
    clear hg18 hwb cy
    go_cut [2, 19, 20, 21] (fun a o _ _ wx => LtC wa g18 nm false k1 ok1 a o wx)
    case first =>
      have hg18l : g18 < wb.heap.size := by
        rcases Nat.lt_or_ge g18 wb.heap.size with h | h
        · exact h
        · have := HH18.out; rw [Array.getElem?_eq_none h] at this; cases this
      have HGL := Lib.hid hg18l
      clear hg18l
      by_cases hv0 : 0 < v
      · have v0 : (0 : Int) < (v : Int) := by omega
        have hff := rfield_any wb S p q m v L dead (HRD.out.quiet HBW.out) hv
        obtain ⟨F, hF⟩ : ∃ F, F = ufield L (v : Int) := ⟨_, rfl⟩
        rw [← hF] at hff
        have hNN : (nm, k1, ok1) = (F.1.name, s, F.2) := by rw [HN.out, uname, if_pos hv0, hF]
        obtain ⟨⟨X, Y, Z⟩, B⟩ := F
        simp only [] at hNN
        injection hNN with n1 n2
        injection n2 with n2 n3
        subst n1 n2 n3
        replace hff := Lib.hid hff
        clear hF
        go_wp2_with fail
        with_reducible refine (hff.out).mono ?_
        rintro e2 w2 ⟨rfl, hb2⟩
        simp only []
        obtain ⟨g20, hg20⟩ : ∃ g, g = w2.heap.size := ⟨_, rfl⟩
        have hb3 : Below wb.heap.size wb (w2.alloc (.cells #[.string nm, .string Y, .bool Z] 44)) := hb2.alloc hb2.size _
        have h18 := (hb3.block g18 HGL.out).trans HH18.out
        have f18 : (w2.alloc (.cells #[.string nm, .string Y, .bool Z] 44)).frozen? ⟨g18, 0, none⟩ = false := frozen_of_row _ g18 0 _ 44 h18
        have c18 : (w2.alloc (.cells #[.string nm, .string Y, .bool Z] 44)).cell? ⟨g18, 0, none⟩ = some (.string ⟨#[]⟩) := cell_of_row _ g18 0 _ 44 _ h18
        have hZZ : LtC wa g18 nm false k1 ok1 (.int .i64 (k1 : Int)) (.bool ok1) ((w2.alloc (.cells #[.string nm, .string Y, .bool Z] 44)).setCell ⟨g18, 0, none⟩ (.string nm)) := LtC.of h18 (HBB.out.trans (hb3.mono HBB.out.size)) HGA.out
        clear hb2 hb3 h18 hg20
        go_wp2
        go_meet
        case rel => exact hZZ
      · obtain rfl : v = 0 := by omega
        have htx := rtext_any (some ⟨bk, o, none⟩) b n c s wb (HA.out.up HBW.out) HB.out HL.out hnc hn hsn
        obtain ⟨T, hT⟩ : ∃ T, T = utext b s := ⟨_, rfl⟩
        rw [← hT] at htx
        have hNN : (nm, k1, ok1) = (str T.1, T.2.1, T.2.2) := by rw [HN.out, uname, if_neg (by omega), hT]
        obtain ⟨t, k2, ok2⟩ := T
        simp only [] at hNN
        injection hNN with n1 n2
        injection n2 with n2 n3
        subst n2 n3
        replace htx := Lib.hid htx
        clear hT
        go_wp2_with fail
        with_reducible refine (htx.out).mono ?_
        rintro e2 w2 ⟨rfl, hb2⟩
        simp only []
        rw [← n1]
        have h18 := (hb2.block g18 HGL.out).trans HH18.out
        have f18 : w2.frozen? ⟨g18, 0, none⟩ = false := frozen_of_row _ g18 0 _ 44 h18
        have c18 : w2.cell? ⟨g18, 0, none⟩ = some (.string ⟨#[]⟩) := cell_of_row _ g18 0 _ 44 _ h18
        have hZZ : LtC wa g18 nm false k1 ok1 (.int .i64 (k1 : Int)) (.bool ok1) (w2.setCell ⟨g18, 0, none⟩ (.string nm)) := LtC.of h18 (HBB.out.trans (hb2.mono HBB.out.size)) HGA.out
        clear hb2 h18 n1
        go_wp2
        go_meet
        case rel => exact hZZ
    case rest =>
      obtain ⟨rfl, rfl, h18, hbc⟩ := hcut
      have hbw := HBA.out.trans (hbc.mono HBA.out.size)
      cases ok1 with
      | false =>
        have HO3 : Hid (uone b k m L = ubad m L) := Lib.hid (by rw [HO2.out, ulit, if_pos rfl])
        have h6 := HG6.out (wc) hbc
        have f0 : (wc).frozen? ⟨g6, 0, none⟩ = false := frozen_of_row _ g6 0 _ 44 h6
        have f1 : (wc).frozen? ⟨g6, 1, none⟩ = false := frozen_of_row _ g6 1 _ 44 h6
        have f2 : (wc).frozen? ⟨g6, 2, none⟩ = false := frozen_of_row _ g6 2 _ 44 h6
        have q0 : (wc).cell? ⟨g6, 0, none⟩ = some (.string ⟨#[]⟩) := cell_of_row _ g6 0 _ 44 _ h6
        have q1 : (wc).cell? ⟨g6, 1, none⟩ = some (.string ⟨#[]⟩) := cell_of_row _ g6 1 _ 44 _ h6
        have q2 : (wc).cell? ⟨g6, 2, none⟩ = some (.bool false) := cell_of_row _ g6 2 _ 44 _ h6
        have h10 := HG10.out (wc) hbc
        have z0 : (wc).cell? ⟨g10, 0, none⟩ = some (.string ⟨#[]⟩) := cell_of_row _ g10 0 _ 44 _ h10
        have z1 : (wc).cell? ⟨g10, 1, none⟩ = some (.string ⟨#[]⟩) := cell_of_row _ g10 1 _ 44 _ h10
        have z2 : (wc).cell? ⟨g10, 2, none⟩ = some (.bool false) := cell_of_row _ g10 2 _ 44 _ h10
        have hs1 := ((hbw.setCell (p := ⟨g6, 0, none⟩) HGB.out (.string ⟨#[]⟩)).setCell (p := ⟨g6, 1, none⟩) HGB.out (.string ⟨#[]⟩)).setCell (p := ⟨g6, 2, none⟩) HGB.out (.bool false)
        clear h6 h10 h18 hbc hbw
        go_wp2
        rw [HO3.out]
        refine bodyPost_ret (v := .tuple #[.agg #[.string ⟨#[]⟩, .string ⟨#[]⟩, .bool false], .int .i64 0, .bool false, .bool false]) (by simp [results, Tryd.results28, go_sem, q0, q1, q2]) rfl ⟨rfl, RDPost.of_below HRD.out hs1⟩
      | true =>
        have hk1 := HNE.out rfl
        have htx := rtext_any (some ⟨bk, o, none⟩) b n c k1 wc (HA.out.up hbw) HB.out HL.out hnc hn hk1
        obtain ⟨T, hT⟩ : ∃ T, T = utext b k1 := ⟨_, rfl⟩
        rw [← hT] at htx
        have HO3 : Hid (uone b k m L = ulit2 m L y nm T) := Lib.hid (by rw [HO2.out, ulit, if_neg (by simp), hT])
        have HTL : Hid (T.1.length ≤ 16384) := Lib.hid (by rw [hT]; exact utext_len b k1)
        obtain ⟨t, k2, ok2⟩ := T
        simp only [] at HTL
        replace htx := Lib.hid htx
        obtain ⟨V, hV⟩ : ∃ V, V = str t := ⟨_, rfl⟩
        have HV := Lib.hid hV
        have hl18 : g18 < wc.heap.size := by
          rcases Nat.lt_or_ge g18 wc.heap.size with h | h
          · exact h
          · rw [Array.getElem?_eq_none h] at h18; cases h18
        have HH := Lib.hid h18
        have HBC := Lib.hid hbc
        have HGL := Lib.hid hl18
        clear hT h18 hbc hbw hl18
        go_wp2_with fail
        with_reducible refine (htx.out).mono ?_
        rintro e2 w2 ⟨rfl, hb2⟩
        simp only []
        rw [← hV]
        clear hV htx
        have hb3 := HBC.out.trans (hb2.mono HBC.out.size)
        have h18 := (hb2.block g18 HGL.out).trans HH.out
        have f18 : w2.frozen? ⟨g18, 1, none⟩ = false := frozen_of_row _ g18 1 _ 44 h18
        have c18 : w2.cell? ⟨g18, 1, none⟩ = some (.string ⟨#[]⟩) := cell_of_row _ g18 1 _ 44 _ h18
        obtain ⟨wd, hwd⟩ : ∃ wd, wd = w2.setCell ⟨g18, 1, none⟩ (.string V) := ⟨_, rfl⟩
        have h18d : wd.heap[g18]? = some (.cells #[.string nm, .string V, .bool false] 44) := by
          rw [hwd]
          have := heap_setCell_same w2 g18 1 _ 44 (.string V) h18
          simpa using this
        have hbd : Below wa.heap.size wa wd := by rw [hwd]; exact hb3.setCell (p := ⟨g18, 1, none⟩) HGA.out _
        have hbdw := HBA.out.trans (hbd.mono HBA.out.size)
        cases ok2 with
        | false =>
          have HO4 : Hid (uone b k m L = ubad m L) := Lib.hid (by rw [HO3.out, ulit2, if_pos rfl])
          rw [hwd] at hbd hbdw
          have h6 := HG6.out (w2.setCell ⟨g18, 1, none⟩ (.string V)) hbd
          have f0 : (w2.setCell ⟨g18, 1, none⟩ (.string V)).frozen? ⟨g6, 0, none⟩ = false := frozen_of_row _ g6 0 _ 44 h6
          have f1 : (w2.setCell ⟨g18, 1, none⟩ (.string V)).frozen? ⟨g6, 1, none⟩ = false := frozen_of_row _ g6 1 _ 44 h6
          have f2 : (w2.setCell ⟨g18, 1, none⟩ (.string V)).frozen? ⟨g6, 2, none⟩ = false := frozen_of_row _ g6 2 _ 44 h6
          have q0 : (w2.setCell ⟨g18, 1, none⟩ (.string V)).cell? ⟨g6, 0, none⟩ = some (.string ⟨#[]⟩) := cell_of_row _ g6 0 _ 44 _ h6
          have q1 : (w2.setCell ⟨g18, 1, none⟩ (.string V)).cell? ⟨g6, 1, none⟩ = some (.string ⟨#[]⟩) := cell_of_row _ g6 1 _ 44 _ h6
          have q2 : (w2.setCell ⟨g18, 1, none⟩ (.string V)).cell? ⟨g6, 2, none⟩ = some (.bool false) := cell_of_row _ g6 2 _ 44 _ h6
          have h10 := HG10.out (w2.setCell ⟨g18, 1, none⟩ (.string V)) hbd
          have z0 : (w2.setCell ⟨g18, 1, none⟩ (.string V)).cell? ⟨g10, 0, none⟩ = some (.string ⟨#[]⟩) := cell_of_row _ g10 0 _ 44 _ h10
          have z1 : (w2.setCell ⟨g18, 1, none⟩ (.string V)).cell? ⟨g10, 1, none⟩ = some (.string ⟨#[]⟩) := cell_of_row _ g10 1 _ 44 _ h10
          have z2 : (w2.setCell ⟨g18, 1, none⟩ (.string V)).cell? ⟨g10, 2, none⟩ = some (.bool false) := cell_of_row _ g10 2 _ 44 _ h10
          have hs1 := ((hbdw.setCell (p := ⟨g6, 0, none⟩) HGB.out (.string ⟨#[]⟩)).setCell (p := ⟨g6, 1, none⟩) HGB.out (.string ⟨#[]⟩)).setCell (p := ⟨g6, 2, none⟩) HGB.out (.bool false)
          clear h6 h10 h18 h18d hbd hbdw hb3 hb2 hwd
          go_wp2
          rw [HO4.out]
          refine bodyPost_ret (v := .tuple #[.agg #[.string ⟨#[]⟩, .string ⟨#[]⟩, .bool false], .int .i64 0, .bool false, .bool false]) (by simp [results, Tryd.results28, go_sem, q0, q1, q2]) rfl ⟨rfl, RDPost.of_below HRD.out hs1⟩
        | true =>
          have HO4 : Hid (uone b k m L = ⟨⟨nm, V, false⟩, k2, false, true, m, addL m ⟨nm, V, false⟩ L⟩) := Lib.hid (by rw [HO3.out, ulit2, if_neg (by simp)]; simp only [HYNV.out, ← HV.out]; rw [if_pos (by omega)])
          have HVS : Hid (V.size ≤ 16384) := Lib.hid (by rw [HV.out, str_size]; exact HTL.out)
          clear hb3 h18
          obtain ⟨S1, hh, hT, hn1, hS, hp, hm⟩ := HRD.out
          have hbe : Below w.heap.size w wd.drew := hbdw.drew
          have hbe2 : Below wa.heap.size wa wd.drew := hbd.drew
          have HAD := Lib.hid (radd_any wd.drew S1 q m L ⟨nm, V, false⟩ (hT.keep (S' := fun _ => False) (Keeps.of_below hbe) (fun _ _ h => h)) (by omega) (by unfold fsize; have := HNS.out; have := HVS.out; simp only []; omega))
          have x0 : wd.cell? ⟨p, 0, none⟩ = some (.pointer (some ⟨q, 0, none⟩)) := (HRD.out.quiet hbdw).cell0
          have y0 : wd.cell? ⟨g18, 0, none⟩ = some (.string nm) := cell_of_row _ g18 0 _ 44 _ h18d
          have y1' : wd.cell? ⟨g18, 1, none⟩ = some (.string V) := cell_of_row _ g18 1 _ 44 _ h18d
          have y2' : wd.cell? ⟨g18, 2, none⟩ = some (.bool false) := cell_of_row _ g18 2 _ 44 _ h18d
          have HFIN := Lib.hid fun (w3 w4 : World) (hP : TPost S1 wd.drew q m (addL m ⟨nm, V, false⟩ L) w3) (hk : Keeps (fun x => w.heap.size ≤ x ∧ x < wd.drew.heap.size) w3 w4) => RDPost.table (dead := dead) hh hT hn1 hS hp ⟨fit_tot m _, hm.2⟩ hbe hP hk
          have hwsz := HBA.out.size
          have HN6 : Hid (¬ S1 g6 ∧ ¬ S1 g18) := Lib.hid ⟨fun h => by have := hT.low g6 h; have := HGB.out; omega, fun h => by have := hT.low g18 h; have := HGA.out; omega⟩
          have hl18 : g18 < wd.heap.size := by
            rcases Nat.lt_or_ge g18 wd.heap.size with h | h
            · exact h
            · rw [Array.getElem?_eq_none h] at h18d; cases h18d
          have HL6 : Hid (g6 < wd.drew.heap.size ∧ g18 < wd.drew.heap.size) := Lib.hid ⟨by have := hbe2.size; have := HWS.out; omega, hl18⟩
          have HPL : Hid (p < wd.drew.heap.size ∧ ¬ S1 p) := Lib.hid ⟨Nat.lt_of_lt_of_le hp hbe.size, hn1⟩
          have H6 := Lib.hid (HG6.out wd.drew hbe2)
          have H18 := Lib.hid (show wd.drew.heap[g18]? = some (.cells #[.string nm, .string V, .bool false] 44) from h18d)
          have HX := Lib.hid fun (w3 : World) (hP : TPost S1 wd.drew q m (addL m ⟨nm, V, false⟩ L) w3) => (show w3.cell? ⟨p, 0, none⟩ = some (.pointer (some ⟨q, 0, none⟩)) by obtain ⟨_, _, _, hK⟩ := hP; exact (hK.cell (p := ⟨p, 0, none⟩) HPL.out.1 HPL.out.2).trans x0)
          have HZ := Lib.hid fun (w3 : World) (hP : TPost S1 wd.drew q m (addL m ⟨nm, V, false⟩ L) w3) => (show w3.heap[g18]? = some (.cells #[.string nm, .string V, .bool false] 44) ∧ w3.heap[g6]? = some (.cells #[.string ⟨#[]⟩, .string ⟨#[]⟩, .bool false] 44) by obtain ⟨_, _, _, hK⟩ := hP; exact ⟨(hK.block g18 HL6.out.2 HN6.out.2).trans H18.out, (hK.block g6 HL6.out.1 HN6.out.1).trans H6.out⟩)
          have HWD := Lib.hid hwd
          rw [hwd] at x0 y0 y1' y2' HAD
          clear hh hT hn1 hS hp hm hbe hbe2 hbd hbdw h18d hwsz hl18 hwd hb2
          go_wp2
          go_region_held3 (fun w' => w'.cell? ⟨p, 0, none⟩ = some (.pointer (some ⟨q, 0, none⟩)) ∧ w'.cell? ⟨g18, 0, none⟩ = some (.string nm) ∧ w'.cell? ⟨g18, 1, none⟩ = some (.string V) ∧ w'.cell? ⟨g18, 2, none⟩ = some (.bool false))
            (first
              | exact ⟨x0, y0, y1', y2'⟩
              | exact ⟨HX.out w3 hP, cell_of_row _ g18 0 _ 44 _ (HZ.out w3 hP).1, cell_of_row _ g18 1 _ 44 _ (HZ.out w3 hP).1, cell_of_row _ g18 2 _ 44 _ (HZ.out w3 hP).1⟩)
            (first
              | ((with_reducible refine (HAD.out).mono ?_); rw [← HWD.out]; rintro e3 w3 ⟨rfl, hP⟩))
          have h6 := (HZ.out w3 hP).2
          have h8 := (HZ.out w3 hP).1
          clear x0 y0 y1' y2' f18 c18
          have f0 : (w3).frozen? ⟨g6, 0, none⟩ = false := frozen_of_row _ g6 0 _ 44 h6
          have f1 : (w3).frozen? ⟨g6, 1, none⟩ = false := frozen_of_row _ g6 1 _ 44 h6
          have f2 : (w3).frozen? ⟨g6, 2, none⟩ = false := frozen_of_row _ g6 2 _ 44 h6
          have q0 : (w3).cell? ⟨g6, 0, none⟩ = some (.string ⟨#[]⟩) := cell_of_row _ g6 0 _ 44 _ h6
          have q1 : (w3).cell? ⟨g6, 1, none⟩ = some (.string ⟨#[]⟩) := cell_of_row _ g6 1 _ 44 _ h6
          have q2 : (w3).cell? ⟨g6, 2, none⟩ = some (.bool false) := cell_of_row _ g6 2 _ 44 _ h6
          have y0 : w3.cell? ⟨g18, 0, none⟩ = some (.string nm) := cell_of_row _ g18 0 _ 44 _ h8
          have y1' : w3.cell? ⟨g18, 1, none⟩ = some (.string V) := cell_of_row _ g18 1 _ 44 _ h8
          have y2' : w3.cell? ⟨g18, 2, none⟩ = some (.bool false) := cell_of_row _ g18 2 _ 44 _ h8
          have hKS : Keeps (fun x => w.heap.size ≤ x ∧ x < wd.drew.heap.size) w3 (((w3.setCell ⟨g6, 0, none⟩ (.string nm)).setCell ⟨g6, 1, none⟩ (.string V)).setCell ⟨g6, 2, none⟩ (.bool false)) := (((Keeps.refl (fun x => w.heap.size ≤ x ∧ x < wd.drew.heap.size) w3).setCell (p := ⟨g6, 0, none⟩) ⟨HGB.out, HL6.out.1⟩ _).setCell (p := ⟨g6, 1, none⟩) ⟨HGB.out, HL6.out.1⟩ _).setCell (p := ⟨g6, 2, none⟩) ⟨HGB.out, HL6.out.1⟩ _
          have hZZ := HFIN.out w3 _ hP hKS
          clear hP hKS h6 h8
          go_wp2
          rw [HO4.out]
          refine bodyPost_ret (v := .tuple #[.agg #[.string nm, .string V, .bool false], .int .i64 (k2 : Int), .bool false, .bool true]) (by simp [results, Tryd.results28, go_sem, q0, q1, q2]) rfl ⟨rfl, hZZ⟩
  · have HO2 : Hid (uone b k m L = ubad m L) := Lib.hid (by rw [HO.out, uoneG, if_pos he])
    have qe : ((e : Int) != 0) = true := by simp; omega
    go_enter Tryd.func28, Tryd.ntmps28
    go_wp2_with fail
    with_reducible refine (HGET.out).mono ?_
    rw [← HWA.out]
    rintro e1 w1 ⟨rfl, hb1⟩
    simp only []
    rw [← hg6, ← HG10W.out]
    clear hg6 hg10 hwa
    have hbw1 := HBA.out.trans (hb1.mono HBA.out.size)
    have h6 := HG6.out (w1) hb1
    have f0 : (w1).frozen? ⟨g6, 0, none⟩ = false := frozen_of_row _ g6 0 _ 44 h6
    have f1 : (w1).frozen? ⟨g6, 1, none⟩ = false := frozen_of_row _ g6 1 _ 44 h6
    have f2 : (w1).frozen? ⟨g6, 2, none⟩ = false := frozen_of_row _ g6 2 _ 44 h6
    have q0 : (w1).cell? ⟨g6, 0, none⟩ = some (.string ⟨#[]⟩) := cell_of_row _ g6 0 _ 44 _ h6
    have q1 : (w1).cell? ⟨g6, 1, none⟩ = some (.string ⟨#[]⟩) := cell_of_row _ g6 1 _ 44 _ h6
    have q2 : (w1).cell? ⟨g6, 2, none⟩ = some (.bool false) := cell_of_row _ g6 2 _ 44 _ h6
    have h10 := HG10.out (w1) hb1
    have z0 : (w1).cell? ⟨g10, 0, none⟩ = some (.string ⟨#[]⟩) := cell_of_row _ g10 0 _ 44 _ h10
    have z1 : (w1).cell? ⟨g10, 1, none⟩ = some (.string ⟨#[]⟩) := cell_of_row _ g10 1 _ 44 _ h10
    have z2 : (w1).cell? ⟨g10, 2, none⟩ = some (.bool false) := cell_of_row _ g10 2 _ 44 _ h10
    have hs1 := ((hbw1.setCell (p := ⟨g6, 0, none⟩) HGB.out (.string ⟨#[]⟩)).setCell (p := ⟨g6, 1, none⟩) HGB.out (.string ⟨#[]⟩)).setCell (p := ⟨g6, 2, none⟩) HGB.out (.bool false)
    clear h6 h10
    go_wp2
    rw [HO2.out]
    refine bodyPost_ret (v := .tuple #[.agg #[.string ⟨#[]⟩, .string ⟨#[]⟩, .bool false], .int .i64 0, .bool false, .bool false]) (by simp [results, Tryd.results28, go_sem, q0, q1, q2]) rfl ⟨rfl, RDPost.of_below HRD.out hs1⟩
/-- The reference's one. -/
theorem rone_any (A : Option Addr) (b : List Nat) (n c k : Nat) (w : World) (S : Nat → Prop) (p q m : Nat) (L : List Fld) (dead : Bool) (hR : RD w S p q m L dead) (hA : At .u8 w w.heap.size A b) (hb : ∀ x ∈ b, x < 256) (hl : b.length = n) (hnc : n ≤ c) (hn : n ≤ 100000) (hk : k < n) :
    Calls Tryd.prog 28 #[.pointer (some ⟨p, 0, none⟩), .slice A n c, .int .i64 (k : Int)] w (OnPost S w p q dead (uone b k m L)) := by
  have hkl : k < b.length := by omega
  have hy := List.getElem?_eq_getElem hkl
  rcases Nat.lt_or_ge b[k] 16 with h | h
  · exact rone_low A b n c k _ w S p q m L dead hR hA hb hl hnc hn hk hy h
  rcases Nat.lt_or_ge b[k] 32 with h2 | h2
  · exact rone_never A b n c k _ w S p q m L dead hR hA hb hl hnc hn hk hy ⟨h, h2⟩
  rcases Nat.lt_or_ge b[k] 64 with h3 | h3
  · exact rone_lim A b n c k _ w S p q m L dead hR hA hb hl hnc hn hk hy ⟨h2, h3⟩
  rcases Nat.lt_or_ge b[k] 128 with h4 | h4
  · exact rone_add A b n c k _ w S p q m L dead hR hA hb hl hnc hn hk hy ⟨h3, h4⟩
  · exact rone_idx A b n c k _ w S p q m L dead hR hA hb hl hnc hn hk hy h4
end Go.Proofs.YtlnppbnbjeakhaaDoor
