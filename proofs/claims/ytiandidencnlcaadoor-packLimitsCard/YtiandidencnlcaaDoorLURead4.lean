/- read, at its label 3: a literal that is added. -/
import Derived.Test.YtiandidencnlcaaDoorLUBase
import Derived.Deep.RegionHeld3
namespace Go.Proofs.YtiandidencnlcaaDoor
open Go.RowKit
set_option maxRecDepth 100000 in
set_option maxHeartbeats 8000000 in
theorem read_3 (w : World) (St : Nat → Prop) (p t g : Nat) (b : List Nat) (room : Int) (D : Blk) (E : REnv w St p t g b) : Passes w St p t g b room D 3 := by
  intro a wr hJ
  obtain ⟨x8, x10, x11, x13, A, n, c, T, q, k, ⟨u, rfl⟩, ⟨lims, f, m, out, r, L, fd, hRs, hk, hl, hq, hT, hol, htk, hf, hgo, hr, hD⟩, hkb, hy, hy2⟩ := hJ
  refine ⟨_, rfl, ?_⟩
  obtain ⟨f1, rfl⟩ : ∃ f1, f = f1 + 1 := ⟨f - 1, by omega⟩
  rw [ugo, if_pos hkb] at hgo
  obtain ⟨S1, h1, h2, h3, h4, h5, h6, h7, h8, h9⟩ := id hD
  have hRwr := E.rdy.keep h3 E.free
  have hpl := E.low
  have hn1 : n ≤ 100000 := by have := hRs.len; have := E.len; omega
  have hcel : wr.cell? ⟨p, 0, none⟩ = some (.pointer (some ⟨t, 0, none⟩)) := (h3.cell (p := ⟨p, 0, none⟩) hpl E.own).trans E.cel
  have hnx := uone_next b k m L hkb
  have hsz := uone_size b k m L (by have := h1.fits; omega)
  have hgl := lt_of_heap h6
  have hbits : ubits (b.getD k 0) = 6 := by unfold ubits; rw [if_neg (by omega), if_pos (by omega)]
  obtain ⟨V, hV⟩ : ∃ V, V = ulits b k L (Pn.getI (b.drop k) (6 : Int)) := ⟨_, rfl⟩
  have HLT := ulit_f A b n c k 6 wr hRwr S1 p t m L hcel h1 h9 (hRs.at' wr h3) E.byt hRs.len hRs.nil hRs.cap hn1 (by omega) (by omega)
  rw [show ((6 : Nat) : Int) = 6 from rfl, ← hV] at HLT
  have hone := uone_lit b k m L (b.getD k 0) rfl (by omega) (by omega) V (by rw [hV, hbits]; rfl)
  have HVE : Hid (V.2.2 = true → k + (V.2.1 - k) = V.2.1) := Lib.hid (fun hv => by
    have h0 := hnx (by rw [hone, hv, if_neg (by simp)])
    rw [hone, hv, if_neg (by simp)] at h0
    simp only [] at h0
    omega)
  rw [if_pos hy, decide_eq_false (show ¬ (16 ≤ b.getD k 0 ∧ b.getD k 0 < 32) by omega)] at hone
  obtain ⟨⟨V1, V2⟩, V3, ok⟩ := V
  replace HLT : Hid (Calls Tryd.prog 58 #[.pointer (some ⟨p, 0, none⟩), .slice A n c, .int .i64 6] wr (fun e w' => ∃ F1 F2 F3 A' n' c', e = .returned (.tuple #[.agg #[.string F1, .string F2, .bool F3], .slice A' n' c', .bool ok]) ∧ (ok = true → F1 = V1 ∧ F2 = V2 ∧ F3 = false ∧ n' = n - (V3 - k) ∧ Cut A c A' c' (V3 - k) n) ∧ Below wr.heap.size wr w')) := Lib.hid HLT
  simp only [] at hone
  have HADD : Hid (∀ (W2 : World) (f : Fld), fsize f ≤ 40000 → Ds w St t g m L x8 r f W2 → Calls Tryd.prog 53 #[.pointer (some ⟨t, 0, none⟩), .agg #[.string f.name, .string f.value, .bool f.never]] W2 (fun e w' => e = .returned (.tuple #[]) ∧ Ds w St t g m (addL m f L) x8 r f w')) := Lib.hid (fun W2 f hfs hD2 => by
    obtain ⟨S2, g1, g2, g3, g4, g5, g6, g7, g8, g9⟩ := hD2
    refine (dadd_f W2 S2 t m L f (E.rdy.keep g3 E.free) g1 (by omega)).mono ?_
    rintro e w' ⟨rfl, hP⟩
    exact ⟨rfl, Ds.step g2 g3 g4 g5 g6 g7 g8 (g9.add m f) hP⟩)
  have HD := Lib.hid hD
  have HRS := Lib.hid hRs
  have HRR := Lib.hid hr
  have HH6 := Lib.hid h6
  have HOUT : Hid (T = tot out ∧ out.length ≤ k ∧ tot out ≤ 40000 * k ∧ b.length - k < f1 + 1) := Lib.hid ⟨hT, hol, htk, hf⟩
  have HGO := Lib.hid hgo
  have HONE := Lib.hid hone
  have HNX := Lib.hid hnx
  have HSZ := Lib.hid hsz
  have HCEL := Lib.hid hcel
  have hplr := World.block_lt_of_cell? wr _ hcel
  have hpg : p ≠ g := by omega
  clear hRs hD hr h1 h2 h3 h4 h5 h6 h7 h8 h9 hT hol htk hf hgo hone hnx hsz hkb hy hy2 hbits hV hcel hRwr hq hk
  go_wp2_with fail
  with_reducible refine (HLT.out).mono ?_
  rintro e1 w1 ⟨F1, F2, F3, A1, n1, c1, rfl, hfac, hb1⟩
  simp only []
  have HFAC := Lib.hid hfac
  have hh1 := (hb1.block g hgl).trans HH6.out
  have fz0 : w1.frozen? ⟨g, 0, none⟩ = false := frozen_of_row w1 g 0 _ 52 hh1
  have fz1 : w1.frozen? ⟨g, 1, none⟩ = false := frozen_of_row w1 g 1 _ 52 hh1
  have fz2 : w1.frozen? ⟨g, 2, none⟩ = false := frozen_of_row w1 g 2 _ 52 hh1
  have q0 : w1.cell? ⟨g, 0, none⟩ = some (.string fd.name) := cell_of_row w1 g 0 _ 52 _ hh1
  have q1 : w1.cell? ⟨g, 1, none⟩ = some (.string fd.value) := cell_of_row w1 g 1 _ 52 _ hh1
  have q2 : w1.cell? ⟨g, 2, none⟩ = some (.bool fd.never) := cell_of_row w1 g 2 _ 52 _ hh1
  have HD1 := Lib.hid (HD.out.quiet hb1)
  obtain ⟨w2, hw2⟩ : ∃ w2, w2 = ((w1.setCell ⟨g, 0, none⟩ (.string F1)).setCell ⟨g, 1, none⟩ (.string F2)).setCell ⟨g, 2, none⟩ (.bool F3) := ⟨_, rfl⟩
  have HD2 : Hid (Ds w St t g m L x8 r ⟨F1, F2, F3⟩ w2) := Lib.hid (by rw [hw2]; exact HD1.out.put (fd2 := ⟨F1, F2, F3⟩))
  have HK2 : Hid (Keeps (fun x => x = g) w1 w2) := Lib.hid (by rw [hw2]; exact (((Keeps.refl (fun x => x = g) w1).setCell (p := ⟨g, 0, none⟩) rfl _).setCell (p := ⟨g, 1, none⟩) rfl _).setCell (p := ⟨g, 2, none⟩) rfl _)
  have HW2 := Lib.hid hw2
  have HB1 := Lib.hid hb1
  clear hfac hh1 hb1 HLT HH6 HD hw2
  cases ok with
  | false =>
    have HD3 : Hid (Ds w St t g m L x8 r ⟨F1, F2, F3⟩ (((w1.setCell ⟨g, 0, none⟩ (.string F1)).setCell ⟨g, 1, none⟩ (.string F2)).setCell ⟨g, 2, none⟩ (.bool F3))) := Lib.hid (by rw [← HW2.out]; exact HD2.out)
    clear HW2 HD2 HK2 HADD
    go_wp2
    go_step3
    refine ⟨⟨_, _, _, _, A1, n1, c1, T, false, RFr.mk, fun hok => (Bool.noConfusion hok), fun _ => ?_⟩, by simp [Rμ, lenOf, okOf]⟩
    have hgo := HGO.out
    rw [HONE.out] at hgo
    exact ⟨m, m, L, L, _, r, _, by simpa [ubad] using hgo.symm, HD3.out⟩
  | true =>
    obtain ⟨e1, e2, e3, e4, e5⟩ := HFAC.out rfl
    subst e1 e2 e3
    have hnx := HNX.out (by rw [HONE.out]; rfl)
    have hsz := HSZ.out
    rw [HONE.out, if_neg (by simp)] at hnx hsz
    simp only [] at hnx hsz
    have hve : k + (V3 - k) = V3 := HVE.out rfl
    have hh2 : w2.heap[g]? = some (.cells #[.string F1, .string F2, .bool false] 52) := by
      obtain ⟨_, _, _, _, _, _, g6, _⟩ := HD2.out
      exact g6
    have HCALL := Lib.hid (HADD.out w2.drew ⟨F1, F2, false⟩ hsz (HD2.out.quiet (Below.refl _ _).drew))
    have x0 : w2.cell? ⟨p, 0, none⟩ = some (.pointer (some ⟨t, 0, none⟩)) := (HK2.out.cell (p := ⟨p, 0, none⟩) (Nat.lt_of_lt_of_le hplr HB1.out.size) hpg).trans ((HB1.out.cell (p := ⟨p, 0, none⟩) hplr).trans HCEL.out)
    have x1 : w2.cell? ⟨g, 0, none⟩ = some (.string F1) := cell_of_row w2 g 0 _ 52 _ hh2
    have x2 : w2.cell? ⟨g, 1, none⟩ = some (.string F2) := cell_of_row w2 g 1 _ 52 _ hh2
    have x3 : w2.cell? ⟨g, 2, none⟩ = some (.bool false) := cell_of_row w2 g 2 _ 52 _ hh2
    have HX : Hid (∀ W, Ds w St t g m (addL m ⟨F1, F2, false⟩ L) x8 r ⟨F1, F2, false⟩ W → W.cell? ⟨p, 0, none⟩ = some (.pointer (some ⟨t, 0, none⟩)) ∧ W.cell? ⟨g, 0, none⟩ = some (.string F1) ∧ W.cell? ⟨g, 1, none⟩ = some (.string F2) ∧ W.cell? ⟨g, 2, none⟩ = some (.bool false)) := Lib.hid (fun W hDW => by
      obtain ⟨_, _, _, g3, _, _, g6, _⟩ := hDW
      exact ⟨(g3.cell (p := ⟨p, 0, none⟩) hpl E.own).trans E.cel, cell_of_row W g 0 _ 52 _ g6, cell_of_row W g 1 _ 52 _ g6, cell_of_row W g 2 _ 52 _ g6⟩)
    have HE : Hid (n1 = n - (V3 - k) ∧ Cut A c A1 c1 (V3 - k) n ∧ k < V3 ∧ V3 ≤ b.length ∧ k + (V3 - k) = V3) := Lib.hid ⟨e4, e5, hnx.1, hnx.2, hve⟩
    have HSZ2 := Lib.hid hsz
    clear hh2 hsz hnx hve e4 e5 HFAC HSZ HNX
    have HFIN : Hid (∀ W, Ds w St t g m (addL m ⟨F1, F2, false⟩ L) x8 r ⟨F1, F2, false⟩ W → RF w St t g b room D A1 n1 c1 x8 T V3 W) := Lib.hid (fun W hDW => by
      obtain ⟨o1, o2, o3, o4⟩ := HOUT.out
      obtain ⟨p1, p2, p3, p4, p5⟩ := HE.out
      have hgo := HGO.out
      rw [HONE.out, if_neg (by simp)] at hgo
      have hrs := HRS.out.cut p2
      rw [p5, ← p1] at hrs
      refine ⟨lims, f1, m, out, r, addL m ⟨F1, F2, false⟩ L, ⟨F1, F2, false⟩, hrs, p4, hl, o1, by omega, by omega, HSZ2.out, by omega, ?_, HRR.out, hDW⟩
      simpa using hgo)
    have HME : Hid (n1 < n) := Lib.hid (by
      obtain ⟨p1, p2, p3, p4, p5⟩ := HE.out
      have := HRS.out.len
      omega)
    clear HOUT HE HGO HONE HRS HSZ2 HRR HVE HADD HD1 HCEL
    go_wp2
    rw [← HW2.out]
    clear HW2
    go_region_held3 (fun w' => w'.cell? ⟨p, 0, none⟩ = some (.pointer (some ⟨t, 0, none⟩)) ∧ w'.cell? ⟨g, 0, none⟩ = some (.string F1) ∧ w'.cell? ⟨g, 1, none⟩ = some (.string F2) ∧ w'.cell? ⟨g, 2, none⟩ = some (.bool false))
      (first
        | exact ⟨x0, x1, x2, x3⟩
        | exact HX.out _ hD3)
      (first
        | ((with_reducible refine (HCALL.out).mono ?_); rintro e w3 ⟨rfl, hD3⟩))
    have hrf := HFIN.out w3 hD3
    have hme := HME.out
    clear x0 x1 x2 x3 HX HCALL hD3 HFIN HD2 HK2 HME
    have HRF := Lib.hid hrf
    clear hrf
    go_wp2
    go_step3
    refine ⟨⟨_, _, _, _, A1, n1, c1, T, true, RFr.mk, fun _ => ⟨V3, HRF.out⟩, fun hok => (Bool.noConfusion hok)⟩, ?_⟩
    simp [Rμ, lenOf, okOf]
    omega
end Go.Proofs.YtiandidencnlcaaDoor
/- read, at its label 4: a limit. -/
namespace Go.Proofs.YtiandidencnlcaaDoor
open Go.RowKit
set_option maxRecDepth 100000 in
set_option maxHeartbeats 8000000 in
theorem read_4 (w : World) (St : Nat → Prop) (p t g : Nat) (b : List Nat) (room : Int) (D : Blk) (E : REnv w St p t g b) : Passes w St p t g b room D 4 := by
  intro a wr hJ
  obtain ⟨x8, x10, x11, x13, A, n, c, T, q, k, ⟨u, rfl⟩, ⟨lims, f, m, out, r, L, fd, hRs, hk, hl, hq, hT, hol, htk, hf, hgo, hr, hD⟩, hkb, hy, hy2⟩ := hJ
  refine ⟨_, rfl, ?_⟩
  obtain ⟨f1, rfl⟩ : ∃ f1, f = f1 + 1 := ⟨f - 1, by omega⟩
  rw [ugo, if_pos hkb] at hgo
  obtain ⟨S1, h1, h2, h3, h4, h5, h6, h7, h8, h9⟩ := id hD
  have hRwr := E.rdy.keep h3 E.free
  have hpl := E.low
  have hn1 : n ≤ 100000 := by have := hRs.len; have := E.len; omega
  have hcel : wr.cell? ⟨p, 0, none⟩ = some (.pointer (some ⟨t, 0, none⟩)) := (h3.cell (p := ⟨p, 0, none⟩) hpl E.own).trans E.cel
  have hnx := uone_next b k m L hkb
  have hsz := uone_size b k m L (by have := h1.fits; omega)
  have hgl := lt_of_heap h6
  have HN := unum_f A (b.drop k) n c 5 wr hRwr (hRs.at' wr h3) (fun x hx => E.byt x (List.mem_of_mem_drop hx)) (by rw [List.length_drop]; exact hRs.len) hRs.nil hRs.cap hn1 (by omega) (by omega)
  rw [show ((5 : Nat) : Int) = 5 from rfl] at HN
  have hbits : ubits (b.getD k 0) = 5 := by unfold ubits; rw [if_neg (by omega), if_neg (by omega), if_pos (by omega)]
  obtain ⟨G, hG⟩ : ∃ G, G = Pn.getI (b.drop k) 5 := ⟨_, rfl⟩
  have hone : uone b k m L = uoneG b k m L (b.getD k 0) G.1 G.2.1 G.2.2 := by rw [uone, hbits, hG]; rfl
  rw [← hG] at HN
  obtain ⟨v, j, e⟩ := G
  have HU : Hid (e = 0 → 1 ≤ j ∧ j ≤ n ∧ v ≤ 2147483647) := Lib.hid (fun he => by
    subst he
    have := get_used (b.drop k) 5 v j (by omega) (by omega) hG.symm
    rw [List.length_drop, hRs.len] at this
    omega)
  have HLOK : Hid (∀ W : World, Below wr.heap.size wr W → v ≤ 4096 → Calls Tryd.prog 31 #[.pointer (some ⟨t, 0, none⟩), .int .i64 (v : Int)] W (fun e w' => e = .returned (.int .i64 0) ∧ Ds w St t g v (fitL v L) x8 r fd w')) := Lib.hid (fun W hB hv => by
    obtain ⟨S2, g1, g2, g3, g4, g5, g6, g7, g8, g9⟩ := hD.quiet hB
    refine (dlimit_ok W S2 t m v L (E.rdy.keep g3 E.free) g1 hv).mono ?_
    rintro e w' ⟨rfl, hP⟩
    exact ⟨rfl, Ds.step g2 g3 g4 g5 g6 g7 g8 (g9.fit v) hP⟩)
  have HLNO : Hid (∀ W : World, Below wr.heap.size wr W → 4096 < v → v ≤ 2147483647 → Calls Tryd.prog 31 #[.pointer (some ⟨t, 0, none⟩), .int .i64 (v : Int)] W (fun e w' => e = .returned (.int .i64 1) ∧ Ds w St t g m L x8 r fd w')) := Lib.hid (fun W hB hv hv2 => by
    have hq := hD.quiet hB
    obtain ⟨S2, g1, g2, g3, g4, g5, g6, g7, g8, g9⟩ := id hq
    refine (dlimit_no W S2 t m (v : Int) L (E.rdy.keep g3 E.free) g1 (by omega) (by unfold Rng; omega)).mono ?_
    rintro e w' ⟨rfl, hb⟩
    exact ⟨rfl, hq.quiet hb⟩)
  have hplr := World.block_lt_of_cell? wr _ hcel
  have HCEL := Lib.hid fun (W : World) (hB : Below wr.heap.size wr W) => (hB.cell (p := ⟨p, 0, none⟩) hplr).trans hcel
  have HD := Lib.hid hD
  have HRS := Lib.hid hRs
  have HRR := Lib.hid hr
  have HOUT : Hid (T = tot out ∧ out.length ≤ k ∧ tot out ≤ 40000 * k ∧ b.length - k < f1 + 1) := Lib.hid ⟨hT, hol, htk, hf⟩
  have HGO := Lib.hid hgo
  have HONE := Lib.hid hone
  have HNX := Lib.hid hnx
  have HY : Hid (¬ 128 ≤ b.getD k 0 ∧ 32 ≤ b.getD k 0 ∧ b.getD k 0 < 64) := Lib.hid ⟨by omega, hy, hy2⟩
  have HQ := Lib.hid hq
  clear hRs hD hr h1 h2 h3 h4 h5 h6 h7 h8 h9 hT hol htk hf hgo hone hnx hsz hkb hy hy2 hbits hG hcel hRwr hk hplr hq hgl
  by_cases he : e = 0
  · obtain ⟨hj1, hj2, hv⟩ := HU.out he
    subst he
    replace HN : Hid (Calls Tryd.prog 59 #[.slice A n c, .int .i64 5] wr (fun e1 w' => ∃ A' c', e1 = .returned (.tuple #[.int .i64 (v : Int), .slice A' (n - j) c', .bool true]) ∧ Cut A c A' c' j n ∧ Below wr.heap.size wr w')) := Lib.hid HN
    have HUO : Hid (uone b k m L = if v ≤ 4096 then ⟨noFld, k + j, true, true, v, fitL v L⟩ else ⟨noFld, k + j, true, false, m, L⟩) := Lib.hid (by rw [HONE.out, uoneG, if_neg (by simp), if_neg HY.out.1, if_pos HY.out.2])
    clear HONE HU HY
    by_cases hq0 : q = 0
    · subst hq0
      have HDD : Hid (∃ m3 L3, D = ⟨[], 2, true, m3, L3⟩) := Lib.hid (by
        have hgo := HGO.out
        rw [HUO.out] at hgo
        have hql := HQ.out
        unfold limsLeft at hql
        by_cases hv4 : v ≤ 4096
        · rw [if_pos hv4] at hgo
          rw [if_neg (by simp), if_pos rfl, if_neg (by
            intro h
            rw [if_pos h.1] at hql
            omega)] at hgo
          exact ⟨_, _, hgo.symm⟩
        · rw [if_neg hv4] at hgo
          rw [if_pos rfl] at hgo
          exact ⟨_, _, hgo.symm⟩)
      clear HLOK HLNO
      go_wp2_with fail
      with_reducible refine (HN.out).mono ?_
      rintro e1 w1 ⟨A1, c1, rfl, hC, hb1⟩
      simp only []
      have HD1 := Lib.hid (HD.out.quiet hb1)
      clear hC hb1 HN HCEL
      go_wp2
      simp only [jumpsTo]
      go_ret2
      obtain ⟨m3, L3, hDD⟩ := HDD.out
      rw [hDD]
      exact HD1.out.bad
    · have hlim : tot out = 0 ∧ lims + 1 ≤ 2 ∧ q = 2 - lims := by
        have hql := HQ.out
        unfold limsLeft at hql
        split at hql
        · omega
        · omega
      have HLIM := Lib.hid hlim
      have qq : ((q : Int) == 0) = false := by simp; omega
      obtain ⟨q1, hq1⟩ : ∃ q1, q1 = q - 1 := ⟨_, rfl⟩
      have qi : (q : Int) - 1 = (q1 : Int) := by omega
      have HQ1 := Lib.hid hq1
      have hqb : q ≤ 2 := by omega
      clear hq1 hlim
      by_cases hv4 : v ≤ 4096
      · have HNXT : Hid (ugo b room f1 (k + j) (lims + 1) out v (fitL v L) = D) := Lib.hid (by
          have hgo := HGO.out
          rw [HUO.out, if_pos hv4] at hgo
          rw [if_neg (by simp), if_pos rfl, if_pos ⟨HLIM.out.1, HLIM.out.2.1⟩] at hgo
          exact hgo)
        have HNX2 : Hid (k + j ≤ b.length) := Lib.hid (by
          have hnx := HNX.out (by rw [HUO.out, if_pos hv4])
          rw [HUO.out, if_pos hv4] at hnx
          exact hnx.2)
        clear HLNO HGO HUO HNX
        go_wp2_with fail
        with_reducible refine (HN.out).mono ?_
        rintro e1 w1 ⟨A1, c1, rfl, hC, hb1⟩
        simp only []
        have HL := Lib.hid (HLOK.out w1 hb1 hv4)
        have x0 := HCEL.out w1 hb1
        have HC := Lib.hid hC
        clear hC hb1 HN HCEL HLOK
        go_wp2_with fail
        with_reducible refine (HL.out).mono ?_
        rintro e1 w2 ⟨rfl, hD2⟩
        have HD2 := Lib.hid hD2
        clear x0 HL hD2
        go_wp2
        go_step3
        refine ⟨⟨_, _, _, _, A1, n - j, c1, T, q1, k + j, RFr.mk, lims + 1, f1, v, out, r, fitL v L, fd, HRS.out.cut HC.out, HNX2.out, HLIM.out.2.1, ?_, HOUT.out.1, by have := HOUT.out.2.1; omega, by have := HOUT.out.2.2.1; omega, by have := HOUT.out.2.2.2; have := HNX2.out; omega, HNXT.out, HRR.out, HD2.out⟩, ?_⟩
        · rw [limsLeft, if_pos HLIM.out.1]
          have := HLIM.out.2.2
          have := HQ1.out
          omega
        · simp [Rμ, lenOf]
          omega
      · have HDD : Hid (∃ m3 L3, D = ⟨[], 2, true, m3, L3⟩) := Lib.hid (by
          have hgo := HGO.out
          rw [HUO.out, if_neg hv4] at hgo
          rw [if_pos rfl] at hgo
          exact ⟨_, _, hgo.symm⟩)
        clear HLOK HGO HUO HNX
        go_wp2_with fail
        with_reducible refine (HN.out).mono ?_
        rintro e1 w1 ⟨A1, c1, rfl, hC, hb1⟩
        simp only []
        have HL := Lib.hid (HLNO.out w1 hb1 (by omega) hv)
        have x0 := HCEL.out w1 hb1
        clear hC hb1 HN HCEL HLNO
        go_wp2_with fail
        with_reducible refine (HL.out).mono ?_
        rintro e1 w2 ⟨rfl, hD2⟩
        have HD2 := Lib.hid hD2
        clear x0 HL hD2
        go_wp2
        simp only [jumpsTo]
        go_ret2
        obtain ⟨m3, L3, hDD⟩ := HDD.out
        rw [hDD]
        exact HD2.out.bad
  · have HUO : Hid (uone b k m L = ubad m L) := Lib.hid (by rw [HONE.out, uoneG, if_pos he])
    replace HN : Hid (Calls Tryd.prog 59 #[.slice A n c, .int .i64 5] wr (fun e1 w' => ∃ A' c', e1 = .returned (.tuple #[.int .i64 (v : Int), .slice A' (n - j) c', .bool false]) ∧ Cut A c A' c' j n ∧ Below wr.heap.size wr w')) := by rw [show false = decide (e = 0) from (decide_eq_false he).symm]; exact Lib.hid HN
    have HDD : Hid (D = ⟨[], 2, true, m, L⟩) := Lib.hid (by
      have hgo := HGO.out
      rw [HUO.out] at hgo
      simpa [ubad] using hgo.symm)
    clear HONE HU he HNX HLOK HLNO
    go_wp2_with fail
    with_reducible refine (HN.out).mono ?_
    rintro e1 w1 ⟨A1, c1, rfl, hC, hb1⟩
    simp only []
    have HD2 := Lib.hid (HD.out.quiet hb1)
    clear hC hb1 HN HD HCEL
    go_wp2
    simp only [jumpsTo]
    go_ret2
    rw [HDD.out]
    exact HD2.out.bad
end Go.Proofs.YtiandidencnlcaaDoor
