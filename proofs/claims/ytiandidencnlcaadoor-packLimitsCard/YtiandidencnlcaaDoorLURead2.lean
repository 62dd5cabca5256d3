/- read, at its label 0: the end. -/
import Derived.Test.YtiandidencnlcaaDoorLUBase
namespace Go.Proofs.YtiandidencnlcaaDoor
open Go.RowKit
set_option maxRecDepth 100000 in
set_option maxHeartbeats 4000000 in
theorem read_0 (w : World) (St : Nat → Prop) (p t g : Nat) (b : List Nat) (room : Int) (D : Blk) (_ : REnv w St p t g b) : Passes w St p t g b room D 0 := by
  intro a wr hJ
  obtain ⟨x8, x10, x11, x13, A, c, T, q, ⟨u, rfl⟩, lims, f, m, out, r, L, fd, hRs, hk, hl, hq, hT, hol, htk, hf, hgo, hr, hD⟩ := hJ
  refine ⟨_, rfl, ?_⟩
  obtain ⟨f1, rfl⟩ : ∃ f1, f = f1 + 1 := ⟨f - 1, by omega⟩
  rw [ugo, if_neg (by omega), ← hT] at hgo
  obtain ⟨_, _, _, _, h4, _⟩ := id hD
  obtain ⟨A8, c8, hv8, _, _⟩ := rowF_shape h4
  subst hv8
  clear h4 hT htk hol hq
  by_cases hroom : room < (T : Int)
  · have HDD : Hid (D = ⟨[], 3, false, m, L⟩) := Lib.hid (by rw [← hgo, if_pos hroom])
    have hZZ := Lib.hid hD.long
    have p1 : decide (room < (T : Int)) = true := decide_eq_true hroom
    clear hgo hD hr hRs
    go_wp2
    simp only [jumpsTo]
    go_ret2
    rw [HDD.out]
    exact hZZ.out
  · have HDD : Hid (D = ⟨out, 0, false, m, L⟩) := Lib.hid (by rw [← hgo, if_neg hroom])
    have hrr := hr (by omega)
    have hZZ := Lib.hid hD.done
    have p1 : decide (room < (T : Int)) = false := decide_eq_false hroom
    have HRR := Lib.hid hrr
    clear hgo hD hr hrr hRs
    go_wp2
    simp only [jumpsTo]
    go_ret2
    rw [HDD.out, ← HRR.out]
    exact hZZ.out
end Go.Proofs.YtiandidencnlcaaDoor
/- read, at its label 1: the next representation. -/
namespace Go.Proofs.YtiandidencnlcaaDoor
open Go.RowKit
set_option maxRecDepth 100000 in
set_option maxHeartbeats 8000000 in
theorem read_1 (w : World) (St : Nat → Prop) (p t g : Nat) (b : List Nat) (room : Int) (D : Blk) (E : REnv w St p t g b) : Passes1 w St p t g b room D := by
  intro a wr hJ
  obtain ⟨x8, x10, x11, x13, A, n, c, T, q, k, ⟨u, rfl⟩, lims, f, m, out, r, L, fd, hRs, hk, hl, hq, hT, hol, htk, hf, hgo, hr, hD⟩ := hJ
  refine ⟨_, rfl, ?_⟩
  rcases Nat.eq_zero_or_pos n with hn0 | hn0
  · subst hn0
    have hkl : k = b.length := by have := hRs.len; omega
    subst hkl
    have HRC : Hid (RC w St t g b room D A 0 c x8 T q b.length wr) := Lib.hid ⟨lims, f, m, out, r, L, fd, hRs, hk, hl, hq, hT, hol, htk, hf, hgo, hr, hD⟩
    clear hRs hk hl hq hT hol htk hf hgo hr hD
    go_wp2
    go_step3
    exact ⟨⟨_, _, _, _, A, c, T, q, RFr.mk, HRC.out⟩, by simp [Rμ, lenOf]⟩
  have hkb : k < b.length := by have := hRs.len; omega
  obtain ⟨y, hy⟩ : ∃ y, y = b.getD k 0 := ⟨_, rfl⟩
  have HRC : Hid (RC w St t g b room D A n c x8 T q k wr) := Lib.hid ⟨lims, f, m, out, r, L, fd, hRs, hk, hl, hq, hT, hol, htk, hf, hgo, hr, hD⟩
  obtain ⟨bk, o, rfl, hbk, hcc⟩ := (hRs.at' wr (by obtain ⟨_, _, _, h3, _⟩ := hD; exact h3)).pos (by rw [List.length_drop]; omega)
  have hy1 : (b.drop k)[0]'(by rw [List.length_drop]; omega) = y := by rw [hy, List.getElem_drop, List.getD, List.getElem?_eq_getElem hkb]; rfl
  have hy2 : y < 256 := by rw [← hy1]; exact E.byt _ (List.mem_of_mem_drop (List.getElem_mem _))
  have cy : wr.cell? ⟨bk, o, none⟩ = some (.int .u8 (y : Int)) := by
    have := hcc 0 (by rw [List.length_drop]; omega)
    rw [hy1] at this
    exact this
  have n0 : (0 : Int) < (n : Int) := by omega
  have n1 : ((n : Int) == 0) = false := by simp; omega
  clear hcc hy1 hbk
  by_cases h128 : 128 ≤ y
  · have d1 : (128 : Int) ≤ (y : Int) := by omega
    have d2 : decide ((128 : Int) ≤ (y : Int)) = true := decide_eq_true d1
    have HY : Hid (128 ≤ b.getD k 0) := Lib.hid (by omega)
    have HKB := Lib.hid hkb
    clear hRs hk hl hq hT hol htk hf hgo hr hD hkb hy
    go_wp2
    go_step3
    exact ⟨⟨_, _, _, _, _, n, c, T, q, k, RFr.mk, HRC.out, HKB.out, HY.out⟩, by simp [Rμ, lenOf]⟩
  have d1 : ¬ (128 : Int) ≤ (y : Int) := by omega
  have d2 : decide ((128 : Int) ≤ (y : Int)) = false := decide_eq_false d1
  by_cases h64 : 64 ≤ y
  · have e1 : (64 : Int) ≤ (y : Int) := by omega
    have e2 : decide ((64 : Int) ≤ (y : Int)) = true := decide_eq_true e1
    have HY : Hid (64 ≤ b.getD k 0 ∧ b.getD k 0 < 128) := Lib.hid (by omega)
    have HKB := Lib.hid hkb
    clear hRs hk hl hq hT hol htk hf hgo hr hD hkb hy
    go_wp2
    go_step3
    exact ⟨⟨_, _, _, _, _, n, c, T, q, k, RFr.mk, HRC.out, HKB.out, HY.out⟩, by simp [Rμ, lenOf]⟩
  have e1 : ¬ (64 : Int) ≤ (y : Int) := by omega
  have e2 : decide ((64 : Int) ≤ (y : Int)) = false := decide_eq_false e1
  by_cases h32 : 32 ≤ y
  · have f1 : (32 : Int) ≤ (y : Int) := by omega
    have f2 : decide ((32 : Int) ≤ (y : Int)) = true := decide_eq_true f1
    have HY : Hid (32 ≤ b.getD k 0 ∧ b.getD k 0 < 64) := Lib.hid (by omega)
    have HKB := Lib.hid hkb
    clear hRs hk hl hq hT hol htk hf hgo hr hD hkb hy
    go_wp2
    go_step3
    exact ⟨⟨_, _, _, _, _, n, c, T, q, k, RFr.mk, HRC.out, HKB.out, HY.out⟩, by simp [Rμ, lenOf]⟩
  have g1 : ¬ (32 : Int) ≤ (y : Int) := by omega
  have g2 : decide ((32 : Int) ≤ (y : Int)) = false := decide_eq_false g1
  obtain ⟨f1, rfl⟩ : ∃ f1, f = f1 + 1 := ⟨f - 1, by omega⟩
  rw [ugo, if_pos hkb] at hgo
  obtain ⟨S1, h1, h2, h3, h4, h5, h6, h7, h8, h9⟩ := id hD
  have hRwr := E.rdy.keep h3 E.free
  have hpl := E.low
  have hnm : n ≤ 100000 := by have := hRs.len; have := E.len; omega
  have hcel : wr.cell? ⟨p, 0, none⟩ = some (.pointer (some ⟨t, 0, none⟩)) := (h3.cell (p := ⟨p, 0, none⟩) hpl E.own).trans E.cel
  have hnx := uone_next b k m L hkb
  have hsz := uone_size b k m L (by have := h1.fits; omega)
  have hgl := lt_of_heap h6
  have hbits : ubits (b.getD k 0) = 4 := by unfold ubits; rw [if_neg (by omega), if_neg (by omega), if_neg (by omega)]
  obtain ⟨V, hV⟩ : ∃ V, V = ulits b k L (Pn.getI (b.drop k) (4 : Int)) := ⟨_, rfl⟩
  have HLT := ulit_f (some ⟨bk, o, none⟩) b n c k 4 wr hRwr S1 p t m L hcel h1 h9 (hRs.at' wr h3) E.byt hRs.len hRs.nil hRs.cap hnm (by omega) (by omega)
  rw [show ((4 : Nat) : Int) = 4 from rfl, ← hV] at HLT
  have hone := uone_lit b k m L (b.getD k 0) rfl (by omega) (by omega) V (by rw [hV, hbits]; rfl)
  have HVE : Hid (V.2.2 = true → k + (V.2.1 - k) = V.2.1) := Lib.hid (fun hv => by
    have h0 := hnx (by rw [hone, hv, if_neg (by simp)])
    rw [hone, hv, if_neg (by simp)] at h0
    simp only [] at h0
    omega)
  rw [← hy, if_neg h64, decide_eq_decide.2 (show (16 ≤ y ∧ y < 32) ↔ 16 ≤ y by omega)] at hone
  obtain ⟨⟨V1, V2⟩, V3, ok⟩ := V
  replace HLT : Hid (Calls Tryd.prog 58 #[.pointer (some ⟨p, 0, none⟩), .slice (some ⟨bk, o, none⟩) n c, .int .i64 4] wr (fun e w' => ∃ F1 F2 F3 A' n' c', e = .returned (.tuple #[.agg #[.string F1, .string F2, .bool F3], .slice A' n' c', .bool ok]) ∧ (ok = true → F1 = V1 ∧ F2 = V2 ∧ F3 = false ∧ n' = n - (V3 - k) ∧ Cut (some ⟨bk, o, none⟩) c A' c' (V3 - k) n) ∧ Below wr.heap.size wr w')) := Lib.hid HLT
  simp only [] at hone
  obtain ⟨z, hz⟩ : ∃ z, z = decide (16 ≤ y) := ⟨_, rfl⟩
  rw [← hz] at hone
  have qz : decide ((16 : Int) ≤ (y : Int)) = z := by rw [hz]; exact decide_eq_decide.2 (by omega)
  have HD := Lib.hid hD
  have HRS := Lib.hid hRs
  have HRR := Lib.hid hr
  have HH6 := Lib.hid h6
  have HOUT : Hid (T = tot out ∧ out.length ≤ k ∧ tot out ≤ 40000 * k ∧ b.length - k < f1 + 1) := Lib.hid ⟨hT, hol, htk, hf⟩
  have HGO := Lib.hid hgo
  have HONE := Lib.hid hone
  have HNX := Lib.hid hnx
  have HSZ := Lib.hid hsz
  clear hRs hD hr h1 h2 h3 h4 h5 h6 h7 h8 h9 hT hol htk hf hgo hone hnx hsz hkb hy hbits hV hcel hRwr hq hk HRC hz h128 h64 h32
  go_wp2_with fail
  with_reducible refine (HLT.out).mono ?_
  rintro e1 w1 ⟨F1, F2, F3, A1, n1, c1, rfl, hfac, hb1⟩
  simp only []
  have HFAC := Lib.hid hfac
  have hh1 := (hb1.block g hgl).trans HH6.out
  have fz0 : w1.frozen? ⟨g, 0, none⟩ = false := frozen_of_row w1 g 0 _ 52 hh1
  have fz1 : w1.frozen? ⟨g, 1, none⟩ = false := frozen_of_row w1 g 1 _ 52 hh1
  have fz2 : w1.frozen? ⟨g, 2, none⟩ = false := frozen_of_row w1 g 2 _ 52 hh1
  have q0 : w1.cell? ⟨g, 0, none⟩ = some (.string fd.name) := cell_of_row w1 g 0 _ 52 _ hh1
  have q1 : w1.cell? ⟨g, 1, none⟩ = some (.string fd.value) := cell_of_row w1 g 1 _ 52 _ hh1
  have q2 : w1.cell? ⟨g, 2, none⟩ = some (.bool fd.never) := cell_of_row w1 g 2 _ 52 _ hh1
  have HD2 := Lib.hid (((HD.out.quiet hb1).put (fd2 := ⟨F1, F2, F3⟩)).never (z := z))
  clear hfac hh1 hb1 HLT HH6 HD
  go_wp2
  go_step3
  refine ⟨⟨_, _, _, _, A1, n1, c1, T, ok, RFr.mk, fun hok => ?_, fun hok => ?_⟩, ?_⟩
  · subst hok
    obtain ⟨o1, o2, o3, o4⟩ := HOUT.out
    obtain ⟨e1, e2, e3, e4, e5⟩ := HFAC.out rfl
    subst e1 e2 e3
    have hnx := HNX.out (by rw [HONE.out]; rfl)
    have hsz := HSZ.out
    rw [HONE.out, if_neg (by simp)] at hnx hsz
    simp only [] at hnx hsz
    have hve : k + (V3 - k) = V3 := HVE.out rfl
    have hgo := HGO.out
    rw [HONE.out, if_neg (by simp)] at hgo
    have hrs := HRS.out.cut e5
    rw [hve, ← e4] at hrs
    refine ⟨V3, lims, f1, m, out, r, L, ⟨F1, F2, z⟩, hrs, hnx.2, hl, o1, by omega, by omega, hsz, by omega, ?_, HRR.out, HD2.out⟩
    simpa using hgo
  · subst hok
    have hgo := HGO.out
    rw [HONE.out] at hgo
    exact ⟨m, m, L, L, _, r, _, by simpa [ubad] using hgo.symm, HD2.out⟩
  · cases ok with
    | false => simp [Rμ, lenOf, okOf]
    | true =>
      obtain ⟨e1, e2, e3, e4, e5⟩ := HFAC.out rfl
      have hnx := HNX.out (by rw [HONE.out]; rfl)
      rw [HONE.out, if_neg (by simp)] at hnx
      simp only [] at hnx
      have := HRS.out.len
      simp [Rμ, lenOf, okOf]
      omega
end Go.Proofs.YtiandidencnlcaaDoor
/- read, at its label 2: an index. -/
namespace Go.Proofs.YtiandidencnlcaaDoor
open Go.RowKit
set_option maxRecDepth 100000 in
set_option maxHeartbeats 8000000 in
theorem read_2 (w : World) (St : Nat → Prop) (p t g : Nat) (b : List Nat) (room : Int) (D : Blk) (E : REnv w St p t g b) : Passes w St p t g b room D 2 := by
  intro a wr hJ
  obtain ⟨x8, x10, x11, x13, A, n, c, T, q, k, ⟨u, rfl⟩, ⟨lims, f, m, out, r, L, fd, hRs, hk, hl, hq, hT, hol, htk, hf, hgo, hr, hD⟩, hkb, hy⟩ := hJ
  refine ⟨_, rfl, ?_⟩
  obtain ⟨f1, rfl⟩ : ∃ f1, f = f1 + 1 := ⟨f - 1, by omega⟩
  rw [ugo, if_pos hkb] at hgo
  obtain ⟨S1, h1, h2, h3, h4, h5, h6, h7, h8, h9⟩ := id hD
  have hRwr := E.rdy.keep h3 E.free
  have hpl := E.low
  have hn1 : n ≤ 100000 := by have := hRs.len; have := E.len; omega
  have HN := unum_f A (b.drop k) n c 7 wr hRwr (hRs.at' wr h3) (fun x hx => E.byt x (List.mem_of_mem_drop hx)) (by rw [List.length_drop]; exact hRs.len) hRs.nil hRs.cap hn1 (by omega) (by omega)
  rw [show ((7 : Nat) : Int) = 7 from rfl] at HN
  have hbits : ubits (b.getD k 0) = 7 := by unfold ubits; rw [if_pos hy]
  obtain ⟨G, hG⟩ : ∃ G, G = Pn.getI (b.drop k) 7 := ⟨_, rfl⟩
  have hone : uone b k m L = uoneG b k m L (b.getD k 0) G.1 G.2.1 G.2.2 := by rw [uone, hbits, hG]; rfl
  have hnx := uone_next b k m L hkb
  have hsz := uone_size b k m L (by have := h1.fits; omega)
  rw [← hG] at HN
  obtain ⟨v, j, e⟩ := G
  have HU : Hid (e = 0 → 1 ≤ j ∧ j ≤ n ∧ v ≤ 2147483647) := Lib.hid (fun he => by
    subst he
    have := get_used (b.drop k) 7 v j (by omega) (by omega) hG.symm
    rw [List.length_drop, hRs.len] at this
    omega)
  have hcel : wr.cell? ⟨p, 0, none⟩ = some (.pointer (some ⟨t, 0, none⟩)) := (h3.cell (p := ⟨p, 0, none⟩) hpl E.own).trans E.cel
  have HATF : Hid (∀ W : World, Below wr.heap.size wr W → v ≤ 2147483647 → Calls Tryd.prog 60 #[.pointer (some ⟨p, 0, none⟩), .int .i64 (v : Int)] W (FPost W (ufield L (v : Int)))) := Lib.hid (fun W hB hv => uat_f W (hRwr.below hB) S1 p t m v L ((hB.cell (p := ⟨p, 0, none⟩) (World.block_lt_of_cell? wr _ hcel)).trans hcel) (h1.keep (S' := fun _ => False) (Keeps.of_below hB) (fun _ _ h => h)) hv)
  have hgl := lt_of_heap h6
  have HD := Lib.hid hD
  have HRS := Lib.hid hRs
  have HRR := Lib.hid hr
  have HH6 := Lib.hid h6
  have HOUT : Hid (T = tot out ∧ out.length ≤ k ∧ tot out ≤ 40000 * k ∧ b.length - k < f1 + 1) := Lib.hid ⟨hT, hol, htk, hf⟩
  have HGO := Lib.hid hgo
  have HONE := Lib.hid hone
  have HNX := Lib.hid hnx
  have HSZ := Lib.hid hsz
  have HKB := Lib.hid hkb
  have HY := Lib.hid hy
  clear hRs hD hr h1 h2 h3 h4 h5 h6 h7 h8 h9 hT hol htk hf hgo hone hnx hsz hkb hy hbits hG hcel hRwr hq hk
  by_cases he : e = 0
  · obtain ⟨hu1, hu2, hv⟩ := HU.out he
    subst he
    replace HN : Hid (Calls Tryd.prog 59 #[.slice A n c, .int .i64 7] wr (fun e1 w' => ∃ A' c', e1 = .returned (.tuple #[.int .i64 (v : Int), .slice A' (n - j) c', .bool true]) ∧ Cut A c A' c' j n ∧ Below wr.heap.size wr w')) := Lib.hid HN
    obtain ⟨F, hF⟩ : ∃ F, F = ufield L (v : Int) := ⟨_, rfl⟩
    have HUO : Hid (uone b k m L = ⟨F.1, k + j, false, F.2, m, L⟩) := Lib.hid (by rw [HONE.out, uoneG, if_neg (by simp), if_pos HY.out, hF])
    rw [← hF] at HATF
    obtain ⟨⟨X, Y, Z⟩, ok⟩ := F
    clear hF HONE HU
    go_wp2_with fail
    with_reducible refine (HN.out).mono ?_
    rintro e1 w1 ⟨A1, c1, rfl, hC, hb1⟩
    simp only []
    have hat := HATF.out w1 hb1 hv
    replace hat : Hid (Calls Tryd.prog 60 #[.pointer (some ⟨p, 0, none⟩), .int .i64 (v : Int)] w1 (fun e1 w' => e1 = .returned (.tuple #[.agg #[.string X, .string Y, .bool Z], .bool ok]) ∧ Below w1.heap.size w1 w')) := Lib.hid hat
    have HC := Lib.hid hC
    have HB1 := Lib.hid hb1
    clear hC hb1 HATF HN
    go_wp2_with fail
    with_reducible refine (hat.out).mono ?_
    rintro e1 w2 ⟨rfl, hb2⟩
    simp only []
    have hb12 := HB1.out.trans (hb2.mono HB1.out.size)
    have hh2 := (hb12.block g hgl).trans HH6.out
    have fz0 : w2.frozen? ⟨g, 0, none⟩ = false := frozen_of_row w2 g 0 _ 52 hh2
    have fz1 : w2.frozen? ⟨g, 1, none⟩ = false := frozen_of_row w2 g 1 _ 52 hh2
    have fz2 : w2.frozen? ⟨g, 2, none⟩ = false := frozen_of_row w2 g 2 _ 52 hh2
    have q0 : w2.cell? ⟨g, 0, none⟩ = some (.string fd.name) := cell_of_row w2 g 0 _ 52 _ hh2
    have q1 : w2.cell? ⟨g, 1, none⟩ = some (.string fd.value) := cell_of_row w2 g 1 _ 52 _ hh2
    have q2 : w2.cell? ⟨g, 2, none⟩ = some (.bool fd.never) := cell_of_row w2 g 2 _ 52 _ hh2
    have HD2 := Lib.hid ((HD.out.quiet hb12).put (fd2 := ⟨X, Y, Z⟩))
    clear hh2 hb12 hb2 hat HH6 HD
    go_wp2
    go_step3
    refine ⟨⟨_, _, _, _, A1, n - j, c1, T, ok, RFr.mk, fun hok => ?_, fun hok => ?_⟩, ?_⟩
    · subst hok
      obtain ⟨h1, h2, h3, h4⟩ := HOUT.out
      have hnx := HNX.out (by rw [HUO.out])
      have hsz := HSZ.out
      rw [HUO.out] at hnx hsz
      simp only [] at hnx hsz
      have hgo := HGO.out
      rw [HUO.out] at hgo
      refine ⟨k + j, lims, f1, m, out, r, L, ⟨X, Y, Z⟩, HRS.out.cut HC.out, hnx.2, hl, h1, by omega, by omega, hsz, by omega, ?_, HRR.out, HD2.out⟩
      simpa using hgo
    · subst hok
      have hgo := HGO.out
      rw [HUO.out] at hgo
      exact ⟨m, m, L, L, _, r, ⟨X, Y, Z⟩, by simpa using hgo.symm, HD2.out⟩
    · simp [Rμ, lenOf, okOf]
      split <;> omega
  · have HUO : Hid (uone b k m L = ubad m L) := Lib.hid (by rw [HONE.out, uoneG, if_pos he])
    replace HN : Hid (Calls Tryd.prog 59 #[.slice A n c, .int .i64 7] wr (fun e1 w' => ∃ A' c', e1 = .returned (.tuple #[.int .i64 (v : Int), .slice A' (n - j) c', .bool false]) ∧ Cut A c A' c' j n ∧ Below wr.heap.size wr w')) := by rw [show false = decide (e = 0) from (decide_eq_false he).symm]; exact Lib.hid HN
    clear HONE HU he HATF HNX HSZ
    go_wp2_with fail
    with_reducible refine (HN.out).mono ?_
    rintro e1 w1 ⟨A1, c1, rfl, hC, hb1⟩
    simp only []
    have HD2 := Lib.hid (HD.out.quiet hb1)
    clear hC hb1 HN HD HH6
    go_wp2
    go_step3
    refine ⟨⟨_, _, _, _, A1, n - j, c1, T, false, RFr.mk, fun hok => (Bool.noConfusion hok), fun _ => ?_⟩, by simp [Rμ, lenOf, okOf]⟩
    have hgo := HGO.out
    rw [HUO.out] at hgo
    exact ⟨m, m, L, L, _, r, fd, by simpa [ubad] using hgo.symm, HD2.out⟩
end Go.Proofs.YtiandidencnlcaaDoor
