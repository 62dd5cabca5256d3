/- Contract of field of the document's encoder. -/
import Derived.Test.YtiandidencnlcaaDoorQRef2
import Derived.Test.YtiandidencnlcaaDoorQLLit
import Derived.Deep.RegionHeld3
import Derived.Deep.DeepCutAuto
import Derived.BigQuiet
import Derived.Deep.QuietTactic
namespace Go.Proofs.YtiandidencnlcaaDoor
open Go.RowKit

theorem pstr_le (s : List Nat) (h : s.length ≤ 16384) : (pstr s).length ≤ 70000 := by
  have h1 := Pn.put_six 128 7 ((Hf.nBits s + 7) / 8) (by have := nBits_le s; omega)
  have h2 := Pn.put_six 0 7 s.length (by omega)
  have h3 := Hf.enc_len s
  unfold pstr
  split <;> rw [List.length_append] <;> omega
/-- What field hands back: bytes somewhere; the encoder then. -/
def FlPost (S : Nat → Prop) (w : World) (p q : Nat) (s : EncS) (B : List Nat) (e : Ending) (w' : World) : Prop :=
  ∃ A c, e = .returned (.slice A B.length c) ∧ At .u8 w' w'.heap.size A B ∧ (A = none → c = 0) ∧ B.length ≤ c ∧ REPost S w p q s w'
set_option maxRecDepth 100000 in
set_option maxHeartbeats 8000000 in
theorem rqfield_any (f : Fld) (w : World) (S : Nat → Prop) (p q : Nat) (s : EncS) (h : RE w S p q s) (hf : f.fits) :
    Calls Tryd.prog 38 #[.pointer (some ⟨p, 0, none⟩), .agg #[.string f.name, .string f.value, .bool f.never]] w (FlPost S w p q ⟨s.most, (pfld s.most s.tab f).2, s.told, s.least, s.set⟩ (pfld s.most s.tab f).1) := by
  obtain ⟨F1, F2, F3⟩ := f
  obtain ⟨hf1, hf2⟩ := hf
  simp only [] at hf1 hf2 ⊢
  have hbd := h.bounds
  -- the box
  have hb1 : Below w.heap.size w (w.alloc (.cells #[.string F1, .string F2, .bool F3] 52)) := (Below.refl _ _).alloc (Nat.le_refl _) _
  have hgh : (w.alloc (.cells #[.string F1, .string F2, .bool F3] 52)).heap[w.heap.size]? = some (.cells #[.string F1, .string F2, .bool F3] 52 (0, 0)) := heap_alloc_new w _
  obtain ⟨g, hg⟩ : ∃ g, g = w.heap.size := ⟨_, rfl⟩
  obtain ⟨w1, hw1⟩ : ∃ w1, w1 = w.alloc (.cells #[.string F1, .string F2, .bool F3] 52) := ⟨_, rfl⟩
  rw [← hw1] at hb1 hgh
  rw [← hg] at hgh
  have hgl : g < w1.heap.size := lt_of_heap' hgh
  have HG0 := Lib.hid fun (W : World) (hb : Below w1.heap.size w1 W) => (hb.cell (p := ⟨g, 0, none⟩) hgl).trans (cell_of_row _ g 0 _ 52 _ hgh)
  have HG1 := Lib.hid fun (W : World) (hb : Below w1.heap.size w1 W) => (hb.cell (p := ⟨g, 1, none⟩) hgl).trans (cell_of_row _ g 1 _ 52 _ hgh)
  have HG2 := Lib.hid fun (W : World) (hb : Below w1.heap.size w1 W) => (hb.cell (p := ⟨g, 2, none⟩) hgl).trans (cell_of_row _ g 2 _ 52 _ hgh)
  have g0 := HG0.out w1 (Below.refl _ _)
  have g1 := HG1.out w1 (Below.refl _ _)
  have HFD := Lib.hid (rfind_any F1 F2 w1)
  have HB1 := Lib.hid hb1
  have HRE := Lib.hid h
  have HG := Lib.hid hg
  have HW := Lib.hid hw1
  have hln : s.tab.length ≤ 128 := by have := tot_pos s.tab; omega
  obtain ⟨b, hb⟩ : ∃ b, b = (St.fnd F1.toList F2.toList 61 0).1 := ⟨_, rfl⟩
  obtain ⟨nn, hnn⟩ : ∃ b, b = (St.fnd F1.toList F2.toList 61 0).2 := ⟨_, rfl⟩
  obtain ⟨o, ho⟩ : ∃ b, b = (fndL F1.toList F2.toList s.tab 0).1 := ⟨_, rfl⟩
  obtain ⟨nd, hnd⟩ : ∃ b, b = (fndL F1.toList F2.toList s.tab 0).2 := ⟨_, rfl⟩
  have hle := fndL_le F1.toList F2.toList s.tab
  rw [← ho, ← hnd] at hle
  have HBO : Hid (pboth s.tab F1 F2 = if 0 < b then b else if 0 < o then 61 + o else 0) := Lib.hid (by rw [hb, ho]; rfl)
  have HNA : Hid (pname s.tab F1 F2 = if 0 < nn then nn else if 0 < nd then 61 + nd else 0) := Lib.hid (by rw [hnn, hnd]; rfl)
  have hBl := both_le s.tab F1 F2 (by omega)
  have hNl := name_le s.tab F1 F2 (by omega)
  obtain ⟨B, hB⟩ : ∃ B, B = pboth s.tab F1 F2 := ⟨_, rfl⟩
  obtain ⟨N, hN⟩ : ∃ N, N = pname s.tab F1 F2 := ⟨_, rfl⟩
  rw [← hB] at HBO hBl
  rw [← hN] at HNA hNl
  have HFOUND : Hid (found F1 F2 = (b, nn)) := Lib.hid (by rw [hb, hnn]; rfl)
  have HFNDL : Hid (fndL F1.toList F2.toList s.tab 0 = (o, nd)) := Lib.hid (by rw [ho, hnd])
  have HPF : Hid (pfld s.most s.tab ⟨F1, F2, F3⟩ = if 0 < B ∧ F3 = false then (Pn.put 128 7 B, s.tab) else (Pn.put (if F3 then 16 else 64) (if F3 then 4 else 6) N ++ ((if N = 0 then pstr (nums F1) else []) ++ pstr (nums F2)), if F3 then s.tab else addL s.most ⟨F1, F2, F3⟩ s.tab)) := Lib.hid (by rw [hB, hN]; rfl)
  clear hb hnn ho hnd hB hN hgh hb1 h hg hw1
  go_enter Tryd.func38, Tryd.ntmps38
  go_wp2_with fail
  rw [← HW.out, ← HG.out]
  with_reducible refine (HFD.out).mono ?_
  rw [HFOUND.out]
  rintro e w2 ⟨rfl, hb2⟩
  have x0 : w2.cell? ⟨p, 0, none⟩ = some (.pointer (some ⟨q, 0, none⟩)) := (HRE.out.quiet (HB1.out.trans (hb2.mono HB1.out.size))).c0
  have hre2 := HRE.out.quiet (HB1.out.trans (hb2.mono HB1.out.size))
  have HTF := Lib.hid (fun (n : Nat) => (show Calls Tryd.prog 55 #[.pointer (some ⟨q, 0, none⟩), .string F1, .string F2] (w2.drewN n) fun e w' => e = .returned (.tuple #[.int .i64 (o : Int), .int .i64 (nd : Int)]) ∧ w' = w2.drewN n by
    obtain ⟨S1, hT, _⟩ := (hre2.quiet (below_drewN (Below.refl _ _) n)).table
    have := rtfind_any (w2.drewN n) S1 q s.most s.tab F1 F2 hT
    rw [HFNDL.out] at this
    exact this))
  have y0 := HG0.out w2 hb2
  have y1 := HG1.out w2 hb2
  have HB2 := Lib.hid hb2
  clear hre2 g0 g1 hb2 HFD
  go_wp2
  go_quiet (first | (go_at_call 55; refine Calls.quiet_of_same (HTF.out _)))
  obtain ⟨w3, hw3⟩ : ∃ w3, w3 = w2.drewN nq := ⟨_, rfl⟩
  have hb3 : Below w1.heap.size w1 w3 := by rw [hw3]; exact below_drewN HB2.out nq
  rw [← hw3]
  have HB3 := Lib.hid hb3
  clear hw3 x0 y0 y1 HTF hb3 HB2
  -- the index with both
  obtain ⟨DB, hDB⟩ : ∃ D, D = decide (0 < o ∧ b = 0) := ⟨_, rfl⟩
  have HDB := Lib.hid hDB
  clear hDB
  go_upto_region 3 with fail
  go_cut [40] (fun x wx => x = .bool DB ∧ wx = w3)
  case first =>
    by_cases o1 : (0 : Int) < (o : Int)
    · by_cases b1 : b = 0
      · have q1 : ((b : Int) == 0) = true := by simp; omega
        have HQ := Lib.hid b1
        clear b1
        go_wp2
        go_meet
        case rel => exact ⟨by rw [HDB.out, decide_eq_true ⟨by omega, HQ.out⟩], rfl⟩
      · have q1 : ((b : Int) == 0) = false := by simp; omega
        have HQ := Lib.hid b1
        clear b1
        go_wp2
        go_meet
        case rel => exact ⟨by rw [HDB.out, decide_eq_false (fun h => HQ.out h.2)], rfl⟩
    · go_wp2
      go_meet
      case rel => exact ⟨by rw [HDB.out, decide_eq_false (by omega)], rfl⟩
  case rest =>
  obtain ⟨e1, e2⟩ := hcut
  subst e1
  rw [e2]
  clear e2
  go_upto_if 40 with fail
  go_cut [5] (fun x wx => x = .int .i64 (B : Int) ∧ wx = w3)
  case first =>
    cases hc : DB with
    | true =>
      have hx : 0 < o ∧ b = 0 := of_decide_eq_true (by rw [← HDB.out, hc])
      have HE : Hid (B = 61 + o) := Lib.hid (by rw [HBO.out, if_neg (by omega), if_pos hx.1])
      have eB : (61 : Int) + (o : Int) = (B : Int) := by have := HE.out; omega
      clear hx
      go_wp2
      go_meet
      case rel => exact ⟨rfl, rfl⟩
    | false =>
      have hx : ¬ (0 < o ∧ b = 0) := of_decide_eq_false (by rw [← HDB.out, hc])
      have HE : Hid (B = b) := Lib.hid (by
        rw [HBO.out]
        by_cases hb0 : 0 < b
        · rw [if_pos hb0]
        · rw [if_neg hb0, if_neg (by omega)]; omega)
      clear hx
      go_wp2
      go_meet
      case rel => exact ⟨by rw [HE.out], rfl⟩
  case rest =>
  obtain ⟨e1, e2⟩ := hcut
  subst e1
  rw [e2]
  clear e2
  -- the index with the name
  obtain ⟨DN, hDN⟩ : ∃ D, D = decide (0 < nd ∧ nn = 0) := ⟨_, rfl⟩
  have HDN := Lib.hid hDN
  clear hDN
  go_upto_region 5 with fail
  go_cut [48] (fun x wx => x = .bool DN ∧ wx = w3)
  case first =>
    by_cases o1 : (0 : Int) < (nd : Int)
    · by_cases b1 : nn = 0
      · have q1 : ((nn : Int) == 0) = true := by simp; omega
        have HQ := Lib.hid b1
        clear b1
        go_wp2
        go_meet
        case rel => exact ⟨by rw [HDN.out, decide_eq_true ⟨by omega, HQ.out⟩], rfl⟩
      · have q1 : ((nn : Int) == 0) = false := by simp; omega
        have HQ := Lib.hid b1
        clear b1
        go_wp2
        go_meet
        case rel => exact ⟨by rw [HDN.out, decide_eq_false (fun h => HQ.out h.2)], rfl⟩
    · go_wp2
      go_meet
      case rel => exact ⟨by rw [HDN.out, decide_eq_false (by omega)], rfl⟩
  case rest =>
  obtain ⟨e1, e2⟩ := hcut
  subst e1
  rw [e2]
  clear e2
  go_upto_if 48 with fail
  go_cut [6] (fun x wx => x = .int .i64 (N : Int) ∧ wx = w3)
  case first =>
    cases hc : DN with
    | true =>
      have hx : 0 < nd ∧ nn = 0 := of_decide_eq_true (by rw [← HDN.out, hc])
      have HE : Hid (N = 61 + nd) := Lib.hid (by rw [HNA.out, if_neg (by omega), if_pos hx.1])
      have eB : (61 : Int) + (nd : Int) = (N : Int) := by have := HE.out; omega
      clear hx
      go_wp2
      go_meet
      case rel => exact ⟨rfl, rfl⟩
    | false =>
      have hx : ¬ (0 < nd ∧ nn = 0) := of_decide_eq_false (by rw [← HDN.out, hc])
      have HE : Hid (N = nn) := Lib.hid (by
        rw [HNA.out]
        by_cases hb0 : 0 < nn
        · rw [if_pos hb0]
        · rw [if_neg hb0, if_neg (by omega)]; omega)
      clear hx
      go_wp2
      go_meet
      case rel => exact ⟨by rw [HE.out], rfl⟩
  case rest =>
  obtain ⟨e1, e2⟩ := hcut
  subst e1
  rw [e2]
  clear e2
  have z0 : w3.cell? ⟨g, 0, none⟩ = some (.string F1) := HG0.out w3 HB3.out
  have z1 : w3.cell? ⟨g, 1, none⟩ = some (.string F2) := HG1.out w3 HB3.out
  have z2 : w3.cell? ⟨g, 2, none⟩ = some (.bool F3) := HG2.out w3 HB3.out
  have HBW : Hid (Below w.heap.size w w3) := Lib.hid (HB1.out.trans (HB3.out.mono HB1.out.size))
  -- as an index?
  obtain ⟨DC, hDC⟩ : ∃ D, D = (decide (0 < B) && !F3) := ⟨_, rfl⟩
  have HDC := Lib.hid hDC
  clear hDC
  go_upto_region 7 with fail
  go_cut [57] (fun x wx => x = .bool DC ∧ wx = w3)
  case first =>
    by_cases hB0 : (0 : Int) < (B : Int)
    · go_wp2
      go_meet
      case rel => exact ⟨by rw [HDC.out, decide_eq_true (by omega)]; rfl, rfl⟩
    · go_wp2
      go_meet
      case rel => exact ⟨by rw [HDC.out, decide_eq_false (by omega)]; rfl, rfl⟩
  case rest =>
  obtain ⟨e1, e2⟩ := hcut
  subst e1
  rw [e2]
  clear e2
  cases hc : DC with
  | true =>
    have hx : 0 < B ∧ F3 = false := by have := HDC.out; rw [hc] at this; simpa using this.symm
    have HPF2 := Lib.hid (HPF.out.trans (if_pos hx))
    have hp := rput_row 128 7 B w3 (by omega) (by omega) (by omega) (by omega)
    rw [show ((128 : Nat) : Int) = 128 from rfl, show ((7 : Nat) : Int) = 7 from rfl] at hp
    have HPT := Lib.hid hp
    clear hp hx z0 z1 z2 HDC HPF
    go_wp2_with fail
    with_reducible refine (HPT.out).mono ?_
    rintro e w4 ⟨v4, rfl, hr4⟩
    obtain ⟨A4, c4, rfl, hat4, hn4, hc4⟩ := hr4.at
    have HR4 := Lib.hid hr4.2
    have HA4 := Lib.hid hat4
    clear hr4 hat4 HPT
    go_wp2
    go_ret
    rw [HPF2.out]
    refine ⟨A4, c4, rfl, HA4.out, hn4, hc4, ?_⟩
    have hb4 := HBW.out.trans (HR4.out.mono HBW.out.size)
    exact ⟨S, HRE.out.quiet hb4, fun _ hx => .inl hx, Keeps.of_below hb4⟩
  | false =>
    have hx : ¬ (0 < B ∧ F3 = false) := by
      have := HDC.out
      rw [hc] at this
      intro h
      rw [decide_eq_true h.1, h.2] at this
      cases this
    have HPF2 := Lib.hid (HPF.out.trans (if_neg hx))
    clear hx HDC HPF
    cases F3 with
    | false =>
      have hp := rput_row 64 6 N w3 (by omega) (by omega) (by omega) (by omega)
      rw [show ((64 : Nat) : Int) = 64 from rfl, show ((6 : Nat) : Int) = 6 from rfl] at hp
      obtain ⟨P, hP⟩ : ∃ P, P = Pn.put 64 6 N := ⟨_, rfl⟩
      have hPl : P.length ≤ 6 := by rw [hP]; exact Pn.put_six 64 6 N (by omega)
      have hPp : 1 ≤ P.length := by rw [hP]; exact Pn.put_pos 64 6 N
      simp only [Bool.false_eq_true, if_false] at HPF2
      rw [← hP] at hp HPF2
      have HPT := Lib.hid hp
      clear hp hP z0 z1
      by_cases hN0 : N = 0
      · have q1 : ((N : Int) == 0) = true := by simp; omega
        have HPF3 := HPF2.out
        rw [if_pos hN0] at HPF3
        obtain ⟨E1, hE1⟩ : ∃ E, E = pstr (nums F1) := ⟨_, rfl⟩
        rw [← hE1, ← List.append_assoc] at HPF3
        have hq1 := fun (W : World) => rqput_any F1 W hf1
        rw [← hE1] at hq1
        have HQ1 := Lib.hid hq1
        have hE1l : E1.length ≤ 70000 := by rw [hE1]; exact pstr_le _ (by rw [nums_len]; exact hf1)
        clear hE1 hq1
        obtain ⟨E2, hE2⟩ : ∃ E, E = pstr (nums F2) := ⟨_, rfl⟩
        rw [← hE2] at HPF3
        have hq2 := fun (W : World) => rqput_any F2 W hf2
        rw [← hE2] at hq2
        have HQ2 := Lib.hid hq2
        have hE2l : E2.length ≤ 70000 := by rw [hE2]; exact pstr_le _ (by rw [nums_len]; exact hf2)
        have HPF4 := Lib.hid HPF3
        clear hE2 hq2 hN0 HPF2 HPF3
        go_wp2_with fail
        with_reducible refine (HPT.out).mono ?_
        rintro e w4 ⟨v4, rfl, hr4⟩
        obtain ⟨g4, c4, rfl, hg4, _⟩ := own_form hr4.1 (by omega)
        have HR4 := Lib.hid hr4.1
        have HB4 := Lib.hid hr4.2
        have y0 : w4.cell? ⟨g, 0, none⟩ = some (.string F1) := HG0.out w4 (HB3.out.trans (hr4.2.mono HB3.out.size))
        have y1 : w4.cell? ⟨g, 1, none⟩ = some (.string F2) := HG1.out w4 (HB3.out.trans (hr4.2.mono HB3.out.size))
        clear hr4 HPT z2
        go_wp2_with fail
        with_reducible refine (HQ1.out w4).mono ?_
        rintro e w5 ⟨v5, rfl, hr5⟩
        obtain ⟨A5, c5, rfl, hat5, hn5, hc5⟩ := hr5.at
        have HO5 := Lib.hid (own_keep HR4.out hr5.2)
        have HB5 : Hid (Below w3.heap.size w3 w5) := Lib.hid (HB4.out.trans (hr5.2.mono HB4.out.size))
        have HAT5 := Lib.hid hat5
        clear hr5 hat5 HR4 y0 y1 HQ1
        obtain ⟨P2, hP2⟩ : ∃ P2, P2 = P ++ E1 := ⟨_, rfl⟩
        have HP2 := Lib.hid hP2
        have HP2L : Hid (P2.length ≤ 70006 ∧ 1 ≤ P2.length) := Lib.hid (by rw [hP2, List.length_append]; omega)
        rw [← hP2] at HPF4
        clear hP2
        go_wp2_with (at_builtin; refine wpList_append_at rfl (.tmp 75) (.tmp 78) rfl w3.heap.size _ P rfl HO5.out A5 E1 _ c5 rfl rfl hn5 _ HAT5.out (by omega) (HB5.out.size) ?_; intro v6 w6 hown6 hg6; rw [← HP2.out] at hown6; have HO6 := Lib.hid hown6; have HB6 : Hid (Below w3.heap.size w3 w6) := Lib.hid (HB5.out.grown hg6 HB5.out.size (own_block HO5.out)); have y1 : w6.cell? ⟨g, 1, none⟩ = some (.string F2) := HG1.out w6 (HB3.out.trans (HB6.out.mono HB3.out.size)); obtain ⟨g6, c6, rfl, _, _⟩ := own_form hown6 (by have := HP2L.out; omega); clear hown6 hg6 HO5 HB5)
        with_reducible refine (HQ2.out w6).mono ?_
        rintro e w7 ⟨v7, rfl, hr7⟩
        obtain ⟨A7, c7, rfl, hat7, hn7, hc7⟩ := hr7.at
        have HO7 := Lib.hid (own_keep HO6.out hr7.2)
        have HB7 : Hid (Below w3.heap.size w3 w7) := Lib.hid (HB6.out.trans (hr7.2.mono HB6.out.size))
        have HAT7 := Lib.hid hat7
        clear hr7 hat7 HO6 y1 HQ2
        obtain ⟨P3, hP3⟩ : ∃ P3, P3 = P2 ++ E2 := ⟨_, rfl⟩
        have HP3 := Lib.hid hP3
        have HP3L : Hid (1 ≤ P3.length) := Lib.hid (by rw [hP3, List.length_append]; have := HP2L.out; omega)
        rw [← hP3] at HPF4
        clear hP3
        go_wp2_with (at_builtin; refine wpList_append_at rfl (.tmp 80) (.tmp 83) rfl w3.heap.size _ P2 rfl HO7.out A7 E2 _ c7 rfl rfl hn7 _ HAT7.out (by have := HP2L.out; omega) (HB7.out.size) ?_; intro v8 w8 hown8 hg8; rw [← HP3.out] at hown8; have HO8 := Lib.hid hown8; have HB8 : Hid (Below w3.heap.size w3 w8) := Lib.hid (HB7.out.grown hg8 HB7.out.size (own_block HO7.out)); have x2 : w8.cell? ⟨g, 2, none⟩ = some (.bool false) := HG2.out w8 (HB3.out.trans (HB8.out.mono HB3.out.size)); have x1 : w8.cell? ⟨g, 1, none⟩ = some (.string F2) := HG1.out w8 (HB3.out.trans (HB8.out.mono HB3.out.size)); have x0 : w8.cell? ⟨g, 0, none⟩ = some (.string F1) := HG0.out w8 (HB3.out.trans (HB8.out.mono HB3.out.size)); have xp : w8.cell? ⟨p, 0, none⟩ = some (.pointer (some ⟨q, 0, none⟩)) := (HRE.out.quiet (HBW.out.trans (HB8.out.mono HBW.out.size))).c0; obtain ⟨g8, c8, rfl, hg8B, _⟩ := own_form hown8 (by have := HP3L.out; omega); clear hown8 hg8 HO7 HB7)
        have hb8 : Below w.heap.size w w8.drew := (HBW.out.trans (HB8.out.mono HBW.out.size)).drew
        have hre8 := HRE.out.quiet hb8
        obtain ⟨S1, hT8, hs8, hF8⟩ := hre8.table
        have HADD := Lib.hid (radd_any w8.drew S1 q s.most s.tab ⟨F1, F2, false⟩ hT8 (by omega) (by unfold fsize; simp only []; omega))
        have HKEY : Hid (∀ w9, TPost S1 w8.drew q s.most (addL s.most ⟨F1, F2, false⟩ s.tab) w9 → w9.ownsRow w3.heap.size 5 1 (.slice (some ⟨g8, 0, none⟩) P3.length c8) P3.length (cn .u8 P3) ∧ REPost S w p q ⟨s.most, addL s.most ⟨F1, F2, false⟩ s.tab, s.told, s.least, s.set⟩ w9) := Lib.hid (fun w9 hP9 => by
          refine ⟨?_, REPost.then (fun _ hx => .inl hx) (Keeps.of_below hb8) (hF8 w9 s.most _ hP9 (fit_tot _ _) hbd.2.1)⟩
          obtain ⟨_, _, _, hK9⟩ := hP9
          refine row_keeps (wr := w8.drew) HO8.out hK9 (fun k hk hs => ?_)
          simp only [Value.ownBlock, Option.some.injEq] at hk
          subst hk
          have := HRE.out.low g8 (hs8 g8 hs)
          have := HBW.out.size
          omega)
        clear hb8 hre8 hT8 hs8 hF8 HO8 HB8
        go_wp2
        go_region_with (first
          | ((with_reducible refine (HADD.out).mono ?_); rintro e w9 ⟨rfl, hP9⟩; have HK9 := Lib.hid (HKEY.out w9 hP9); clear hP9))
        all_goals
          go_wp2
          go_ret
          rw [HPF4.out]
          exact ⟨_, c8, rfl, At.of_own HK9.out.1, (fun h => by cases h), own_cap HK9.out.1, HK9.out.2⟩
      · have q1 : ((N : Int) == 0) = false := by simp; omega
        have HPF3 := HPF2.out
        rw [if_neg hN0, List.nil_append] at HPF3
        obtain ⟨E2, hE2⟩ : ∃ E, E = pstr (nums F2) := ⟨_, rfl⟩
        rw [← hE2] at HPF3
        have hq2 := fun (W : World) => rqput_any F2 W hf2
        rw [← hE2] at hq2
        have HQ2 := Lib.hid hq2
        have hE2l : E2.length ≤ 70000 := by rw [hE2]; exact pstr_le _ (by rw [nums_len]; exact hf2)
        have HPF4 := Lib.hid HPF3
        clear hE2 hq2 hN0 HPF2 HPF3
        go_wp2_with fail
        with_reducible refine (HPT.out).mono ?_
        rintro e w4 ⟨v4, rfl, hr4⟩
        obtain ⟨g4, c4, rfl, hg4, _⟩ := own_form hr4.1 (by omega)
        have HR4 := Lib.hid hr4.1
        have HB4 := Lib.hid hr4.2
        have y0 : w4.cell? ⟨g, 0, none⟩ = some (.string F1) := HG0.out w4 (HB3.out.trans (hr4.2.mono HB3.out.size))
        have y1 : w4.cell? ⟨g, 1, none⟩ = some (.string F2) := HG1.out w4 (HB3.out.trans (hr4.2.mono HB3.out.size))
        clear hr4 HPT z2
        have HP2L : Hid (P.length ≤ 70006 ∧ 1 ≤ P.length) := Lib.hid (by omega)
        go_wp2_with fail
        with_reducible refine (HQ2.out w4).mono ?_
        rintro e w7 ⟨v7, rfl, hr7⟩
        obtain ⟨A7, c7, rfl, hat7, hn7, hc7⟩ := hr7.at
        have HO7 := Lib.hid (own_keep HR4.out hr7.2)
        have HB7 : Hid (Below w3.heap.size w3 w7) := Lib.hid (HB4.out.trans (hr7.2.mono HB4.out.size))
        have HAT7 := Lib.hid hat7
        clear hr7 hat7 HR4 y1 HQ2 y0
        obtain ⟨P3, hP3⟩ : ∃ P3, P3 = P ++ E2 := ⟨_, rfl⟩
        have HP3 := Lib.hid hP3
        have HP3L : Hid (1 ≤ P3.length) := Lib.hid (by rw [hP3, List.length_append]; have := HP2L.out; omega)
        rw [← hP3] at HPF4
        clear hP3
        go_wp2_with (at_builtin; refine wpList_append_at rfl (.tmp 80) (.tmp 83) rfl w3.heap.size _ P rfl HO7.out A7 E2 _ c7 rfl rfl hn7 _ HAT7.out (by have := HP2L.out; omega) (HB7.out.size) ?_; intro v8 w8 hown8 hg8; rw [← HP3.out] at hown8; have HO8 := Lib.hid hown8; have HB8 : Hid (Below w3.heap.size w3 w8) := Lib.hid (HB7.out.grown hg8 HB7.out.size (own_block HO7.out)); have x2 : w8.cell? ⟨g, 2, none⟩ = some (.bool false) := HG2.out w8 (HB3.out.trans (HB8.out.mono HB3.out.size)); have x1 : w8.cell? ⟨g, 1, none⟩ = some (.string F2) := HG1.out w8 (HB3.out.trans (HB8.out.mono HB3.out.size)); have x0 : w8.cell? ⟨g, 0, none⟩ = some (.string F1) := HG0.out w8 (HB3.out.trans (HB8.out.mono HB3.out.size)); have xp : w8.cell? ⟨p, 0, none⟩ = some (.pointer (some ⟨q, 0, none⟩)) := (HRE.out.quiet (HBW.out.trans (HB8.out.mono HBW.out.size))).c0; obtain ⟨g8, c8, rfl, hg8B, _⟩ := own_form hown8 (by have := HP3L.out; omega); clear hown8 hg8 HO7 HB7)
        have hb8 : Below w.heap.size w w8.drew := (HBW.out.trans (HB8.out.mono HBW.out.size)).drew
        have hre8 := HRE.out.quiet hb8
        obtain ⟨S1, hT8, hs8, hF8⟩ := hre8.table
        have HADD := Lib.hid (radd_any w8.drew S1 q s.most s.tab ⟨F1, F2, false⟩ hT8 (by omega) (by unfold fsize; simp only []; omega))
        have HKEY : Hid (∀ w9, TPost S1 w8.drew q s.most (addL s.most ⟨F1, F2, false⟩ s.tab) w9 → w9.ownsRow w3.heap.size 5 1 (.slice (some ⟨g8, 0, none⟩) P3.length c8) P3.length (cn .u8 P3) ∧ REPost S w p q ⟨s.most, addL s.most ⟨F1, F2, false⟩ s.tab, s.told, s.least, s.set⟩ w9) := Lib.hid (fun w9 hP9 => by
          refine ⟨?_, REPost.then (fun _ hx => .inl hx) (Keeps.of_below hb8) (hF8 w9 s.most _ hP9 (fit_tot _ _) hbd.2.1)⟩
          obtain ⟨_, _, _, hK9⟩ := hP9
          refine row_keeps (wr := w8.drew) HO8.out hK9 (fun k hk hs => ?_)
          simp only [Value.ownBlock, Option.some.injEq] at hk
          subst hk
          have := HRE.out.low g8 (hs8 g8 hs)
          have := HBW.out.size
          omega)
        clear hb8 hre8 hT8 hs8 hF8 HO8 HB8
        go_wp2
        go_region_with (first
          | ((with_reducible refine (HADD.out).mono ?_); rintro e w9 ⟨rfl, hP9⟩; have HK9 := Lib.hid (HKEY.out w9 hP9); clear hP9))
        all_goals
          go_wp2
          go_ret
          rw [HPF4.out]
          exact ⟨_, c8, rfl, At.of_own HK9.out.1, (fun h => by cases h), own_cap HK9.out.1, HK9.out.2⟩
    | true =>
      have hp := rput_row 16 4 N w3 (by omega) (by omega) (by omega) (by omega)
      rw [show ((16 : Nat) : Int) = 16 from rfl, show ((4 : Nat) : Int) = 4 from rfl] at hp
      obtain ⟨P, hP⟩ : ∃ P, P = Pn.put 16 4 N := ⟨_, rfl⟩
      have hPl : P.length ≤ 6 := by rw [hP]; exact Pn.put_six 16 4 N (by omega)
      have hPp : 1 ≤ P.length := by rw [hP]; exact Pn.put_pos 16 4 N
      simp only [if_true] at HPF2
      rw [← hP] at hp HPF2
      have HPT := Lib.hid hp
      clear hp hP z0 z1
      by_cases hN0 : N = 0
      · have q1 : ((N : Int) == 0) = true := by simp; omega
        have HPF3 := HPF2.out
        rw [if_pos hN0] at HPF3
        obtain ⟨E1, hE1⟩ : ∃ E, E = pstr (nums F1) := ⟨_, rfl⟩
        rw [← hE1, ← List.append_assoc] at HPF3
        have hq1 := fun (W : World) => rqput_any F1 W hf1
        rw [← hE1] at hq1
        have HQ1 := Lib.hid hq1
        have hE1l : E1.length ≤ 70000 := by rw [hE1]; exact pstr_le _ (by rw [nums_len]; exact hf1)
        clear hE1 hq1
        obtain ⟨E2, hE2⟩ : ∃ E, E = pstr (nums F2) := ⟨_, rfl⟩
        rw [← hE2] at HPF3
        have hq2 := fun (W : World) => rqput_any F2 W hf2
        rw [← hE2] at hq2
        have HQ2 := Lib.hid hq2
        have hE2l : E2.length ≤ 70000 := by rw [hE2]; exact pstr_le _ (by rw [nums_len]; exact hf2)
        have HPF4 := Lib.hid HPF3
        clear hE2 hq2 hN0 HPF2 HPF3
        go_wp2_with fail
        with_reducible refine (HPT.out).mono ?_
        rintro e w4 ⟨v4, rfl, hr4⟩
        obtain ⟨g4, c4, rfl, hg4, _⟩ := own_form hr4.1 (by omega)
        have HR4 := Lib.hid hr4.1
        have HB4 := Lib.hid hr4.2
        have y0 : w4.cell? ⟨g, 0, none⟩ = some (.string F1) := HG0.out w4 (HB3.out.trans (hr4.2.mono HB3.out.size))
        have y1 : w4.cell? ⟨g, 1, none⟩ = some (.string F2) := HG1.out w4 (HB3.out.trans (hr4.2.mono HB3.out.size))
        clear hr4 HPT z2
        go_wp2_with fail
        with_reducible refine (HQ1.out w4).mono ?_
        rintro e w5 ⟨v5, rfl, hr5⟩
        obtain ⟨A5, c5, rfl, hat5, hn5, hc5⟩ := hr5.at
        have HO5 := Lib.hid (own_keep HR4.out hr5.2)
        have HB5 : Hid (Below w3.heap.size w3 w5) := Lib.hid (HB4.out.trans (hr5.2.mono HB4.out.size))
        have HAT5 := Lib.hid hat5
        clear hr5 hat5 HR4 y0 y1 HQ1
        obtain ⟨P2, hP2⟩ : ∃ P2, P2 = P ++ E1 := ⟨_, rfl⟩
        have HP2 := Lib.hid hP2
        have HP2L : Hid (P2.length ≤ 70006 ∧ 1 ≤ P2.length) := Lib.hid (by rw [hP2, List.length_append]; omega)
        rw [← hP2] at HPF4
        clear hP2
        go_wp2_with (at_builtin; refine wpList_append_at rfl (.tmp 75) (.tmp 78) rfl w3.heap.size _ P rfl HO5.out A5 E1 _ c5 rfl rfl hn5 _ HAT5.out (by omega) (HB5.out.size) ?_; intro v6 w6 hown6 hg6; rw [← HP2.out] at hown6; have HO6 := Lib.hid hown6; have HB6 : Hid (Below w3.heap.size w3 w6) := Lib.hid (HB5.out.grown hg6 HB5.out.size (own_block HO5.out)); have y1 : w6.cell? ⟨g, 1, none⟩ = some (.string F2) := HG1.out w6 (HB3.out.trans (HB6.out.mono HB3.out.size)); obtain ⟨g6, c6, rfl, _, _⟩ := own_form hown6 (by have := HP2L.out; omega); clear hown6 hg6 HO5 HB5)
        with_reducible refine (HQ2.out w6).mono ?_
        rintro e w7 ⟨v7, rfl, hr7⟩
        obtain ⟨A7, c7, rfl, hat7, hn7, hc7⟩ := hr7.at
        have HO7 := Lib.hid (own_keep HO6.out hr7.2)
        have HB7 : Hid (Below w3.heap.size w3 w7) := Lib.hid (HB6.out.trans (hr7.2.mono HB6.out.size))
        have HAT7 := Lib.hid hat7
        clear hr7 hat7 HO6 y1 HQ2
        obtain ⟨P3, hP3⟩ : ∃ P3, P3 = P2 ++ E2 := ⟨_, rfl⟩
        have HP3 := Lib.hid hP3
        have HP3L : Hid (1 ≤ P3.length) := Lib.hid (by rw [hP3, List.length_append]; have := HP2L.out; omega)
        rw [← hP3] at HPF4
        clear hP3
        go_wp2_with (at_builtin; refine wpList_append_at rfl (.tmp 80) (.tmp 83) rfl w3.heap.size _ P2 rfl HO7.out A7 E2 _ c7 rfl rfl hn7 _ HAT7.out (by have := HP2L.out; omega) (HB7.out.size) ?_; intro v8 w8 hown8 hg8; rw [← HP3.out] at hown8; have HO8 := Lib.hid hown8; have HB8 : Hid (Below w3.heap.size w3 w8) := Lib.hid (HB7.out.grown hg8 HB7.out.size (own_block HO7.out)); have x2 : w8.cell? ⟨g, 2, none⟩ = some (.bool true) := HG2.out w8 (HB3.out.trans (HB8.out.mono HB3.out.size)); have x1 : w8.cell? ⟨g, 1, none⟩ = some (.string F2) := HG1.out w8 (HB3.out.trans (HB8.out.mono HB3.out.size)); have x0 : w8.cell? ⟨g, 0, none⟩ = some (.string F1) := HG0.out w8 (HB3.out.trans (HB8.out.mono HB3.out.size)); have xp : w8.cell? ⟨p, 0, none⟩ = some (.pointer (some ⟨q, 0, none⟩)) := (HRE.out.quiet (HBW.out.trans (HB8.out.mono HBW.out.size))).c0; obtain ⟨g8, c8, rfl, hg8B, _⟩ := own_form hown8 (by have := HP3L.out; omega); clear hown8 hg8 HO7 HB7)
        go_ret
        rw [HPF4.out]
        have hb8 := HBW.out.trans (HB8.out.mono HBW.out.size)
        exact ⟨_, c8, rfl, At.of_own HO8.out, (fun h => by cases h), own_cap HO8.out, ⟨S, HRE.out.quiet hb8, fun _ hx => .inl hx, Keeps.of_below hb8⟩⟩
      · have q1 : ((N : Int) == 0) = false := by simp; omega
        have HPF3 := HPF2.out
        rw [if_neg hN0, List.nil_append] at HPF3
        obtain ⟨E2, hE2⟩ : ∃ E, E = pstr (nums F2) := ⟨_, rfl⟩
        rw [← hE2] at HPF3
        have hq2 := fun (W : World) => rqput_any F2 W hf2
        rw [← hE2] at hq2
        have HQ2 := Lib.hid hq2
        have hE2l : E2.length ≤ 70000 := by rw [hE2]; exact pstr_le _ (by rw [nums_len]; exact hf2)
        have HPF4 := Lib.hid HPF3
        clear hE2 hq2 hN0 HPF2 HPF3
        go_wp2_with fail
        with_reducible refine (HPT.out).mono ?_
        rintro e w4 ⟨v4, rfl, hr4⟩
        obtain ⟨g4, c4, rfl, hg4, _⟩ := own_form hr4.1 (by omega)
        have HR4 := Lib.hid hr4.1
        have HB4 := Lib.hid hr4.2
        have y0 : w4.cell? ⟨g, 0, none⟩ = some (.string F1) := HG0.out w4 (HB3.out.trans (hr4.2.mono HB3.out.size))
        have y1 : w4.cell? ⟨g, 1, none⟩ = some (.string F2) := HG1.out w4 (HB3.out.trans (hr4.2.mono HB3.out.size))
        clear hr4 HPT z2
        have HP2L : Hid (P.length ≤ 70006 ∧ 1 ≤ P.length) := Lib.hid (by omega)
        go_wp2_with fail
        with_reducible refine (HQ2.out w4).mono ?_
        rintro e w7 ⟨v7, rfl, hr7⟩
        obtain ⟨A7, c7, rfl, hat7, hn7, hc7⟩ := hr7.at
        have HO7 := Lib.hid (own_keep HR4.out hr7.2)
        have HB7 : Hid (Below w3.heap.size w3 w7) := Lib.hid (HB4.out.trans (hr7.2.mono HB4.out.size))
        have HAT7 := Lib.hid hat7
        clear hr7 hat7 HR4 y1 HQ2 y0
        obtain ⟨P3, hP3⟩ : ∃ P3, P3 = P ++ E2 := ⟨_, rfl⟩
        have HP3 := Lib.hid hP3
        have HP3L : Hid (1 ≤ P3.length) := Lib.hid (by rw [hP3, List.length_append]; have := HP2L.out; omega)
        rw [← hP3] at HPF4
        clear hP3
        go_wp2_with (at_builtin; refine wpList_append_at rfl (.tmp 80) (.tmp 83) rfl w3.heap.size _ P rfl HO7.out A7 E2 _ c7 rfl rfl hn7 _ HAT7.out (by have := HP2L.out; omega) (HB7.out.size) ?_; intro v8 w8 hown8 hg8; rw [← HP3.out] at hown8; have HO8 := Lib.hid hown8; have HB8 : Hid (Below w3.heap.size w3 w8) := Lib.hid (HB7.out.grown hg8 HB7.out.size (own_block HO7.out)); have x2 : w8.cell? ⟨g, 2, none⟩ = some (.bool true) := HG2.out w8 (HB3.out.trans (HB8.out.mono HB3.out.size)); have x1 : w8.cell? ⟨g, 1, none⟩ = some (.string F2) := HG1.out w8 (HB3.out.trans (HB8.out.mono HB3.out.size)); have x0 : w8.cell? ⟨g, 0, none⟩ = some (.string F1) := HG0.out w8 (HB3.out.trans (HB8.out.mono HB3.out.size)); have xp : w8.cell? ⟨p, 0, none⟩ = some (.pointer (some ⟨q, 0, none⟩)) := (HRE.out.quiet (HBW.out.trans (HB8.out.mono HBW.out.size))).c0; obtain ⟨g8, c8, rfl, hg8B, _⟩ := own_form hown8 (by have := HP3L.out; omega); clear hown8 hg8 HO7 HB7)
        go_ret
        rw [HPF4.out]
        have hb8 := HBW.out.trans (HB8.out.mono HBW.out.size)
        exact ⟨_, c8, rfl, At.of_own HO8.out, (fun h => by cases h), own_cap HO8.out, ⟨S, HRE.out.quiet hb8, fun _ hx => .inl hx, Keeps.of_below hb8⟩⟩
end Go.Proofs.YtiandidencnlcaaDoor
