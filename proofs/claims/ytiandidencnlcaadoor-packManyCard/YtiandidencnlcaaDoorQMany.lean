/- The walk of PackMany. -/
import Derived.Test.YtiandidencnlcaaDoorLFldV
import Derived.Test.YtiandidencnlcaaDoorQByte
import Derived.Test.YtiandidencnlcaaDoorUObj
import Derived.Test.YtiandidencnlcaaDoorLRng
namespace Go.Proofs.YtiandidencnlcaaDoor
open Go.RowKit

theorem At.kept {w w' : World} {Y : Nat → Prop} {A : Option Addr} {l : List Nat} (h : At .u8 w w.heap.size A l) (hk : Keeps (fun x => ¬ Y x) w w') (hY : ∀ x o s, A = some ⟨x, o, s⟩ → x < w.heap.size → Y x) : At .u8 w' w'.heap.size A l := fun hne => by
  obtain ⟨b, o, e, hb, hc⟩ := h hne
  exact ⟨b, o, e, Nat.lt_of_lt_of_le hb hk.size, fun i hi => (hk.cell (p := ⟨b, o + i, none⟩) hb (fun hn => hn (hY b o none e hb))).trans (hc i hi)⟩
theorem AtF.kept {w w' : World} {Y : Nat → Prop} {A : Option Addr} {l : List Fld} (h : AtF w w.heap.size A l) (hk : Keeps (fun x => ¬ Y x) w w') (hY : ∀ x o s, A = some ⟨x, o, s⟩ → x < w.heap.size → Y x) : AtF w' w'.heap.size A l := fun hne => by
  obtain ⟨b, o, e, hb, hc⟩ := h hne
  have hn : ¬ ¬ Y b := fun hn => hn (hY b o none e hb)
  refine ⟨b, o, e, Nat.lt_of_lt_of_le hb hk.size, fun i hi => ?_⟩
  obtain ⟨c0, c1, c2⟩ := hc i hi
  exact ⟨(hk.cell (p := ⟨b, o + i * 3, none⟩) hb hn).trans c0, (hk.cell (p := ⟨b, o + i * 3 + 1, none⟩) hb hn).trans c1, (hk.cell (p := ⟨b, o + i * 3 + 2, none⟩) hb hn).trans c2⟩
namespace packMany
def MnR (w : World) (l : List Opp) (pa ta pb tb pd td : Nat) (i : Value) (wr : World) : Prop :=
  ∃ (k : Nat) (sa : EncS) (m : Nat) (L : List Fld) (Y Sb : Nat → Prop), k ≤ l.length ∧ i = .int .i64 (k : Int) ∧ PD w pa ta sa pd td m L Y wr ∧ QE wr Sb pb tb EncS.new ∧ (∀ x, Sb x → Y x) ∧ Sync sa m L ∧ (k = 0 → sa = EncS.new ∧ m = 4096 ∧ L = [])
set_option maxRecDepth 100000 in
set_option maxHeartbeats 16000000 in
theorem walk_any (A : Option Addr) (l : List Opp) (n c : Nat) (w : World) (hR : Rdy w) (hA : AtP w w.heap.size A l) (hl : l.length = n) : Calls Tryd.prog 7 #[.slice A n c] w (Yes w) := by
  have HR := Lib.hid fun (w' : World) (hb : Below w.heap.size w w') => hR.below hb
  have HFI := Lib.hid (first9_any w hR)
  have HL := Lib.hid hl
  have HA := Lib.hid hA
  have HFW := Lib.hid fun (W : World) (hb : Below w.heap.size w W) => (show Calls Tryd.prog 11 #[.slice A n c] W (BoolPost W (few9 l)) from few9_any A l n c W (fun hne => by
    obtain ⟨b, o, e, hB, hc⟩ := hA hne
    refine ⟨b, o, e, Nat.lt_of_lt_of_le hB hb.size, fun i hi => ?_⟩
    obtain ⟨c0, c1, c2⟩ := hc i hi
    exact ⟨(hb.cell (p := ⟨b, o + i * 2, none⟩) hB).trans c0, (hb.cell (p := ⟨b, o + i * 2 + 1, none⟩) hB).trans c1, c2.up hb⟩) hl)
  clear hR hA hl
  go_enter Tryd.func7, Tryd.ntmps7
  go_wp2_with fail
  with_reducible refine (HFI.out).mono ?_
  rintro e w1 ⟨rfl, hb1⟩
  have HB1 := Lib.hid hb1
  have HN1 := Lib.hid (qnew_f w1 (HR.out w1 hb1))
  clear hb1 HFI
  go_wp2_with fail
  with_reducible refine (HN1.out).mono ?_
  rintro e w2 ⟨pa, ta, Sa, rfl, ha2, hSa, hb2⟩
  have HB2 := Lib.hid (HB1.out.trans (hb2.mono HB1.out.size))
  have HN2 := Lib.hid (qnew_f w2 (HR.out w2 HB2.out))
  have HA2 := Lib.hid ha2
  have HSA : Hid (∀ x, Sa x → w1.heap.size ≤ x) := Lib.hid hSa
  have HB12 := Lib.hid hb2
  clear ha2 hSa hb2 HN1
  go_wp2_with fail
  with_reducible refine (HN2.out).mono ?_
  rintro e w3 ⟨pb, tb, Sb, rfl, hb3', hSb, hb3⟩
  have HB3 := Lib.hid (HB2.out.trans (hb3.mono HB2.out.size))
  have HN3 := Lib.hid (unew_f w3 (HR.out w3 HB3.out))
  have HA3 := Lib.hid (HA2.out.quiet hb3)
  have HQB3 := Lib.hid hb3'
  have HSB : Hid (∀ x, Sb x → w2.heap.size ≤ x) := Lib.hid hSb
  have HB13 := Lib.hid (HB12.out.trans (hb3.mono HB12.out.size))
  have HALT : Hid (∀ x, Sa x → x < w2.heap.size) := Lib.hid HA2.out.low
  clear hb3' hSb hb3 HN2 HA2
  go_wp2_with fail
  with_reducible refine (HN3.out).mono ?_
  rintro e w4 ⟨pd, td, Sd, rfl, hd4, hSd, hb4⟩
  have HB4 := Lib.hid (HB3.out.trans (hb4.mono HB3.out.size))
  have HPD4 : Hid (PD w pa ta EncS.new pd td 4096 [] (fun x => x < w1.heap.size ∨ Sb x) w4) := Lib.hid (by
    refine ⟨Sa, Sd, HA3.out.quiet hb4, hd4, fun x hx => Nat.le_trans HB1.out.size (HSA.out x hx), fun x hx => Nat.le_trans HB3.out.size (hSd x hx), fun x h1 h2 => ?_, fun x hx => ?_, HB4.out⟩
    · have a1 := HALT.out x h1
      have a2 := hSd x h2
      have a3 := HB13.out.size
      have a4 : w2.heap.size ≤ w3.heap.size := by
        rcases Nat.lt_or_ge w3.heap.size w2.heap.size with h | h
        · have a5 := HA3.out.low x h1
          omega
        · exact h
      omega
    · rcases hx with hx | hx
      · refine ⟨Nat.lt_of_lt_of_le hx (Nat.le_trans HB13.out.size hb4.size), fun h => ?_, fun h => ?_⟩
        · have := HSA.out x h
          omega
        · have := hSd x h
          have := HB13.out.size
          omega
      · have a1 := HQB3.out.low x hx
        have a2 := HSB.out x hx
        refine ⟨Nat.lt_of_lt_of_le a1 hb4.size, fun h => ?_, fun h => ?_⟩
        · have := HALT.out x h
          omega
        · have := hSd x h
          omega)
  have HQB4 := Lib.hid (HQB3.out.quiet hb4)
  have HF := Lib.hid (HFW.out w4 HB4.out)
  clear hd4 hSd hb4 HN3 HQB3 HA3 HB13 HALT HSA HSB HB12 HB3 HB2 HB1 HFW
  go_wp2_with fail
  with_reducible refine (HF.out).mono ?_
  rintro e w5 ⟨rfl, hb5⟩
  cases hfw : few9 l with
  | false =>
    have hb5w := HB4.out.trans (hb5.mono HB4.out.size)
    have HF2 := Lib.hid (first9_any w5 (HR.out w5 hb5w))
    have HBW := Lib.hid hb5w
    clear hb5 hb5w HF HPD4 HQB4
    go_wp2_with fail
    with_reducible refine (HF2.out).mono ?_
    rintro e w6 ⟨rfl, hb6⟩
    have hZ := HBW.out.trans (hb6.mono HBW.out.size)
    clear hb6
    go_wp2
    go_ret
    exact ⟨rfl, hZ⟩
  | true =>
    have HPD5 := Lib.hid (HPD4.out.quiet hb5)
    have HQB5 := Lib.hid (HQB4.out.quiet hb5)
    obtain ⟨f1, f2, f3⟩ := few9_is hfw
    have HFEW : Hid ((∀ q ∈ l, q.flds.length ≤ 200 ∧ q.lims.length ≤ 50) ∧ tot (l.flatMap Opp.flds) ≤ 46400) := Lib.hid ⟨f2, f3⟩
    have hn60 : n ≤ 60 := by have := HL.out; omega
    clear hb5 HF HPD4 HQB4 f1 f2 f3 hfw HB4
    go_wp2
    go_loopw [6, 7, 8, 9, 10, 11, 12, 13] (fun i _ _ _ _ _ _ _ wr => MnR w l pa ta pb tb pd td i wr) (fun i _ _ _ _ _ _ _ _ => n - (intOf i).toNat)
    case atStart => exact ⟨0, EncS.new, 4096, [], _, Sb, Nat.zero_le _, rfl, HPD5.out, HQB5.out, fun x hx => .inr hx, sync_new, fun _ => ⟨rfl, rfl, rfl⟩⟩
    case round =>
      obtain ⟨k, sa, m, L, Y, Sb2, hk, rfl, hPD, hQB, hSY, hsy, hk0⟩ := hrel
      by_cases hlt : k < n
      · have ki : (k : Int) < (n : Int) := by omega
        have hkl : k < l.length := by have := HL.out; omega
        obtain ⟨b, o, rfl, hB, hc⟩ := HA.out.pos (by omega)
        obtain ⟨d0, d1, hok⟩ := hc k hkl
        obtain ⟨q, hq⟩ : ∃ q, q = l[k] := ⟨_, rfl⟩
        rw [← hq] at d0 d1 hok
        have hqm : q ∈ l := by rw [hq]; exact List.getElem_mem hkl
        have htot : tot q.flds ≤ 46400 := by
          have h1 := HFEW.out.2
          have h2 := tot_flat (l.map Opp.flds) q.flds (List.mem_map_of_mem hqm)
          rw [List.flatMap_def] at h1
          omega
        obtain ⟨fl, hfl⟩ : ∃ x, x = q.flds.length := ⟨_, rfl⟩
        rw [← hfl] at d1
        have hfl2 : fl ≤ 200 := by rw [hfl]; exact (HFEW.out.1 q hqm).1
        have hbw := hPD.below
        have D1 := Lib.hid d1
        have HOKW := Lib.hid hok
        have hfroom := hok.froom
        rw [← hfl] at hfroom
        obtain ⟨Bs, er, s2, D, hE, hU, hdead, hs2, hmost, hbyte, hblen, hcase⟩ := hsy.step q.flds htot
        have hHE := hPD.enc (HR.out wr hbw) q.fad q.flds fl q.fcap (hok.fs.up hbw) hfl.symm hok.fnil hfroom (fun hne a ha => by
          obtain ⟨b2, o2, e2, hb2, _⟩ := hok.fs hne
          rw [e2] at ha
          injection ha with ha
          subst ha
          exact hb2) (by omega)
        rw [hE] at hHE
        obtain ⟨nb, hnb⟩ : ∃ x, x = Bs.length := ⟨_, rfl⟩
        simp only [← hnb] at hHE
        have y1 : wr.cell? ⟨b, o + k * 2 + 1, none⟩ = some (.slice q.fad fl q.fcap) := (hbw.cell (p := ⟨b, o + k * 2 + 1, none⟩) hB).trans d1
        have HHE := Lib.hid hHE
        have HQB := Lib.hid hQB
        have HSY := Lib.hid hSY
        have HFLE := Lib.hid hfl
        have HNB : Hid (Bs.length = nb ∧ nb ≤ 50000 ∧ ∀ x ∈ Bs, x < 256) := Lib.hid ⟨hnb.symm, by omega, hbyte⟩
        have HU := Lib.hid hU
        have HDE : Hid (D.dead = false ∧ Sync s2 D.most D.tab) := Lib.hid ⟨hdead, hs2⟩
        have HCASE := Lib.hid hcase
        have HTOT := Lib.hid htot
        have HK0 := Lib.hid hk0
        have HKL := Lib.hid hkl
        clear hPD hQB hSY hsy hk0 hc d0 d1 hok hq hqm hfl hE hU hdead hs2 hmost hbyte hblen hcase hHE hnb hbw htot hkl
        go_wp2_with fail
        with_reducible refine (HHE.out).mono ?_
        rintro e w1 ⟨A1, c1, rfl, hPD1, hK1, hat1, hn1, hc1⟩
        have HQB1 : Hid (QE w1 Sb2 pb tb EncS.new) := Lib.hid (HQB.out.keep hK1 (fun x hx hn => hn (HSY.out x hx)))
        have hHD := hPD1.dec (HR.out w1 hPD1.below) A1 Bs nb c1 2147483647 hat1 HNB.out.2.2 HNB.out.1 hn1 (by have := HNB.out.1; omega) (by have := HNB.out.2.1; omega) (fun hne a ha => by
          obtain ⟨b2, o2, e2, hb2, _⟩ := hat1 hne
          rw [e2] at ha
          injection ha with ha
          subst ha
          exact .inr ⟨hb2, o2, none, e2⟩) (by unfold Rng; omega) D HU.out HDE.out.1
        have HHD := Lib.hid hHD
        have HAT1 := Lib.hid hat1
        have HN1 : Hid ((A1 = none → c1 = 0) ∧ nb ≤ c1) := Lib.hid ⟨hn1, by have := HNB.out.1; omega⟩
        obtain ⟨dl, hdl⟩ : ∃ x, x = D.out.length := ⟨_, rfl⟩
        obtain ⟨de, hde⟩ : ∃ x, x = D.err := ⟨_, rfl⟩
        rw [← hdl, ← hde] at HHD
        have HDL := Lib.hid hdl
        have HDER := Lib.hid hde
        clear hPD1 hK1 hat1 hn1 hc1 hHD HHE HQB y1 hdl hde
        go_wp2_with fail
        with_reducible refine (HHD.out).mono ?_
        rintro e w2 ⟨A2, c2, rfl, hPD2, hK2, hat2, hn2, hc2⟩
        have HQB2 : Hid (QE w2 Sb2 pb tb EncS.new) := Lib.hid (HQB1.out.keep hK2 (fun x hx hn => hn (.inl (HSY.out x hx))))
        have HAT2 : Hid (At .u8 w2 w2.heap.size A1 Bs) := Lib.hid (HAT1.out.kept hK2 (fun x o s e hlt => .inr ⟨hlt, o, s, e⟩))
        have HPD2 := Lib.hid hPD2
        have HY2 : Hid (AtF w2 w2.heap.size A2 D.out ∧ (A2 = none → c2 = 0) ∧ dl ≤ c2) := Lib.hid ⟨hat2, hn2, by have := HDL.out; omega⟩
        have HNU := Lib.hid (unew_f w2 (HR.out w2 hPD2.below))
        clear hPD2 hK2 hat2 hn2 hc2 HHD HAT1 HQB1
        go_wp2_with fail
        with_reducible refine (HNU.out).mono ?_
        rintro e w3 ⟨pu, tu, Su, rfl, hu3, hSu, hb3⟩
        have hbw3 := HPD2.out.below.trans (hb3.mono HPD2.out.below.size)
        obtain ⟨D2, hD2⟩ : ∃ D2, D2 = udec Bs 2147483647 false 4096 [] := ⟨_, rfl⟩
        have hHU := udec_f A1 Bs nb c1 2147483647 w3 (HR.out w3 hbw3) Su pu tu 4096 [] false hu3 (HAT2.out.up hb3) HNB.out.2.2 HNB.out.1 HN1.out.1 HN1.out.2 (by have := HNB.out.2.1; omega) (fun hne a ha hs => by
          obtain ⟨b2, o2, e2, hb2, _⟩ := HAT2.out hne
          rw [e2] at ha
          injection ha with ha
          subst ha
          have := hSu _ hs
          simp at this
          omega) (by unfold Rng; omega)
        rw [← hD2] at hHU
        have HHU := Lib.hid hHU
        have HB3 := Lib.hid hb3
        have HSU := Lib.hid hSu
        have HD2 := Lib.hid hD2
        clear hu3 hSu hb3 hHU hbw3 hD2 HNU
        go_wp2_with fail
        with_reducible refine (HHU.out).mono ?_
        rintro e w4 ⟨S4, A4, c4, rfl, _, _, hK4, hat4, hn4, hc4, _⟩
        simp only []
        have hb24 : Below w2.heap.size w2 w4 := HB3.out.trans (hK4.below HSU.out HB3.out.size)
        have HPD4 := Lib.hid (HPD2.out.quiet hb24)
        have HQB4 := Lib.hid (HQB2.out.quiet hb24)
        have HY4 : Hid (AtF w4 w4.heap.size A2 D.out ∧ (A2 = none → c2 = 0) ∧ dl ≤ c2) := Lib.hid ⟨HY2.out.1.up hb24, HY2.out.2⟩
        have hbw4 := (HPD2.out.quiet hb24).below
        have HZ4 : Hid (AtF w4 w4.heap.size A4 D2.out ∧ (A4 = none → c4 = 0) ∧ D2.out.length ≤ c4) := Lib.hid ⟨hat4, hn4, hc4⟩
        have y4 : w4.cell? ⟨b, o + k * 2 + 1, none⟩ = some (.slice q.fad fl q.fcap) := (hbw4.cell (p := ⟨b, o + k * 2 + 1, none⟩) hB).trans D1.out
        have HBW4 := Lib.hid hbw4
        obtain ⟨zl, hzl⟩ : ∃ x, x = D2.out.length := ⟨_, rfl⟩
        obtain ⟨ze, hze⟩ : ∃ x, x = D2.err := ⟨_, rfl⟩
        rw [← hzl, ← hze]
        have HZL := Lib.hid hzl
        have HZE := Lib.hid hze
        clear hK4 hat4 hn4 hc4 hb24 hbw4 hzl hze HHU HPD2 HQB2 HY2 HB3 HSU
        rcases HCASE.out with ⟨e1, e2, e3, e4⟩ | e1
        · subst e1
          have e5 : de = 0 := by rw [HDER.out, e3]
          have e6 : dl = fl := by rw [HDL.out, e2, HFLE.out]
          subst e5 e6
          have hsm := ssame_f A2 q.fad q.flds q.flds dl dl c2 q.fcap w4 (HR.out w4 HBW4.out) (by have := HY4.out.1; rw [e2] at this; exact this) (HOKW.out.fs.up HBW4.out) HFLE.out.symm HFLE.out.symm HY4.out.2.1 HOKW.out.fnil HY4.out.2.2 hfroom (by have := HTOT.out; omega) (by have := HTOT.out; omega) (by omega) (by omega)
          rw [sames_self] at hsm
          have HSM := Lib.hid hsm
          have HE2 := Lib.hid e2
          clear hsm e2 e3 e4 HCASE
          go_wp2_with fail
          with_reducible refine (HSM.out).mono ?_
          rintro e w5 ⟨rfl, hb5⟩
          have HPD5 := Lib.hid (HPD4.out.quiet hb5)
          have HQB5 := Lib.hid (HQB4.out.quiet hb5)
          have HREL : Hid (∀ W, Below w5.heap.size w5 W → MnR w l pa ta pb tb pd td (.int .i64 ((k + 1 : Nat) : Int)) W) := Lib.hid (fun W hB => ⟨k + 1, s2, D.most, D.tab, _, Sb2, HKL.out, rfl, HPD5.out.quiet hB, HQB5.out.quiet hB, fun x hx => .inl (.inl (HSY.out x hx)), HDE.out.2, fun h => by omega⟩)
          by_cases h0 : k = 0
          · obtain ⟨x1, x2, x3⟩ := HK0.out h0
            have hDD : D2 = D := by rw [HD2.out, ← HU.out, x2, x3]
            have e7 : ze = 0 := by rw [HZE.out, hDD, ← HDER.out]
            have e8 : zl = dl := by rw [HZL.out, hDD, ← HDL.out]
            subst e7 e8 h0
            have hz := HZ4.out
            rw [hDD, HE2.out] at hz
            have hy := HY4.out
            rw [HE2.out] at hy
            have hbw5 := HBW4.out.trans (hb5.mono HBW4.out.size)
            have hs2 := ssame_f A4 A2 q.flds q.flds zl zl c4 c2 w5 (HR.out w5 hbw5) (hz.1.up hb5) (hy.1.up hb5) HFLE.out.symm HFLE.out.symm hz.2.1 hy.2.1 (by have := hz.2.2; have := HFLE.out; omega) hy.2.2 (by have := HTOT.out; omega) (by have := HTOT.out; omega) (by omega) (by omega)
            rw [sames_self] at hs2
            have HS2 := Lib.hid hs2
            clear hs2 hz hy hbw5 hDD x1 x2 x3 hb5 y4
            go_wp2_with fail
            with_reducible refine (HS2.out).mono ?_
            rintro e w6 ⟨rfl, hb6⟩
            have HRL := Lib.hid (HREL.out w6 hb6)
            clear hb6 HREL
            go_wp2
            go_roundw
            case rel => exact HRL.out
            case measure => simp [intOf]; omega
          · have h0i : ((k : Int) == 0) = false := by simp; omega
            have HRL := Lib.hid (HREL.out w5 (Below.refl _ _))
            clear hb5 HREL y4
            go_wp2
            go_roundw
            case rel =>
              have := HRL.out
              rw [show ((k + 1 : Nat) : Int) = (k : Int) + 1 by omega] at this
              exact this
            case measure => simp [intOf]; omega
        · subst e1
          have HF2 := Lib.hid (first9_any w4 (HR.out w4 HBW4.out))
          clear HCASE y4
          go_wp2_with fail
          with_reducible refine (HF2.out).mono ?_
          rintro e w5 ⟨rfl, hb5⟩
          have hZ := HBW4.out.trans (hb5.mono HBW4.out.size)
          clear hb5 HF2
          go_wp2
          go_ret
          exact ⟨rfl, hZ⟩
      · obtain rfl : k = n := by have := HL.out; omega
        have ki : ¬ (k : Int) < (k : Int) := by omega
        have HF2 := Lib.hid (first9_any wr (HR.out wr hPD.below))
        have HPB := Lib.hid hPD.below
        have HQB := Lib.hid hQB
        clear hPD hQB hSY hsy hk0
        go_wp2_with fail
        with_reducible refine (HF2.out).mono ?_
        rintro e w6 ⟨rfl, hb6⟩
        have HB6 := Lib.hid (HPB.out.trans (hb6.mono HPB.out.size))
        have HQB6 := Lib.hid (HQB.out.quiet hb6)
        have HTB := Lib.hid (qtab_f w6 (HR.out w6 HB6.out) Sb2 pb tb EncS.new HQB6.out)
        clear hb6 HF2 HQB
        go_wp2_with fail
        with_reducible refine (HTB.out).mono ?_
        rintro e w7 ⟨rfl, hb7⟩
        have HB7 := Lib.hid (HB6.out.trans (hb7.mono HB6.out.size))
        have HQB7 := Lib.hid (HQB6.out.quiet hb7)
        have HTB2 := Lib.hid (qtab_f w7 (HR.out w7 HB7.out) Sb2 pb tb EncS.new HQB7.out)
        clear hb7 HTB HQB6
        go_wp2_with fail
        with_reducible refine (HTB2.out).mono ?_
        rintro e w8 ⟨rfl, hb8⟩
        have HB8 := Lib.hid (HB7.out.trans (hb8.mono HB7.out.size))
        have hq8 := HQB7.out.quiet hb8
        obtain ⟨S9, hT9⟩ := hq8.dt
        have hln := dlen_f w8 S9 tb EncS.new.most EncS.new.tab (HR.out w8 HB8.out) hT9
        replace hln : Calls Tryd.prog 23 #[.pointer (some ⟨tb, 0, none⟩)] w8 (NumPost w8 0) := hln
        have HLN := Lib.hid hln
        clear hb8 HTB2 HQB7 hq8 hT9 hln
        go_wp2_with fail
        with_reducible refine (HLN.out).mono ?_
        rintro e w9 ⟨rfl, hb9⟩
        have hZ := HB8.out.trans (hb9.mono HB8.out.size)
        clear hb9 HLN
        go_wp2
        go_ret
        exact ⟨rfl, hZ⟩
end packMany
end Go.Proofs.YtiandidencnlcaaDoor
