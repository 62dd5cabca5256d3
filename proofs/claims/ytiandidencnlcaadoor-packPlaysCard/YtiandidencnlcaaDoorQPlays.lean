/- The walk of PackPlays. -/
import Derived.Test.YtiandidencnlcaaDoorQByte
import Derived.Test.YtiandidencnlcaaDoorUObj
import Derived.Test.YtiandidencnlcaaDoorLRng
import Derived.Deep.RegionHeld3
namespace Go.Proofs.YtiandidencnlcaaDoor
open Go.RowKit

theorem peersP_next (zs : List Int) (s : EncS) (j : Nat) (hj : j < zs.length) : (zs.take (j + 1)).foldl EncS.peer s = ((zs.take j).foldl EncS.peer s).peer zs[j] := by
  rw [List.take_succ_eq_append_getElem hj, List.foldl_append]
  rfl
namespace packPlays
def PlR9 (w : World) (l : List Opp) (pa ta pb qb : Nat) (i : Value) (wr : World) : Prop :=
  ∃ (k : Nat) (s : EncS) (m : Nat) (L : List Fld) (Y : Nat → Prop), k ≤ l.length ∧ i = .int .i64 (k : Int) ∧ EE w pa ta s pb qb s Y wr ∧ Sync s m L
def PpR (w : World) (pa ta pb qb : Nat) (Y : Nat → Prop) (s : EncS) (zs : List Int) (i : Value) (wr : World) : Prop :=
  ∃ j : Nat, j ≤ zs.length ∧ i = .int .i64 (j : Int) ∧ EE w pa ta ((zs.take j).foldl EncS.peer s) pb qb ((zs.take j).foldl EncS.peer s) Y wr
set_option maxRecDepth 100000 in
set_option maxHeartbeats 16000000 in
theorem walk_any (A : Option Addr) (l : List Opp) (n c : Nat) (w : World) (hR : Rdy w) (hA : AtP w w.heap.size A l) (hl : l.length = n) : Calls Tryd.prog 3 #[.slice A n c] w (Yes w) := by
  have HR := Lib.hid fun (w' : World) (hb : Below w.heap.size w w') => hR.below hb
  have HFI := Lib.hid (first9_any w hR)
  have HL := Lib.hid hl
  have HA := Lib.hid hA
  have HFW := Lib.hid fun (W : World) (hb : Below w.heap.size w W) => (show Calls Tryd.prog 11 #[.slice A n c] W (BoolPost W (few9 l)) from few9_any A l n c W (fun hne => by
    obtain ⟨b, o, e, hB, hc⟩ := hA hne
    refine ⟨b, o, e, Nat.lt_of_lt_of_le hB hb.size, fun i hi => ?_⟩
    obtain ⟨c0, c1, c2⟩ := hc i hi
    exact ⟨(hb.cell (p := ⟨b, o + i * 2, none⟩) hB).trans c0, (hb.cell (p := ⟨b, o + i * 2 + 1, none⟩) hB).trans c1, c2.up hb⟩) hl)
  clear hR hA hl
  go_enter Tryd.func3, Tryd.ntmps3
  go_wp2_with fail
  with_reducible refine (HFI.out).mono ?_
  rintro e w1 ⟨rfl, hb1⟩
  have HB1 := Lib.hid hb1
  have HN1 := Lib.hid (qnew_f w1 (HR.out w1 hb1))
  clear hb1 HFI
  go_wp2_with fail
  with_reducible refine (HN1.out).mono ?_
  rintro e w2 ⟨pa, ta, Sa, rfl, ha2, hSa, hb2⟩
  have HB2 := Lib.hid (HB1.out.trans (hb2.mono HB1.out.size))
  have HN3 := Lib.hid (rqnew_any w2)
  have HA2 := Lib.hid ha2
  have HSA : Hid (∀ x, Sa x → w1.heap.size ≤ x) := Lib.hid hSa
  have HB12 := Lib.hid hb2
  clear ha2 hSa hb2 HN1
  go_wp2_with fail
  with_reducible refine (HN3.out).mono ?_
  rintro e w4 ⟨pb, qb, Sb, rfl, hd4, hSd, hb4⟩
  have HB4 := Lib.hid (HB2.out.trans (hb4.mono HB2.out.size))
  have HPD4 : Hid (EE w pa ta EncS.new pb qb EncS.new (fun x => x < w1.heap.size) w4) := Lib.hid (by
    refine ⟨Sa, Sb, HA2.out.quiet hb4, hd4, fun x hx => Nat.le_trans HB1.out.size (HSA.out x hx), fun x hx => Nat.le_trans HB2.out.size (hSd x hx), fun x h1 h2 => ?_, fun x hx => ⟨Nat.lt_of_lt_of_le hx (Nat.le_trans HB12.out.size hb4.size), fun h => ?_, fun h => ?_⟩, HB4.out⟩
    · have a1 := HA2.out.low x h1
      have a2 := hSd x h2
      omega
    · have := HSA.out x h
      omega
    · have := hSd x h
      have := HB12.out.size
      omega)
  have HF := Lib.hid (HFW.out w4 HB4.out)
  clear hd4 hSd hb4 HN3 HA2 HSA HB12 HB2 HB1 HFW
  go_wp2_with fail
  with_reducible refine (HF.out).mono ?_
  rintro e w5 ⟨rfl, hb5⟩
  cases hfw : few9 l with
  | false =>
    have hb5w := HB4.out.trans (hb5.mono HB4.out.size)
    have HF2 := Lib.hid (first9_any w5 (HR.out w5 hb5w))
    have HBW := Lib.hid hb5w
    clear hb5 hb5w HF HPD4
    go_wp2_with fail
    with_reducible refine (HF2.out).mono ?_
    rintro e w6 ⟨rfl, hb6⟩
    have hZ := HBW.out.trans (hb6.mono HBW.out.size)
    clear hb6
    go_wp2
    go_ret
    exact ⟨rfl, hZ⟩
  | true =>
    have HPD5 := Lib.hid (HPD4.out.quiet hb5)
    obtain ⟨f1, f2, f3⟩ := few9_is hfw
    have HFEW : Hid ((∀ q ∈ l, q.flds.length ≤ 200 ∧ q.lims.length ≤ 50) ∧ tot (l.flatMap Opp.flds) ≤ 46400) := Lib.hid ⟨f2, f3⟩
    have hn60 : n ≤ 60 := by have := HL.out; omega
    clear hb5 HF HPD4 f1 f2 f3 hfw HB4
    go_wp2
    go_loopw [5, 6, 7, 8, 9, 10] (fun i _ _ _ _ _ wr => PlR9 w l pa ta pb qb i wr) (fun i _ _ _ _ _ _ => n - (intOf i).toNat)
    case atStart => exact ⟨0, EncS.new, 4096, [], _, Nat.zero_le _, rfl, HPD5.out, sync_new⟩
    case round =>
      obtain ⟨k, s, m, L, Y, hk, rfl, hPD, hsy⟩ := hrel
      by_cases hlt : k < n
      · have ki : (k : Int) < (n : Int) := by omega
        have hkl : k < l.length := by have := HL.out; omega
        obtain ⟨b, o, rfl, hB, hc⟩ := HA.out.pos (by omega)
        obtain ⟨d0, d1, hok⟩ := hc k hkl
        obtain ⟨q, hq⟩ : ∃ q, q = l[k] := ⟨_, rfl⟩
        rw [← hq] at d0 d1 hok
        have hqm : q ∈ l := by rw [hq]; exact List.getElem_mem hkl
        have htot : tot q.flds ≤ 46400 := by
          have h1 := HFEW.out.2
          have h2 := tot_flat (l.map Opp.flds) q.flds (List.mem_map_of_mem hqm)
          rw [List.flatMap_def] at h1
          omega
        obtain ⟨fl, hfl⟩ : ∃ x, x = q.flds.length := ⟨_, rfl⟩
        obtain ⟨ll, hll⟩ : ∃ x, x = q.lims.length := ⟨_, rfl⟩
        rw [← hfl] at d1
        rw [← hll] at d0
        have hfl2 : fl ≤ 200 := by rw [hfl]; exact (HFEW.out.1 q hqm).1
        have hll2 : ll ≤ 50 := by rw [hll]; exact (HFEW.out.1 q hqm).2
        have D0 := Lib.hid fun (W : World) (hb : Below w.heap.size w W) => (hb.cell (p := ⟨b, o + k * 2, none⟩) hB).trans d0
        have D1 := Lib.hid fun (W : World) (hb : Below w.heap.size w W) => (hb.cell (p := ⟨b, o + k * 2 + 1, none⟩) hB).trans d1
        have HOKW := Lib.hid hok
        have hfroom := hok.froom
        rw [← hfl] at hfroom
        have HPD := Lib.hid hPD
        have HSY := Lib.hid hsy
        have HFLE := Lib.hid hfl
        have HLLE := Lib.hid hll
        have HTOT := Lib.hid htot
        have HKL := Lib.hid hkl
        clear hPD hsy hc d0 d1 hok hq hqm hfl hll htot hkl
        go_wp2
        go_loopw [6] (fun i wr => PpR w pa ta pb qb Y s q.lims i wr) (fun i _ => ll - (intOf i).toNat)
        case atStart => exact ⟨0, Nat.zero_le _, rfl, by simpa using HPD.out⟩
        case round =>
          obtain ⟨j, hj, rfl, hPDj⟩ := hrel
          rw [← HLLE.out] at hj
          have y0 := D0.out _ hPDj.below
          have HPJ := Lib.hid hPDj
          clear hPDj
          by_cases hjl : j < ll
          · have ji : (j : Int) < (ll : Int) := by omega
            have hjq : j < q.lims.length := by have := HLLE.out; omega
            obtain ⟨b2, o2, e2, hb2, hc2⟩ := HOKW.out.ints.pos (by omega)
            have hz := hc2 j hjq
            obtain ⟨z, hzz⟩ : ∃ z, z = q.lims[j] := ⟨_, rfl⟩
            rw [← hzz] at hz
            have hrng : Rng z := by
              have h := HOKW.out.wf z (by rw [hzz]; exact List.getElem_mem hjq)
              have := bounds_i64 h
              unfold Rng
              omega
            rw [e2] at y0
            have yz := (HPJ.out.below.cell (p := ⟨b2, o2 + j, none⟩) hb2).trans hz
            have HZW := Lib.hid fun (W : World) (hb : Below w.heap.size w W) => (hb.cell (p := ⟨b2, o2 + j, none⟩) hb2).trans hz
            have HPR := Lib.hid (HPJ.out.peerA (HR.out _ HPJ.out.below) z hrng)
            have HNX : Hid ((q.lims.take (j + 1)).foldl EncS.peer s = ((q.lims.take j).foldl EncS.peer s).peer z) := Lib.hid (by rw [hzz]; exact peersP_next q.lims s j hjq)
            have HLAD := Lib.hid e2
            clear hz hc2 hzz hjq hrng hb2 e2
            go_wp2_with fail
            with_reducible refine (HPR.out).mono ?_
            rintro e w6 ⟨rfl, hP6⟩
            have y6 := D0.out w6 hP6.below
            rw [HLAD.out] at y6
            have yz6 := HZW.out w6 hP6.below
            have HPR2 := Lib.hid (hP6.peerB z)
            clear hP6 HPR yz y0
            go_wp2_with fail
            with_reducible refine (HPR2.out).mono ?_
            rintro e w7 ⟨rfl, hP7⟩
            have HP7 := Lib.hid hP7
            clear hP7 HPR2 y6 yz6 HZW
            go_wp2
            go_roundw
            case rel => exact ⟨j + 1, by have := HLLE.out; omega, by go_num, by rw [HNX.out]; exact HP7.out⟩
            case measure => simp [intOf]; omega
          · obtain rfl : j = ll := by omega
            have ji : ¬ (j : Int) < (j : Int) := by omega
            have hbw := HPJ.out.below
            have eall : q.lims.take j = q.lims := List.take_of_length_le (by have := HLLE.out; omega)
            have hPDj := HPJ.out
            rw [eall] at hPDj
            obtain ⟨sp, hsp⟩ : ∃ x, x = q.lims.foldl EncS.peer s := ⟨_, rfl⟩
            rw [← hsp] at hPDj
            have hsyp : Sync sp m L := by
              have hall : ∀ (zs : List Int) (s0 : EncS), Sync s0 m L → Sync (zs.foldl EncS.peer s0) m L := fun zs => by
                induction zs with
                | nil => exact fun _ h => h
                | cons z r ih => exact fun _ h => ih _ (h.peer z)
              rw [hsp]
              exact hall q.lims s HSY.out
            obtain ⟨Bs, er, s2, D, hE, hU, hdead, hs2, hmost, hbyte, hblen, hcase⟩ := hsyp.step q.flds HTOT.out
            have hHE := hPDj.encA (HR.out wr hbw) q.fad q.flds fl q.fcap (HOKW.out.fs.up hbw) HFLE.out.symm HOKW.out.fnil hfroom (fun hne a ha => by
              obtain ⟨b2, o2, e2, hb2, _⟩ := HOKW.out.fs hne
              rw [e2] at ha
              injection ha with ha
              subst ha
              exact hb2) (by have := HTOT.out; omega)
            rw [hE] at hHE
            obtain ⟨nb, hnb⟩ : ∃ x, x = Bs.length := ⟨_, rfl⟩
            simp only [← hnb] at hHE
            have y1 := D1.out wr hbw
            have HHE := Lib.hid hHE
            have HNB : Hid (Bs.length = nb ∧ nb ≤ 50000 ∧ ∀ x ∈ Bs, x < 256) := Lib.hid ⟨hnb.symm, by omega, hbyte⟩
            have HE := Lib.hid hE
            have HSY2 : Hid (Sync s2 D.most D.tab) := Lib.hid hs2
            clear hPDj hsyp hsp hE hU hdead hs2 hmost hbyte hblen hcase hHE hnb hbw eall HPJ HSY
            go_wp2_with fail
            with_reducible refine (HHE.out).mono ?_
            rintro e w1 ⟨A1, c1, rfl, hP1, hat1, hc1⟩
            have y1b := D1.out w1 hP1.below
            have hHB := hP1.encB q.fad q.flds fl q.fcap (HOKW.out.fs.up hP1.below) HFLE.out.symm (fun hne a ha => by
              obtain ⟨b2, o2, e2, hb2, _⟩ := HOKW.out.fs hne
              rw [e2] at ha
              injection ha with ha
              subst ha
              exact hb2) (by have := HTOT.out; omega)
            rw [HE.out] at hHB
            simp only [HNB.out.1] at hHB
            have HHB := Lib.hid hHB
            have HAT1 := Lib.hid hat1
            clear hP1 hat1 hc1 hHB HHE y1
            go_wp2_with fail
            with_reducible refine (HHB.out).mono ?_
            rintro e w2 ⟨A2, c2, rfl, hP2, hK2, hat2, hc2⟩
            simp only []
            have hbw2 := hP2.below
            have hat1 : At .u8 w2 w2.heap.size A1 Bs := fun hne => by
              obtain ⟨b3, o3, e3, hb3, hc3⟩ := HAT1.out hne
              exact ⟨b3, o3, e3, Nat.lt_of_lt_of_le hb3 hK2.size, fun i hi => (hK2.cell (p := ⟨b3, o3 + i, none⟩) hb3 (fun hn => hn (.inr ⟨hb3, o3, none, e3⟩))).trans (hc3 i hi)⟩
            have HBY : Hid (∀ W, Below w2.heap.size w2 W → Calls Tryd.prog 16 #[.slice A1 nb c1, .slice A2 nb c2] W (fun e w' => e = .returned (.bool true) ∧ Below W.heap.size W w')) := Lib.hid (fun W hB => by
              refine (bytes_any A1 A2 Bs Bs nb nb c1 c2 W _ _ (hat1.up hB) (hat2.up hB) HNB.out.2.2 HNB.out.2.2 HNB.out.1 HNB.out.1).mono ?_
              rintro e w' ⟨rfl, rfl⟩
              exact ⟨by simp, Below.refl _ _⟩)
            have HTB : Hid (∀ W, Below w2.heap.size w2 W → Calls Tryd.prog 18 #[.pointer (some ⟨pa, 0, none⟩)] W (fun e w' => e = .returned (.pointer (some ⟨ta, 0, none⟩)) ∧ Below W.heap.size W w')) := Lib.hid (fun W hB => (hP2.quiet hB).tabA (HR.out W (hbw2.trans (hB.mono hbw2.size))))
            have HSM : Hid (∀ W, Below w2.heap.size w2 W → Calls Tryd.prog 17 #[.pointer (some ⟨ta, 0, none⟩), .pointer (some ⟨qb, 0, none⟩)] W (BoolPost W true)) := Lib.hid (fun W hB => by
              have hq := hP2.quiet hB
              obtain ⟨S1, hD⟩ := hq.dtA
              obtain ⟨⟨S2, hT⟩, _, ht⟩ := hq.rtB
              exact usame_any W S1 S2 ta qb s2.most s2.tab (HR.out W (hbw2.trans (hB.mono hbw2.size))) hD hT ht)
            have x0 := hP2.rtB.2.1
            have HX := Lib.hid fun (W : World) (hB : Below w2.heap.size w2 W) => (hP2.quiet hB).rtB.2.1
            have HREL : Hid (∀ W, Below w2.heap.size w2 W → PlR9 w l pa ta pb qb (.int .i64 ((k + 1 : Nat) : Int)) W) := Lib.hid (fun W hB => ⟨k + 1, s2, D.most, D.tab, _, HKL.out, rfl, hP2.quiet hB, HSY2.out⟩)
            have hd : Below w2.heap.size w2 w2.drew := (Below.refl _ _).drew
            have qer : ((er : Int) != (er : Int)) = false := by simp
            clear hP2 hK2 hat2 hc2 hbw2 hat1 HHB y1b HAT1
            go_wp2
            go_region_held3 (fun w' => w'.cell? ⟨pb, 0, none⟩ = some (.pointer (some ⟨qb, 0, none⟩)))
              (first
                | exact x0
                | exact HX.out _ hb22
                | exact HX.out _ hb21
                | exact HX.out _ hb20)
              (first
                | ((with_reducible refine (HBY.out _ hd).mono ?_); rintro e v20 ⟨rfl, hb20'⟩; have hb20 := hd.trans (hb20'.mono hd.size))
                | ((with_reducible refine (HTB.out _ hb20).mono ?_); rintro e v21 ⟨rfl, hb21'⟩; have hb21 := hb20.trans (hb21'.mono hb20.size))
                | ((with_reducible refine (HSM.out _ hb21).mono ?_); rintro e v22 ⟨rfl, hb22'⟩; have hb22 := hb21.trans (hb22'.mono hb21.size)))
            have HRL := Lib.hid (HREL.out v22 hb22)
            clear x0 HX HREL hd hb20 hb20' hb21 hb21' hb22 hb22' HBY HTB HSM
            go_wp2
            go_roundw
            case rel =>
              have := HRL.out
              rw [show ((k + 1 : Nat) : Int) = (k : Int) + 1 by omega] at this
              exact this
            case measure => simp [intOf]; omega
      · obtain rfl : k = n := by have := HL.out; omega
        have ki : ¬ (k : Int) < (k : Int) := by omega
        have HF2 := Lib.hid (first9_any wr (HR.out wr hPD.below))
        have HPB := Lib.hid hPD.below
        clear hPD hsy
        go_wp2_with fail
        with_reducible refine (HF2.out).mono ?_
        rintro e w6 ⟨rfl, hb6⟩
        have hZ := HPB.out.trans (hb6.mono HPB.out.size)
        clear hb6
        go_wp2
        go_ret
        exact ⟨rfl, hZ⟩
end packPlays
end Go.Proofs.YtiandidencnlcaaDoor
