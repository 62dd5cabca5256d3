/- The walk of PackBack. -/
import Derived.Test.YtiandidencnlcaaDoorQMany
import Derived.Deep.RegionHeld3
namespace Go.Proofs.YtiandidencnlcaaDoor
open Go.RowKit

theorem clamp_int (z : Int) : (if (if z < 0 then (0 : Int) else z) > 4096 then (4096 : Int) else (if z < 0 then (0 : Int) else z)) = (clampT z : Int) := by
  unfold clampT
  split <;> split at * <;> omega
theorem Sync.peers {md : Nat} {Ld : List Fld} : ∀ (zs : List Int) (s : EncS), Sync s md Ld → Sync (zs.foldl EncS.peer s) md Ld
  | [], _, h => h
  | z :: r, _, h => Sync.peers r _ (h.peer z)
theorem peers_next (zs : List Int) (s : EncS) (j : Nat) (hj : j < zs.length) : (zs.take (j + 1)).foldl EncS.peer s = ((zs.take j).foldl EncS.peer s).peer zs[j] := by
  rw [List.take_succ_eq_append_getElem hj, List.foldl_append]
  rfl
theorem peers_most (zs : List Int) (s : EncS) (hj : 0 < zs.length) : (zs.foldl EncS.peer s).most = clampT (zs[zs.length - 1]'(by omega)) := by
  obtain ⟨n, hn⟩ : ∃ n, zs.length = n + 1 := ⟨zs.length - 1, by omega⟩
  have h1 := peers_next zs s n (by omega)
  rw [← hn, List.take_length] at h1
  rw [h1]
  simp only [EncS.peer]
  congr 2
  omega
namespace packBack
def BkR9 (w : World) (l : List Opp) (pa ta pd td : Nat) (i : Value) (wr : World) : Prop :=
  ∃ (k : Nat) (sa : EncS) (m : Nat) (L : List Fld) (Y : Nat → Prop), k ≤ l.length ∧ i = .int .i64 (k : Int) ∧ PD w pa ta sa pd td m L Y wr ∧ Sync sa m L
def PrR (w : World) (pa ta pd td m : Nat) (L : List Fld) (Y : Nat → Prop) (sa : EncS) (zs : List Int) (i : Value) (wr : World) : Prop :=
  ∃ j : Nat, j ≤ zs.length ∧ i = .int .i64 (j : Int) ∧ PD w pa ta ((zs.take j).foldl EncS.peer sa) pd td m L Y wr
def GtR9 (ln : Nat) (i : Value) (wb wr : World) : Prop := ∃ j : Nat, 1 ≤ j ∧ j ≤ ln + 1 ∧ i = .int .i64 (j : Int) ∧ Below wb.heap.size wb wr
set_option maxRecDepth 100000 in
set_option maxHeartbeats 16000000 in
theorem walk_any (A : Option Addr) (l : List Opp) (n c : Nat) (w : World) (hR : Rdy w) (hA : AtP w w.heap.size A l) (hl : l.length = n) : Calls Tryd.prog 4 #[.slice A n c] w (Yes w) := by
  have HR := Lib.hid fun (w' : World) (hb : Below w.heap.size w w') => hR.below hb
  have HFI := Lib.hid (first9_any w hR)
  have HL := Lib.hid hl
  have HA := Lib.hid hA
  have HFW := Lib.hid fun (W : World) (hb : Below w.heap.size w W) => (show Calls Tryd.prog 11 #[.slice A n c] W (BoolPost W (few9 l)) from few9_any A l n c W (fun hne => by
    obtain ⟨b, o, e, hB, hc⟩ := hA hne
    refine ⟨b, o, e, Nat.lt_of_lt_of_le hB hb.size, fun i hi => ?_⟩
    obtain ⟨c0, c1, c2⟩ := hc i hi
    exact ⟨(hb.cell (p := ⟨b, o + i * 2, none⟩) hB).trans c0, (hb.cell (p := ⟨b, o + i * 2 + 1, none⟩) hB).trans c1, c2.up hb⟩) hl)
  clear hR hA hl
  go_enter Tryd.func4, Tryd.ntmps4
  go_wp2_with fail
  with_reducible refine (HFI.out).mono ?_
  rintro e w1 ⟨rfl, hb1⟩
  have HB1 := Lib.hid hb1
  have HN1 := Lib.hid (qnew_f w1 (HR.out w1 hb1))
  clear hb1 HFI
  go_wp2_with fail
  with_reducible refine (HN1.out).mono ?_
  rintro e w2 ⟨pa, ta, Sa, rfl, ha2, hSa, hb2⟩
  have HB2 := Lib.hid (HB1.out.trans (hb2.mono HB1.out.size))
  have HN3 := Lib.hid (unew_f w2 (HR.out w2 HB2.out))
  have HA2 := Lib.hid ha2
  have HSA : Hid (∀ x, Sa x → w1.heap.size ≤ x) := Lib.hid hSa
  have HB12 := Lib.hid hb2
  clear ha2 hSa hb2 HN1
  go_wp2_with fail
  with_reducible refine (HN3.out).mono ?_
  rintro e w4 ⟨pd, td, Sd, rfl, hd4, hSd, hb4⟩
  have HB4 := Lib.hid (HB2.out.trans (hb4.mono HB2.out.size))
  have HPD4 : Hid (PD w pa ta EncS.new pd td 4096 [] (fun x => x < w1.heap.size) w4) := Lib.hid (by
    refine ⟨Sa, Sd, HA2.out.quiet hb4, hd4, fun x hx => Nat.le_trans HB1.out.size (HSA.out x hx), fun x hx => Nat.le_trans HB2.out.size (hSd x hx), fun x h1 h2 => ?_, fun x hx => ⟨Nat.lt_of_lt_of_le hx (Nat.le_trans HB12.out.size hb4.size), fun h => ?_, fun h => ?_⟩, HB4.out⟩
    · have a1 := HA2.out.low x h1
      have a2 := hSd x h2
      omega
    · have := HSA.out x h
      omega
    · have := hSd x h
      have := HB12.out.size
      omega)
  have HF := Lib.hid (HFW.out w4 HB4.out)
  clear hd4 hSd hb4 HN3 HA2 HSA HB12 HB2 HB1 HFW
  go_wp2_with fail
  with_reducible refine (HF.out).mono ?_
  rintro e w5 ⟨rfl, hb5⟩
  cases hfw : few9 l with
  | false =>
    have hb5w := HB4.out.trans (hb5.mono HB4.out.size)
    have HF2 := Lib.hid (first9_any w5 (HR.out w5 hb5w))
    have HBW := Lib.hid hb5w
    clear hb5 hb5w HF HPD4
    go_wp2_with fail
    with_reducible refine (HF2.out).mono ?_
    rintro e w6 ⟨rfl, hb6⟩
    have hZ := HBW.out.trans (hb6.mono HBW.out.size)
    clear hb6
    go_wp2
    go_ret
    exact ⟨rfl, hZ⟩
  | true =>
    have HPD5 := Lib.hid (HPD4.out.quiet hb5)
    obtain ⟨f1, f2, f3⟩ := few9_is hfw
    have HFEW : Hid ((∀ q ∈ l, q.flds.length ≤ 200 ∧ q.lims.length ≤ 50) ∧ tot (l.flatMap Opp.flds) ≤ 46400) := Lib.hid ⟨f2, f3⟩
    have hn60 : n ≤ 60 := by have := HL.out; omega
    clear hb5 HF HPD4 f1 f2 f3 hfw HB4
    go_wp2
    go_loopw [5, 6, 7, 8, 9, 10, 11, 12, 13, 14, 15, 16, 17, 18] (fun i _ _ _ _ _ _ _ _ _ _ _ _ _ wr => BkR9 w l pa ta pd td i wr) (fun i _ _ _ _ _ _ _ _ _ _ _ _ _ _ => n - (intOf i).toNat)
    case atStart => exact ⟨0, EncS.new, 4096, [], _, Nat.zero_le _, rfl, HPD5.out, sync_new⟩
    case round =>
      obtain ⟨k, sa, m, L, Y, hk, rfl, hPD, hsy⟩ := hrel
      by_cases hlt : k < n
      · have ki : (k : Int) < (n : Int) := by omega
        have hkl : k < l.length := by have := HL.out; omega
        obtain ⟨b, o, rfl, hB, hc⟩ := HA.out.pos (by omega)
        obtain ⟨d0, d1, hok⟩ := hc k hkl
        obtain ⟨q, hq⟩ : ∃ q, q = l[k] := ⟨_, rfl⟩
        rw [← hq] at d0 d1 hok
        have hqm : q ∈ l := by rw [hq]; exact List.getElem_mem hkl
        have htot : tot q.flds ≤ 46400 := by
          have h1 := HFEW.out.2
          have h2 := tot_flat (l.map Opp.flds) q.flds (List.mem_map_of_mem hqm)
          rw [List.flatMap_def] at h1
          omega
        obtain ⟨fl, hfl⟩ : ∃ x, x = q.flds.length := ⟨_, rfl⟩
        obtain ⟨ll, hll⟩ : ∃ x, x = q.lims.length := ⟨_, rfl⟩
        rw [← hfl] at d1
        rw [← hll] at d0
        have hfl2 : fl ≤ 200 := by rw [hfl]; exact (HFEW.out.1 q hqm).1
        have hll2 : ll ≤ 50 := by rw [hll]; exact (HFEW.out.1 q hqm).2
        have D0 := Lib.hid fun (W : World) (hb : Below w.heap.size w W) => (hb.cell (p := ⟨b, o + k * 2, none⟩) hB).trans d0
        have D1 := Lib.hid fun (W : World) (hb : Below w.heap.size w W) => (hb.cell (p := ⟨b, o + k * 2 + 1, none⟩) hB).trans d1
        have HOKW := Lib.hid hok
        have hfroom := hok.froom
        rw [← hfl] at hfroom
        have HPD := Lib.hid hPD
        have HSY := Lib.hid hsy
        have HFLE := Lib.hid hfl
        have HLLE := Lib.hid hll
        have HTOT := Lib.hid htot
        have HKL := Lib.hid hkl
        clear hPD hsy hc d0 d1 hok hq hqm hfl hll htot hkl
        go_wp2
        go_loopw [6] (fun i wr => PrR w pa ta pd td m L Y sa q.lims i wr) (fun i _ => ll - (intOf i).toNat)
        case atStart => exact ⟨0, Nat.zero_le _, rfl, by simpa using HPD.out⟩
        case round =>
          obtain ⟨j, hj, rfl, hPDj⟩ := hrel
          rw [← HLLE.out] at hj
          have y0 := D0.out _ hPDj.below
          have HPJ := Lib.hid hPDj
          clear hPDj
          by_cases hjl : j < ll
          · have ji : (j : Int) < (ll : Int) := by omega
            have hjq : j < q.lims.length := by have := HLLE.out; omega
            obtain ⟨b2, o2, e2, hb2, hc2⟩ := HOKW.out.ints.pos (by omega)
            have hz := hc2 j hjq
            obtain ⟨z, hzz⟩ : ∃ z, z = q.lims[j] := ⟨_, rfl⟩
            rw [← hzz] at hz
            have hrng : Rng z := by
              have h := HOKW.out.wf z (by rw [hzz]; exact List.getElem_mem hjq)
              have := bounds_i64 h
              unfold Rng
              omega
            rw [e2] at y0
            have yz := (HPJ.out.below.cell (p := ⟨b2, o2 + j, none⟩) hb2).trans hz
            have HPR := Lib.hid (HPJ.out.peer (HR.out _ HPJ.out.below) z hrng)
            have HNX : Hid ((q.lims.take (j + 1)).foldl EncS.peer sa = ((q.lims.take j).foldl EncS.peer sa).peer z) := Lib.hid (by rw [hzz]; exact peers_next q.lims sa j hjq)
            have HLAD := Lib.hid e2
            clear hz hc2 hzz hjq hrng hb2 e2
            go_wp2_with fail
            with_reducible refine (HPR.out).mono ?_
            rintro e w6 ⟨rfl, hP6, _⟩
            have HP6 := Lib.hid hP6
            clear hP6 HPR yz y0
            go_wp2
            go_roundw
            case rel => exact ⟨j + 1, by have := HLLE.out; omega, by go_num, by rw [HNX.out]; exact HP6.out⟩
            case measure => simp [intOf]; omega
          · obtain rfl : j = ll := by omega
            have ji : ¬ (j : Int) < (j : Int) := by omega
            have hbw := HPJ.out.below
            have eall : q.lims.take j = q.lims := List.take_of_length_le (by have := HLLE.out; omega)
            have hPDj := HPJ.out
            rw [eall] at hPDj
            obtain ⟨sp, hsp⟩ : ∃ x, x = q.lims.foldl EncS.peer sa := ⟨_, rfl⟩
            rw [← hsp] at hPDj
            have hsyp : Sync sp m L := by rw [hsp]; exact Sync.peers q.lims sa HSY.out
            have HMOST : Hid (∀ h : 0 < q.lims.length, sp.most = clampT (q.lims[q.lims.length - 1]'(by omega))) := Lib.hid (fun h => by rw [hsp]; exact peers_most q.lims sa h)
            obtain ⟨Bs, er, s2, D, hE, hU, hdead, hs2, hmost, hbyte, hblen, hcase⟩ := hsyp.step q.flds HTOT.out
            have hHE := hPDj.enc (HR.out wr hbw) q.fad q.flds fl q.fcap (HOKW.out.fs.up hbw) HFLE.out.symm HOKW.out.fnil hfroom (fun hne a ha => by
              obtain ⟨b2, o2, e2, hb2, _⟩ := HOKW.out.fs hne
              rw [e2] at ha
              injection ha with ha
              subst ha
              exact hb2) (by have := HTOT.out; omega)
            rw [hE] at hHE
            obtain ⟨nb, hnb⟩ : ∃ x, x = Bs.length := ⟨_, rfl⟩
            simp only [← hnb] at hHE
            have y1 := D1.out wr hbw
            have HHE := Lib.hid hHE
            have HNB : Hid (Bs.length = nb ∧ nb ≤ 50000 ∧ ∀ x ∈ Bs, x < 256) := Lib.hid ⟨hnb.symm, by omega, hbyte⟩
            have HU := Lib.hid hU
            have HDE : Hid (D.dead = false ∧ Sync s2 D.most D.tab ∧ s2.most = sp.most) := Lib.hid ⟨hdead, hs2, hmost⟩
            have HCASE := Lib.hid hcase
            clear hPDj hsyp hsp hE hU hdead hs2 hmost hbyte hblen hcase hHE hnb hbw eall HPJ HSY
            go_wp2_with fail
            with_reducible refine (HHE.out).mono ?_
            rintro e w1 ⟨A1, c1, rfl, hPD1, hK1, hat1, hn1, hc1⟩
            rcases HCASE.out with ⟨e1, e2, e3, e4⟩ | e1
            · subst e1
              have hHD := hPD1.dec (HR.out w1 hPD1.below) A1 Bs nb c1 2147483647 hat1 HNB.out.2.2 HNB.out.1 hn1 (by have := HNB.out.1; omega) (by have := HNB.out.2.1; omega) (fun hne a ha => by
                obtain ⟨b2, o2, e2, hb2, _⟩ := hat1 hne
                rw [e2] at ha
                injection ha with ha
                subst ha
                exact .inr ⟨hb2, o2, none, e2⟩) (by unfold Rng; omega) D HU.out HDE.out.1
              rw [e2, e3, ← HFLE.out] at hHD
              -- both are alike
              have hcalm := HDE.out.2.1.calm e4
              have htold := HDE.out.2.1.told
              rw [show D.most = s2.most by rw [htold, hcalm.1], ← hcalm.2] at hHD
              have HHD := Lib.hid hHD
              have HS2 : Hid (Sync s2 s2.most s2.tab) := Lib.hid (by
                have h := HDE.out.2.1
                rw [show D.most = s2.most by rw [htold, hcalm.1], ← hcalm.2] at h
                exact h)
              clear hPD1 hK1 hat1 hn1 hc1 hHD HHE y1 hcalm htold e2 e3 e4 HCASE
              go_wp2_with fail
              with_reducible refine (HHD.out).mono ?_
              rintro e w2 ⟨A2, c2, rfl, hPD2, hK2, hat2, hn2, hc2⟩
              have hbw2 := hPD2.below
              have y2 := D1.out w2 hbw2
              have HEX := Lib.hid (rexact_same A2 q.fad q.flds fl c2 q.fcap w2 hat2 (HOKW.out.fs.up hbw2) HFLE.out.symm (by omega))
              have HPD2 := Lib.hid hPD2
              clear hPD2 hK2 hat2 hn2 hc2 hbw2 HHD
              go_wp2_with fail
              with_reducible refine (HEX.out).mono ?_
              rintro e w3 ⟨rfl, hb3⟩
              have HPD3 := Lib.hid (HPD2.out.quiet hb3)
              have HTA := Lib.hid (HPD3.out.tabA (HR.out w3 HPD3.out.below))
              clear hb3 HEX HPD2 y2
              go_wp2_with fail
              with_reducible refine (HTA.out).mono ?_
              rintro e w4 ⟨rfl, hb4⟩
              have HPD4 := Lib.hid (HPD3.out.quiet hb4)
              have HTD := Lib.hid (HPD4.out.tabD (HR.out w4 HPD4.out.below))
              clear hb4 HTA HPD3
              go_wp2_with fail
              with_reducible refine (HTD.out).mono ?_
              rintro e w5 ⟨rfl, hb5⟩
              have HPD5 := Lib.hid (HPD4.out.quiet hb5)
              clear hb5 HTD HPD4
              obtain ⟨M, hM⟩ : ∃ x, x = s2.most := ⟨_, rfl⟩
              obtain ⟨T, hT⟩ : ∃ x, x = s2.tab := ⟨_, rfl⟩
              obtain ⟨ln, hln⟩ : ∃ x, x = T.length := ⟨_, rfl⟩
              obtain ⟨tt, htt⟩ : ∃ x, x = tot T := ⟨_, rfl⟩
              have hfit := HS2.out.tab
              rw [← hT, ← hM, ← htt] at hfit
              have hln2 : ln ≤ 128 := by have := tot_pos T; omega
              have htt2 : tt ≤ 4096 := by omega
              have hM2 : M ≤ 4096 := hfit.2.1
              have HA5 : Hid (∃ S, DT w5 S ta M T) := Lib.hid (by have := HPD5.out.dtA; rw [← hM, ← hT] at this; exact this)
              have HD5 : Hid (∃ S, DT w5 S td M T) := Lib.hid (by have := HPD5.out.dtD; rw [← hM, ← hT] at this; exact this)
              have HBW5 := Lib.hid HPD5.out.below
              have HLNA : Hid (∀ W, Below w5.heap.size w5 W → Calls Tryd.prog 23 #[.pointer (some ⟨ta, 0, none⟩)] W (NumPost W ln)) := Lib.hid (fun W hB => by
                obtain ⟨S, hS⟩ := HA5.out
                rw [hln]
                exact dlen_f W S ta M T (HR.out W (HBW5.out.trans (hB.mono HBW5.out.size))) (hS.keep (S' := fun _ => False) (Keeps.of_below hB) (fun _ _ h => h)))
              have HLND : Hid (∀ W, Below w5.heap.size w5 W → Calls Tryd.prog 23 #[.pointer (some ⟨td, 0, none⟩)] W (NumPost W ln)) := Lib.hid (fun W hB => by
                obtain ⟨S, hS⟩ := HD5.out
                rw [hln]
                exact dlen_f W S td M T (HR.out W (HBW5.out.trans (hB.mono HBW5.out.size))) (hS.keep (S' := fun _ => False) (Keeps.of_below hB) (fun _ _ h => h)))
              have HMSA : Hid (∀ W, Below w5.heap.size w5 W → Calls Tryd.prog 24 #[.pointer (some ⟨ta, 0, none⟩)] W (NumPost W M)) := Lib.hid (fun W hB => by
                obtain ⟨S, hS⟩ := HA5.out
                exact dmost_f W S ta M T (HR.out W (HBW5.out.trans (hB.mono HBW5.out.size))) (hS.keep (S' := fun _ => False) (Keeps.of_below hB) (fun _ _ h => h)))
              have HMSD : Hid (∀ W, Below w5.heap.size w5 W → Calls Tryd.prog 24 #[.pointer (some ⟨td, 0, none⟩)] W (NumPost W M)) := Lib.hid (fun W hB => by
                obtain ⟨S, hS⟩ := HD5.out
                exact dmost_f W S td M T (HR.out W (HBW5.out.trans (hB.mono HBW5.out.size))) (hS.keep (S' := fun _ => False) (Keeps.of_below hB) (fun _ _ h => h)))
              have HSZA : Hid (∀ W, Below w5.heap.size w5 W → Calls Tryd.prog 25 #[.pointer (some ⟨ta, 0, none⟩)] W (NumPost W tt)) := Lib.hid (fun W hB => by
                obtain ⟨S, hS⟩ := HA5.out
                rw [htt]
                exact dsize_f W S ta M T (HR.out W (HBW5.out.trans (hB.mono HBW5.out.size))) (hS.keep (S' := fun _ => False) (Keeps.of_below hB) (fun _ _ h => h)))
              have HSZD : Hid (∀ W, Below w5.heap.size w5 W → Calls Tryd.prog 25 #[.pointer (some ⟨td, 0, none⟩)] W (NumPost W tt)) := Lib.hid (fun W hB => by
                obtain ⟨S, hS⟩ := HD5.out
                rw [htt]
                exact dsize_f W S td M T (HR.out W (HBW5.out.trans (hB.mono HBW5.out.size))) (hS.keep (S' := fun _ => False) (Keeps.of_below hB) (fun _ _ h => h)))
              have HGTA : Hid (∀ (W : World) (i : Nat), Below w5.heap.size w5 W → i ≤ 1000 → Calls Tryd.prog 26 #[.pointer (some ⟨ta, 0, none⟩), .int .i64 (i : Int)] W (FPost W (getL T (i : Int)))) := Lib.hid (fun W i hB hi => by
                obtain ⟨S, hS⟩ := HA5.out
                exact dget_f W S ta M T (i : Int) (HR.out W (HBW5.out.trans (hB.mono HBW5.out.size))) (hS.keep (S' := fun _ => False) (Keeps.of_below hB) (fun _ _ h => h)) (by unfold Rng; omega))
              have HGTD : Hid (∀ (W : World) (i : Nat), Below w5.heap.size w5 W → i ≤ 1000 → Calls Tryd.prog 26 #[.pointer (some ⟨td, 0, none⟩), .int .i64 (i : Int)] W (FPost W (getL T (i : Int)))) := Lib.hid (fun W i hB hi => by
                obtain ⟨S, hS⟩ := HD5.out
                exact dget_f W S td M T (i : Int) (HR.out W (HBW5.out.trans (hB.mono HBW5.out.size))) (hS.keep (S' := fun _ => False) (Keeps.of_below hB) (fun _ _ h => h)) (by unfold Rng; omega))
              have HGL : Hid (∀ i : Nat, 1 ≤ i → i ≤ ln → (getL T (i : Int)).2 = true) := Lib.hid (fun i h1 h2 => by rw [getL, if_pos (by omega)])
              have HMM : Hid (M = sp.most) := Lib.hid (by rw [hM]; exact HDE.out.2.2)
              clear hM hT hln htt hfit HA5 HD5
              go_wp2_with fail
              with_reducible refine (HLNA.out w5 (Below.refl _ _)).mono ?_
              rintro e v1 ⟨rfl, g1⟩
              go_wp2_with fail
              with_reducible refine (HLND.out v1 g1).mono ?_
              rintro e v2 ⟨rfl, g2'⟩
              have g2 := g1.trans (g2'.mono g1.size)
              clear g1 g2'
              go_wp2_with fail
              with_reducible refine (HMSA.out v2 g2).mono ?_
              rintro e v3 ⟨rfl, g3'⟩
              have g3 := g2.trans (g3'.mono g2.size)
              clear g2 g3'
              go_wp2_with fail
              with_reducible refine (HMSD.out v3 g3).mono ?_
              rintro e v4 ⟨rfl, g4'⟩
              have g4 := g3.trans (g4'.mono g3.size)
              clear g3 g4'
              go_wp2_with fail
              with_reducible refine (HSZA.out v4 g4).mono ?_
              rintro e v5 ⟨rfl, g5'⟩
              have g5 := g4.trans (g5'.mono g4.size)
              clear g4 g5'
              go_wp2_with fail
              with_reducible refine (HSZD.out v5 g5).mono ?_
              rintro e v6 ⟨rfl, g6'⟩
              have hg6 := g5.trans (g6'.mono g5.size)
              have G6 := Lib.hid hg6
              clear g5 g6' hg6
              go_wp2
              go_loopw [13, 14, 15, 16, 17] (fun i _ _ _ _ wr => GtR9 ln i w5 wr) (fun i _ _ _ _ _ => ln + 2 - (intOf i).toNat)
              case atStart => exact ⟨1, Nat.le_refl _, by omega, rfl, G6.out⟩
              case round =>
                obtain ⟨i, hi1, hi2, rfl, hbi⟩ := hrel
                have HBI := Lib.hid hbi
                clear hbi
                go_wp2_with fail
                with_reducible refine (HLNA.out _ HBI.out).mono ?_
                rintro e v7 ⟨rfl, g7'⟩
                have HB7 := Lib.hid (HBI.out.trans (g7'.mono HBI.out.size))
                clear g7' HBI
                by_cases hil : i ≤ ln
                · have ii : (i : Int) ≤ (ln : Int) := by omega
                  have hga := HGTA.out v7 i HB7.out (by omega)
                  have hgl := HGL.out i hi1 hil
                  have HGD2 := Lib.hid fun (W : World) (hB : Below w5.heap.size w5 W) => HGTD.out W i hB (by omega)
                  obtain ⟨G, hG⟩ : ∃ G, G = getL T (i : Int) := ⟨_, rfl⟩
                  rw [← hG] at hga hgl HGD2
                  obtain ⟨⟨X, Z1, Z2⟩, B⟩ := G
                  simp only [] at hgl
                  subst hgl
                  have HGA := Lib.hid hga
                  clear hga hG
                  go_wp2_with fail
                  with_reducible refine (HGA.out).mono ?_
                  rintro e v8 ⟨rfl, g8'⟩
                  simp only []
                  have hb8 := HB7.out.trans (g8'.mono HB7.out.size)
                  have hb9 := hb8.alloc hb8.size (.cells #[.string X, .string Z1, .bool Z2] 52)
                  have HGD3 := Lib.hid (HGD2.out _ hb9)
                  have HB9 := Lib.hid hb9
                  obtain ⟨gx, hgx⟩ : ∃ x, x = v8.heap.size := ⟨_, rfl⟩
                  have hh9 : (v8.alloc (.cells #[.string X, .string Z1, .bool Z2] 52)).heap[gx]? = some (.cells #[.string X, .string Z1, .bool Z2] 52 (0, 0)) := by rw [hgx]; exact heap_alloc_new v8 _
                  have HH9 := Lib.hid hh9
                  have HGX := Lib.hid hgx
                  clear g8' hb8 hb9 HGA HGD2 HB7 hh9 hgx
                  go_wp2_with fail
                  with_reducible refine (HGD3.out).mono ?_
                  rintro e v10 ⟨rfl, g10'⟩
                  simp only []
                  rw [← HGX.out]
                  have hh10 : v10.heap[gx]? = some (.cells #[.string X, .string Z1, .bool Z2] 52 (0, 0)) := (g10'.block gx (lt_of_heap HH9.out)).trans HH9.out
                  have hb10 := HB9.out.trans (g10'.mono HB9.out.size)
                  have HB11 := Lib.hid (hb10.alloc hb10.size (.cells #[.string X, .string Z1, .bool Z2] 52))
                  have hh11 : (v10.alloc (.cells #[.string X, .string Z1, .bool Z2] 52)).heap[gx]? = some (.cells #[.string X, .string Z1, .bool Z2] 52 (0, 0)) := (((Below.refl _ _).alloc (Nat.le_refl _) _ : Below v10.heap.size v10 (v10.alloc (.cells #[.string X, .string Z1, .bool Z2] 52))).block gx (lt_of_heap hh10)).trans hh10
                  have k0 : (v10.alloc (.cells #[.string X, .string Z1, .bool Z2] 52)).cell? ⟨gx, 0, none⟩ = some (.string X) := cell_of_row _ gx 0 _ 52 _ hh11
                  have k1 : (v10.alloc (.cells #[.string X, .string Z1, .bool Z2] 52)).cell? ⟨gx, 1, none⟩ = some (.string Z1) := cell_of_row _ gx 1 _ 52 _ hh11
                  have k2 : (v10.alloc (.cells #[.string X, .string Z1, .bool Z2] 52)).cell? ⟨gx, 2, none⟩ = some (.bool Z2) := cell_of_row _ gx 2 _ 52 _ hh11
                  clear g10' hb10 hh10 hh11 HGD3 HH9 HGX HB9
                  go_wp2
                  go_roundw
                  case rel => exact ⟨i + 1, by omega, by omega, by go_num, HB11.out⟩
                  case measure => simp [intOf]; omega
                · have ii : ¬ (i : Int) ≤ (ln : Int) := by omega
                  have hbw7 := HBW5.out.trans (HB7.out.mono HBW5.out.size)
                  have y7 := D0.out v7 hbw7
                  have HREL : Hid (∀ W, Below v7.heap.size v7 W → BkR9 w l pa ta pd td (.int .i64 ((k + 1 : Nat) : Int)) W) := Lib.hid (fun W hB => ⟨k + 1, s2, s2.most, s2.tab, _, HKL.out, rfl, (HPD5.out.quiet HB7.out).quiet hB, HS2.out⟩)
                  have HMS7 : Hid (∀ W, Below v7.heap.size v7 W → Calls Tryd.prog 24 #[.pointer (some ⟨ta, 0, none⟩)] W (NumPost W M)) := Lib.hid (fun W hB => HMSA.out W (HB7.out.trans (hB.mono HB7.out.size)))
                  by_cases hz : j = 0
                  · subst hz
                    have HRL := Lib.hid (HREL.out v7.drew (Below.refl _ _).drew)
                    clear HREL hbw7
                    go_wp2
                    go_region
                    go_wp2
                    go_roundw
                    case rel =>
                      have := HRL.out
                      rw [show ((k + 1 : Nat) : Int) = (k : Int) + 1 by omega] at this
                      exact this
                    case measure => simp [intOf]; omega
                  · have hql : 0 < q.lims.length := by have := HLLE.out; omega
                    obtain ⟨b2, o2, e2, hb2, hc2⟩ := HOKW.out.ints.pos hql
                    obtain ⟨I, hI⟩ : ∃ I, I = j - 1 := ⟨_, rfl⟩
                    have hIq : I < q.lims.length := by have := HLLE.out; omega
                    have hz2 := hc2 I hIq
                    obtain ⟨z, hzz⟩ : ∃ z, z = q.lims[I] := ⟨_, rfl⟩
                    rw [← hzz] at hz2
                    have hM3 : M = clampT z := by
                      rw [HMM.out, HMOST.out hql, hzz]
                      congr 2
                      have := HLLE.out
                      omega
                    rw [e2] at y7
                    have y8 : v7.cell? ⟨b2, o2 + I, none⟩ = some (.int .i64 z) := (hbw7.cell (p := ⟨b2, o2 + I, none⟩) hb2).trans hz2
                    have eI : (j : Int) - 1 = (I : Int) := by omega
                    have jI : (I : Int) < (j : Int) := by omega
                    have ewI : IntKind.i64.wrap (I : Int) = (I : Int) := IntWalk.i64_in _ (by omega)
                    have j0 : (0 : Int) < (j : Int) := by omega
                    have j0d : decide ((0 : Int) < (j : Int)) = true := decide_eq_true j0
                    obtain ⟨zc, hzc⟩ : ∃ zc, zc = (if z < 0 then (0 : Int) else z) := ⟨_, rfl⟩
                    have ez1 : (if z < 0 then (0 : Int) else z) = zc := hzc.symm
                    have ez2 : (if (4096 : Int) < zc then 4096 else zc) = (M : Int) := by
                      rw [hM3, hzc]
                      unfold clampT
                      split <;> split <;> omega
                    have hd : Below v7.heap.size v7 v7.drew := (Below.refl _ _).drew
                    have HY7 := Lib.hid fun (W : World) (hB : Below v7.heap.size v7 W) => (show W.cell? ⟨b, o + k * 2, none⟩ = some (.slice (some ⟨b2, o2, none⟩) j q.lcap) ∧ W.cell? ⟨b2, o2 + I, none⟩ = some (.int .i64 z) from ⟨(hB.cell (p := ⟨b, o + k * 2, none⟩) (World.block_lt_of_cell? v7 _ y7)).trans y7, (hB.cell (p := ⟨b2, o2 + I, none⟩) (World.block_lt_of_cell? v7 _ y8)).trans y8⟩)
                    clear hc2 hz2 hzz hM3 hzc hI hIq hql hb2 hbw7 e2
                    go_wp2
                    refine wp_region_held_drew (S := fun w' => w'.cell? ⟨b, o + k * 2, none⟩ = some (.slice (some ⟨b2, o2, none⟩) j q.lcap) ∧ w'.cell? ⟨b2, o2 + I, none⟩ = some (.int .i64 z)) (by kernel_rfl) ⟨y7, y8⟩ (fun hHeld => ?_)
                    refine wpAnyH_take (i := 0) (v := ?_) rfl (by kernel_rfl) (by kernel_rfl) (by kernel_rfl) (fun _ _ _ h => h) (Or.inl ⟨by rfl, ?_⟩) hHeld ?_
                    rotate_left
                    · intro w hSw
                      try dsimp only at hSw
                      go_simp
                      try with_reducible rfl
                    change wpAnyH _ _ _ _ _ _ _ (Act.put _ (some 170) _) _
                    simp only [Act.put, List.setIfInBounds_toArray, List.set_cons_zero, List.set_cons_succ]
                    refine wpAnyH_take (i := 1) (v := .bool true) rfl (by kernel_rfl) (by kernel_rfl) (by kernel_rfl) (fun _ _ _ h => h) (Or.inl ⟨by rfl, ?_⟩) hHeld ?_
                    · intro w hSw
                      try dsimp only at hSw
                      go_simp
                      try simp
                      try omega
                    change wpAnyH _ _ _ _ _ _ _ (Act.put _ (some 171) _) _
                    simp only [Act.put, List.setIfInBounds_toArray, List.set_cons_zero, List.set_cons_succ]
                    refine wpAnyH_take (i := 2) (v := ?_) rfl (by kernel_rfl) (by kernel_rfl) (by kernel_rfl) (fun _ _ _ h => h) (Or.inl ⟨by rfl, ?_⟩) hHeld ?_
                    rotate_left
                    · intro w hSw
                      try dsimp only at hSw
                      go_simp
                      try with_reducible rfl
                    change wpAnyH _ _ _ _ _ _ _ (Act.put _ (some 172) _) _
                    simp only [Act.put, List.setIfInBounds_toArray, List.set_cons_zero, List.set_cons_succ]
                    refine wpAnyH_take (i := 3) (v := ?_) rfl (by kernel_rfl) (by kernel_rfl) (by kernel_rfl) (fun _ _ _ h => h) (Or.inl ⟨by rfl, ?_⟩) hHeld ?_
                    rotate_left
                    · intro w hSw
                      try dsimp only at hSw
                      go_simp
                      try with_reducible rfl
                    change wpAnyH _ _ _ _ _ _ _ (Act.put _ (some 173) _) _
                    simp only [Act.put, List.setIfInBounds_toArray, List.set_cons_zero, List.set_cons_succ]
                    refine wpAnyH_take (i := 5) (v := ?_) rfl (by kernel_rfl) (by kernel_rfl) (by kernel_rfl) (fun _ _ _ h => h) (Or.inl ⟨by rfl, ?_⟩) hHeld ?_
                    rotate_left
                    · intro w hSw
                      try dsimp only at hSw
                      go_simp
                      try with_reducible rfl
                    change wpAnyH _ _ _ _ _ _ _ (Act.put _ (some 175) _) _
                    simp only [Act.put, List.setIfInBounds_toArray, List.set_cons_zero, List.set_cons_succ]
                    refine wpAnyH_take (i := 6) (v := ?_) rfl (by kernel_rfl) (by kernel_rfl) (by kernel_rfl) (fun _ _ _ h => h) (Or.inl ⟨by rfl, ?_⟩) hHeld ?_
                    rotate_left
                    · intro w hSw
                      try dsimp only at hSw
                      go_simp
                      try with_reducible rfl
                    change wpAnyH _ _ _ _ _ _ _ (Act.put _ (some 176) _) _
                    simp only [Act.put, List.setIfInBounds_toArray, List.set_cons_zero, List.set_cons_succ]
                    refine wpAnyH_take (i := 7) (v := ?_) rfl (by kernel_rfl) (by kernel_rfl) (by kernel_rfl) (fun _ _ _ h => h) (Or.inl ⟨by rfl, ?_⟩) hHeld ?_
                    rotate_left
                    · intro w hSw
                      try dsimp only at hSw
                      go_simp
                      try with_reducible rfl
                    change wpAnyH _ _ _ _ _ _ _ (Act.put _ (some 177) _) _
                    simp only [Act.put, List.setIfInBounds_toArray, List.set_cons_zero, List.set_cons_succ]
                    refine wpAnyH_take (i := 8) (v := ?_) rfl (by kernel_rfl) (by kernel_rfl) (by kernel_rfl) (fun _ _ _ h => h) (Or.inl ⟨by rfl, ?_⟩) hHeld ?_
                    rotate_left
                    · intro w hSw
                      try dsimp only at hSw
                      go_simp
                      try with_reducible rfl
                    change wpAnyH _ _ _ _ _ _ _ (Act.put _ (some 178) _) _
                    simp only [Act.put, List.setIfInBounds_toArray, List.set_cons_zero, List.set_cons_succ]
                    refine wpAnyH_take (i := 9) (v := ?_) rfl (by kernel_rfl) (by kernel_rfl) (by kernel_rfl) (fun _ _ _ h => h) (Or.inl ⟨by rfl, ?_⟩) hHeld ?_
                    rotate_left
                    · intro w hSw
                      try dsimp only at hSw
                      go_simp
                      try with_reducible rfl
                    change wpAnyH _ _ _ _ _ _ _ (Act.put _ (some 179) _) _
                    simp only [Act.put, List.setIfInBounds_toArray, List.set_cons_zero, List.set_cons_succ]
                    refine wpAnyH_take (i := 10) (v := ?_) rfl (by kernel_rfl) (by kernel_rfl) (by kernel_rfl) (fun _ _ _ h => h) (Or.inl ⟨by rfl, ?_⟩) hHeld ?_
                    rotate_left
                    · intro w hSw
                      try dsimp only at hSw
                      go_simp
                      try with_reducible rfl
                    change wpAnyH _ _ _ _ _ _ _ (Act.put _ (some 180) _) _
                    simp only [Act.put, List.setIfInBounds_toArray, List.set_cons_zero, List.set_cons_succ]
                    refine wpAnyH_take (i := 11) (v := ?_) rfl (by kernel_rfl) (by kernel_rfl) (by kernel_rfl) (fun _ _ _ h => h) (Or.inl ⟨by rfl, ?_⟩) hHeld ?_
                    rotate_left
                    · intro w hSw
                      try dsimp only at hSw
                      go_simp
                      try with_reducible rfl
                    change wpAnyH _ _ _ _ _ _ _ (Act.put _ (some 181) _) _
                    simp only [Act.put, List.setIfInBounds_toArray, List.set_cons_zero, List.set_cons_succ]
                    refine wpAnyH_take (i := 12) (v := ?_) rfl (by kernel_rfl) (by kernel_rfl) (by kernel_rfl) (fun _ _ _ h => h) (Or.inl ⟨by rfl, ?_⟩) hHeld ?_
                    rotate_left
                    · intro w hSw
                      try dsimp only at hSw
                      go_simp
                      try with_reducible rfl
                    change wpAnyH _ _ _ _ _ _ _ (Act.put _ (some 182) _) _
                    simp only [Act.put, List.setIfInBounds_toArray, List.set_cons_zero, List.set_cons_succ]
                    refine wpAnyH_take (i := 13) (v := ?_) rfl (by kernel_rfl) (by kernel_rfl) (by kernel_rfl) (fun _ _ _ h => h) (Or.inl ⟨by rfl, ?_⟩) hHeld ?_
                    rotate_left
                    · intro w hSw
                      try dsimp only at hSw
                      go_simp
                      try with_reducible rfl
                    change wpAnyH _ _ _ _ _ _ _ (Act.put _ (some 183) _) _
                    simp only [Act.put, List.setIfInBounds_toArray, List.set_cons_zero, List.set_cons_succ]
                    refine wpAnyH_take (i := 14) (v := ?_) rfl (by kernel_rfl) (by kernel_rfl) (by kernel_rfl) (fun _ _ _ h => h) (Or.inl ⟨by rfl, ?_⟩) hHeld ?_
                    rotate_left
                    · intro w hSw
                      try dsimp only at hSw
                      go_simp
                      try with_reducible rfl
                    change wpAnyH _ _ _ _ _ _ _ (Act.put _ (some 184) _) _
                    simp only [Act.put, List.setIfInBounds_toArray, List.set_cons_zero, List.set_cons_succ]
                    refine wpAnyH_take (i := 15) (v := ?_) rfl (by kernel_rfl) (by kernel_rfl) (by kernel_rfl) (fun _ _ _ h => h) (Or.inl ⟨by rfl, ?_⟩) hHeld ?_
                    rotate_left
                    · intro w hSw
                      try dsimp only at hSw
                      go_simp
                      try with_reducible rfl
                    change wpAnyH _ _ _ _ _ _ _ (Act.put _ (some 185) _) _
                    simp only [Act.put, List.setIfInBounds_toArray, List.set_cons_zero, List.set_cons_succ]
                    refine wpAnyH_ready (rs := [4]) (by kernel_rfl) (by simp) ?_
                    refine AllReadyH.cons rfl (fun K hK => ?_) AllReadyH.nil
                    go_simp
                    with_reducible refine (HMS7.out _ hd).mono ?_
                    rintro e v20 ⟨rfl, hb20'⟩
                    have hb20 := hd.trans (hb20'.mono hd.size)
                    refine hK.out _ _ (HY7.out _ hb20) (fun hHeld => ?_)
                    clear hK K
                    refine wpAnyH_take (i := 16) (v := ?_) rfl (by kernel_rfl) (by kernel_rfl) (by kernel_rfl) (fun _ _ _ h => h) (Or.inl ⟨by rfl, ?_⟩) hHeld ?_
                    rotate_left
                    · intro w hSw
                      try dsimp only at hSw
                      go_simp
                      try with_reducible rfl
                    change wpAnyH _ _ _ _ _ _ _ (Act.put _ (some 186) _) _
                    simp only [Act.put, List.setIfInBounds_toArray, List.set_cons_zero, List.set_cons_succ]
                    refine wpAnyH_take (i := 17) (v := ?_) rfl (by kernel_rfl) (by kernel_rfl) (by kernel_rfl) (fun _ _ _ h => h) (Or.inl ⟨by rfl, ?_⟩) hHeld ?_
                    rotate_left
                    · intro w hSw
                      try dsimp only at hSw
                      go_simp
                      try with_reducible rfl
                    change wpAnyH _ _ _ _ _ _ _ (Act.put _ (some 187) _) _
                    simp only [Act.put, List.setIfInBounds_toArray, List.set_cons_zero, List.set_cons_succ]
                    refine wpAnyH_done (by kernel_rfl) ?_ _
                    have HRL := Lib.hid (HREL.out v20 hb20)
                    clear y7 y8 hd HY7 HMS7 HREL hb20 hb20'
                    go_wp2
                    go_roundw
                    case rel =>
                      have := HRL.out
                      rw [show ((k + 1 : Nat) : Int) = (k : Int) + 1 by omega] at this
                      exact this
                    case measure => simp [intOf]; omega
            · subst e1
              have HF2 := Lib.hid (first9_any w1 (HR.out w1 hPD1.below))
              have HPB := Lib.hid hPD1.below
              clear HCASE y1 hPD1 hK1 hat1 hn1 hc1
              go_wp2_with fail
              with_reducible refine (HF2.out).mono ?_
              rintro e w5 ⟨rfl, hb5⟩
              have hZ := HPB.out.trans (hb5.mono HPB.out.size)
              clear hb5 HF2
              go_wp2
              go_ret
              exact ⟨rfl, hZ⟩
      · obtain rfl : k = n := by have := HL.out; omega
        have ki : ¬ (k : Int) < (k : Int) := by omega
        have HF2 := Lib.hid (first9_any wr (HR.out wr hPD.below))
        have HPB := Lib.hid hPD.below
        clear hPD hsy
        go_wp2_with fail
        with_reducible refine (HF2.out).mono ?_
        rintro e w6 ⟨rfl, hb6⟩
        have hZ := HPB.out.trans (hb6.mono HPB.out.size)
        clear hb6
        go_wp2
        go_ret
        exact ⟨rfl, hZ⟩
end packBack
end Go.Proofs.YtiandidencnlcaaDoor
