/- The walk of FrameReads. -/
import Derived.Test.YtegcloapadippaaFTwo
import Derived.Test.YtegcloapadippaaLBs
import Derived.Test.YtegcloapadippaaLStep
import Derived.Deep.RegionHeld3
namespace Go.Proofs.Ytegcloapadippaa
open Go.RowKit Fr

/-- How many bytes the pieces have together, as the statement adds them up; as they are. -/
def slSum (l : List Sl) : Nat := (l.map fun s => min s.bytes.length 40001).sum
def slAll (l : List Sl) : Nat := (l.map fun s => s.bytes.length).sum
theorem slSum_snoc (l : List Sl) (s : Sl) : slSum (l ++ [s]) = slSum l + min s.bytes.length 40001 := by simp [slSum]
theorem slAll_snoc (l : List Sl) (s : Sl) : slAll (l ++ [s]) = slAll l + s.bytes.length := by simp [slAll]
theorem slSum_le : ∀ l : List Sl, slSum l ≤ 40001 * l.length
  | [] => by simp [slSum]
  | s :: r => by
    have : slSum (s :: r) = min s.bytes.length 40001 + slSum r := by simp [slSum]
    have := slSum_le r
    rw [List.length_cons]
    omega
theorem slSum_all : ∀ l : List Sl, slSum l ≤ 40000 → slAll l = slSum l
  | [], _ => rfl
  | s :: r, h => by
    have e1 : slSum (s :: r) = min s.bytes.length 40001 + slSum r := by simp [slSum]
    have e2 : slAll (s :: r) = s.bytes.length + slAll r := by simp [slAll]
    rw [e1] at h ⊢
    rw [e2, slSum_all r (by omega)]
    omega
theorem slAll_take (l : List Sl) (k : Nat) : slAll (l.take k) ≤ slAll l := by
  have h := List.take_append_drop k l
  have e : slAll l = slAll (l.take k) + slAll (l.drop k) := by
    conv => lhs; rw [← h]
    simp only [slAll, List.map_append, List.sum_append]
  omega
theorem next_rest (room : Int) (L : List Nat) : (∀ x ∈ (next room L).2.2, x ∈ L) ∧ (next room L).2.2.length ≤ L.length := by
  unfold next
  split
  · exact ⟨fun x h => h, Nat.le_refl _⟩
  · split
    · exact ⟨fun x h => h, Nat.le_refl _⟩
    · split
      · exact ⟨fun x h => h, Nat.le_refl _⟩
      · exact ⟨fun x h => List.mem_of_mem_drop h, by rw [List.length_drop]; omega⟩
theorem next_body (room : Int) (L : List Nat) : ∀ x ∈ (next room L).1.body, x ∈ L := by
  unfold next
  split
  · intro x h; simp [noFrm] at h
  · split
    · intro x h; simp [noFrm] at h
    · split
      · intro x h; simp [noFrm] at h
      · exact fun x h => List.mem_of_mem_drop (List.mem_of_mem_take h)
namespace frameReads
def R1 (w : World) (l : List Sl) (n i : Value) (wr : World) : Prop := ∃ k N : Nat, k ≤ l.length ∧ k ≤ 100 ∧ i = .int .i64 (k : Int) ∧ n = .int .i64 (N : Int) ∧ N = slSum (l.take k) ∧ Below w.heap.size w wr
def R2 (w : World) (l : List Sl) (pa pb : Nat) (room : Int) (i : Value) (wr : World) : Prop := ∃ k L, k ≤ l.length ∧ i = .int .i64 (k : Int) ∧ FF w pa pb room L L (fun _ => False) wr ∧ (∀ x ∈ L, x < 256) ∧ L.length ≤ slAll (l.take k)
def R3 (w : World) (T : Nat) (pa pb : Nat) (room : Int) (i : Value) (wr : World) : Prop := ∃ (j : Nat) (L : List Nat), j ≤ 10000 ∧ i = .int .i64 (j : Int) ∧ FF w pa pb room L L (fun _ => False) wr ∧ (∀ x ∈ L, x < 256) ∧ L.length ≤ T
set_option maxRecDepth 100000 in
set_option maxHeartbeats 16000000 in
theorem walk_any (room : Int) (A : Option Addr) (l : List Sl) (n c : Nat) (w : World) (hA : AtL w w.heap.size A l) (hl : l.length = n) (hr : -9223372036854775808 ≤ room ∧ room ≤ 9223372036854775807) :
    Calls Try.prog 4 #[.int .i64 room, .slice A n c] w (YesF w) := by
  have HFST := Lib.hid fun (W : World) => first10_any W
  have HA := Lib.hid hA
  have HL := Lib.hid hl
  have HR := Lib.hid hr
  clear hA hl hr
  go_enter Try.func4, Try.ntmps4
  go_wp2_with fail
  with_reducible refine (HFST.out w).mono ?_
  rintro e w1 ⟨rfl, hb1⟩
  have hr0 : R1 w l (.int .i64 0) (.int .i64 0) w1 := ⟨0, 0, Nat.zero_le _, by omega, rfl, rfl, by simp [slSum], hb1⟩
  clear hb1
  go_wp2
  go_loopw [5, 6] (fun n i wr => R1 w l n i wr) (fun _ i _ => 100 - (intOf i).toNat)
  case atStart => exact hr0
  case round =>
    clear hr0
    obtain ⟨k, N, hk, hk2, rfl, rfl, hN, hbw⟩ := hrel
    have hNb : N ≤ 4000100 := by
      rw [hN]
      have := slSum_le (l.take k)
      rw [List.length_take] at this
      omega
    have HN := Lib.hid hN
    clear hN
    by_cases hin : k < n ∧ k < 100
    · obtain ⟨hlt, h100⟩ := hin
      have ki : (k : Int) < (n : Int) := by omega
      have ki2 : (k : Int) < 100 := by omega
      have hkl : k < l.length := by have := HL.out; omega
      obtain ⟨b, o, rfl, hb, hc⟩ := HA.out (List.length_pos_iff.1 (by omega))
      obtain ⟨d0, hok⟩ := hc k hkl
      obtain ⟨q, hq⟩ : ∃ q, q = l[k] := ⟨_, rfl⟩
      rw [← hq] at d0 hok
      have x0 : wr.cell? ⟨b, o + k, none⟩ = some (.slice q.ad q.bytes.length q.cap) := (hbw.cell (p := ⟨b, o + k, none⟩) hb).trans d0
      have HNX : Hid (slSum (l.take (k + 1)) = N + min q.bytes.length 40001) := Lib.hid (by rw [List.take_succ_eq_append_getElem hkl, slSum_snoc, hq, HN.out])
      obtain ⟨m, hm⟩ : ∃ m, m = q.bytes.length := ⟨_, rfl⟩
      rw [← hm] at x0 HNX
      obtain ⟨t, ht⟩ : ∃ t, t = min m 40001 := ⟨_, rfl⟩
      rw [← ht] at HNX
      have e1 : min (m : Int) 40001 = (t : Int) := by omega
      have e2 : (if (40001 : Int) < (m : Int) then (40001 : Int) else (m : Int)) = (t : Int) := by split <;> omega
      have htb : t ≤ 40001 := by omega
      have e3 : (N : Int) + (t : Int) = ((N + t : Nat) : Int) := by omega
      obtain ⟨N2, hN2⟩ : ∃ N2, N2 = N + t := ⟨_, rfl⟩
      rw [← hN2] at e3 HNX
      have HKL := Lib.hid hkl
      have HBW := Lib.hid hbw
      clear hq hm ht hN2 hok d0 hc hkl hb hbw
      go_wp2
      go_roundw
      case rel => exact ⟨k + 1, N2, HKL.out, by omega, by go_num, by go_num, HNX.out.symm, HBW.out⟩
      case measure => simp [intOf]; omega
    · -- the two parsers
      have HNW := Lib.hid (fnew_f room wr HR.out)
      have HBW := Lib.hid hbw
      by_cases hmany : 100 < n
      · have hk3 : k = 100 := by have := HL.out; omega
        subst hk3
        have mi : (100 : Int) < (n : Int) := by omega
        have i1 : ((100 : Nat) : Int) < (n : Int) := by omega
        clear hbw hin
        rw [show ((100 : Nat) : Int) = 100 from rfl] at *
        go_wp2_with fail
        with_reducible refine (HNW.out).mono ?_
        rintro e w2 ⟨pa, Sa, rfl, hPD, hSn, hb2⟩
        obtain ⟨w3, hw3⟩ : ∃ x, x = w2.alloc (.cells #[.int .i64 room, .slice none 0 0] 38) := ⟨_, rfl⟩
        have hb3 : Below w2.heap.size w2 w3 := by rw [hw3]; exact (Below.refl _ _).alloc (Nat.le_refl _) _
        have hz2 := HBW.out.trans (hb2.mono HBW.out.size)
        have HZ3 := Lib.hid (hz2.trans (hb3.mono hz2.size))
        have HF3 := Lib.hid (HFST.out w3)
        have HW3 := Lib.hid hw3
        clear hw3 hb3 hz2 hPD hSn hb2 HNW
        go_wp2_with fail
        rw [← HW3.out]
        with_reducible refine (HF3.out).mono ?_
        rintro e w4 ⟨rfl, hb4⟩
        have HZ4 := Lib.hid (HZ3.out.trans (hb4.mono HZ3.out.size))
        clear hb4 HF3
        go_wp2
        go_ret
        exact ⟨rfl, HZ4.out⟩
      · obtain rfl : k = n := by have := HL.out; omega
        have ki : ¬ (k : Int) < (k : Int) := by omega
        have mi : ¬ (100 : Int) < (k : Int) := by omega
        have het : l.take k = l := List.take_of_length_le (by have := HL.out; omega)
        have HNN : Hid (N = slSum l) := Lib.hid (by rw [HN.out, het])
        by_cases hbig : 40000 < N
        · have bi : (40000 : Int) < (N : Int) := by omega
          clear hbw hin het
          go_wp2_with fail
          with_reducible refine (HNW.out).mono ?_
          rintro e w2 ⟨pa, Sa, rfl, hPD, hSn, hb2⟩
          obtain ⟨w3, hw3⟩ : ∃ x, x = w2.alloc (.cells #[.int .i64 room, .slice none 0 0] 38) := ⟨_, rfl⟩
          have hb3 : Below w2.heap.size w2 w3 := by rw [hw3]; exact (Below.refl _ _).alloc (Nat.le_refl _) _
          have hz2 := HBW.out.trans (hb2.mono HBW.out.size)
          have HZ3 := Lib.hid (hz2.trans (hb3.mono hz2.size))
          have HF3 := Lib.hid (HFST.out w3)
          have HW3 := Lib.hid hw3
          clear hw3 hb3 hz2 hPD hSn hb2 HNW
          go_wp2_with fail
          rw [← HW3.out]
          with_reducible refine (HF3.out).mono ?_
          rintro e w4 ⟨rfl, hb4⟩
          have HZ4 := Lib.hid (HZ3.out.trans (hb4.mono HZ3.out.size))
          clear hb4 HF3
          go_wp2
          go_ret
          exact ⟨rfl, HZ4.out⟩
        · have bi : ¬ (40000 : Int) < (N : Int) := by omega
          have hall : slAll l ≤ 40000 := by rw [slSum_all l (by rw [← HNN.out]; omega), ← HNN.out]; omega
          have HALL := Lib.hid hall
          clear hbw hin het hall hbig
          go_wp2_with fail
          with_reducible refine (HNW.out).mono ?_
          rintro e w2 ⟨pa, Sa, rfl, hPD, hSn, hb2⟩
          obtain ⟨pb, hpb⟩ : ∃ x, x = w2.heap.size := ⟨_, rfl⟩
          obtain ⟨w3, hw3⟩ : ∃ x, x = w2.alloc (.cells #[.int .i64 room, .slice none 0 0] 38) := ⟨_, rfl⟩
          have hb3 : Below w2.heap.size w2 w3 := by rw [hw3]; exact (Below.refl _ _).alloc (Nat.le_refl _) _
          have hz2 := HBW.out.trans (hb2.mono HBW.out.size)
          have hh3 : w3.heap[pb]? = some (.cells #[.int .i64 room, .slice none 0 0] 38 (0, 0)) := by rw [hw3, hpb]; exact heap_alloc_new w2 _
          have hFF : FF w pa pb room [] [] (fun _ => False) w3 := by
            refine ⟨Sa, fun x => x = pb, hPD.quiet hb3, ⟨.slice none 0 0, hh3, World.ownsRow_nil _ _ _ _, fun k hk => by simp [Value.ownBlock] at hk, fun x => ⟨fun h => .inl h, fun h => ?_⟩⟩, fun x hx => Nat.le_trans HBW.out.size (hSn x hx), fun x hx => ?_, fun x hx e => ?_, fun x hx => hx.elim, hz2.trans (hb3.mono hz2.size)⟩
            · rcases h with h | h
              · exact h
              · simp [Value.ownBlock] at h
            · rw [hx, hpb]; exact hz2.size
            · have := hPD.low x hx
              omega
          have HFF := Lib.hid hFF
          have HW3 := Lib.hid hw3
          have HPB := Lib.hid hpb
          clear hw3 hb3 hz2 hPD hSn hb2 HNW hh3 hFF hpb
          go_wp2
          rw [← HW3.out, ← HPB.out]
          go_loopw [9, 10, 11, 12, 13, 14] (fun i _ _ _ _ _ wr => R2 w l pa pb room i wr) (fun i _ _ _ _ _ _ => k - (intOf i).toNat)
          case atStart => exact ⟨0, [], Nat.zero_le _, rfl, HFF.out, fun x hx => by simp at hx, by simp⟩
          case round =>
            clear HFF HW3 HPB
            obtain ⟨i, L, hi, rfl, hFF, hLb, hLl⟩ := hrel
            have hLl2 : L.length ≤ 40000 := Nat.le_trans hLl (Nat.le_trans (slAll_take l i) HALL.out)
            by_cases hik : i < k
            · have ii : (i : Int) < (k : Int) := by omega
              have hil : i < l.length := by have := HL.out; omega
              obtain ⟨b, o, rfl, hb, hc⟩ := HA.out (List.length_pos_iff.1 (by omega))
              obtain ⟨d0, hok⟩ := hc i hil
              obtain ⟨q, hq⟩ : ∃ q, q = l[i] := ⟨_, rfl⟩
              rw [← hq] at d0 hok
              have hsn : slAll (l.take (i + 1)) = slAll (l.take i) + q.bytes.length := by rw [List.take_succ_eq_append_getElem hil, slAll_snoc, hq]
              have hT40 : slAll (l.take (i + 1)) ≤ 40000 := Nat.le_trans (slAll_take l (i + 1)) HALL.out
              have HD0 := Lib.hid fun (W : World) (hB : Below w.heap.size w W) => (hB.cell (p := ⟨b, o + i, none⟩) hb).trans d0
              have x0 := HD0.out wr hFF.below
              obtain ⟨m, hm⟩ : ∃ m, m = q.bytes.length := ⟨_, rfl⟩
              have hlt : q.bytes ≠ [] → ∀ a, q.ad = some a → a.block < w.heap.size := fun hne a ha => by
                obtain ⟨b2, o2, e2, h2, _⟩ := hok.1 hne
                rw [ha] at e2
                injection e2 with e2
                subst e2
                exact h2
              have HFD := Lib.hid (hFF.feedA q.ad q.bytes m q.cap (hok.up hFF.below).1 hok.2.1 hm.symm hok.2.2.1 (by rw [hm]; exact hok.2.2.2) hlt hLb (by omega))
              have hL2 : ∀ x ∈ L ++ q.bytes, x < 256 := fun x hx => by
                rcases List.mem_append.1 hx with h | h
                · exact hLb x h
                · exact hok.2.1 x h
              obtain ⟨T, hT⟩ : ∃ T, T = slAll (l.take (i + 1)) := ⟨_, rfl⟩
              have HL2 : Hid ((∀ x ∈ L ++ q.bytes, x < 256) ∧ (L ++ q.bytes).length ≤ T) := Lib.hid ⟨hL2, by rw [List.length_append, hT, hsn]; omega⟩
              have hTb : T ≤ 40000 := by omega
              have HOK := Lib.hid hok
              have HM := Lib.hid hm
              have HT := Lib.hid hT
              have HIL := Lib.hid hil
              rw [← hm] at x0 HD0
              have hmb : m ≤ 40000 := by omega
              clear hq d0 hok hc hsn hT40 hlt hL2 hT hm hFF hil hb hLb hLl
              go_wp2_with fail
              with_reducible refine (HFD.out).mono ?_
              rintro e w6 ⟨rfl, hF6⟩
              have hd6 : Below w6.heap.size w6 w6.drew := (Below.refl _ _).drew
              obtain ⟨AB, cB, y1, hown, hkey⟩ := (hF6.quiet hd6).appB
              have y0 := HD0.out w6 hF6.below
              have hat6 := (HOK.out.up (hF6.below.trans (hd6.mono hF6.below.size))).1
              have HOWN := Lib.hid hown
              have HKEY := Lib.hid hkey
              have HAT6 := Lib.hid hat6
              obtain ⟨nL, hnL⟩ : ∃ n, n = L.length := ⟨_, rfl⟩
              rw [← hnL] at y1 HOWN HKEY hLl2
              have HNL := Lib.hid hnL
              have y1' : w6.cell? ⟨pb, 1, none⟩ = some (.slice AB nL cB) := y1
              have hl9 : nL + q.bytes.length ≤ 1000000 := by have := HM.out; omega
              clear hown hkey hat6 hd6 hF6 HFD x0 y1 hnL
              go_wp2
              go_cut [] (fun wx => FF w pa pb room (L ++ q.bytes) (L ++ q.bytes) (fun _ => False) wx)
              case first =>
                go_region_law (refine step_appAW (by rfl) (.tmp 72) (.tmp 76) (by rfl) 0 (.slice AB nL cB) nL L (by simp [Act.eval]) HOWN.out q.ad q.bytes m q.cap HM.out.symm (by simp [Act.eval]) HOK.out.2.2.1 _ HAT6.out hl9 (Nat.zero_le _) ?_; intro v5 w9 ho9 hg9 hb9; obtain ⟨ck9, fz9, hfin9⟩ := HKEY.out v5 w9 q.bytes ho9 hg9 hb9; have HFIN9 := Lib.hid hfin9; obtain ⟨A5, c5, rfl⟩ := own_shape ho9; clear hfin9 ho9 hg9 hb9)
                all_goals
                  go_wp2
                  go_meet
                  case rel => exact HFIN9.out
              case rest =>
              obtain ⟨w7, hw7⟩ : ∃ w7, w7 = wc := ⟨_, rfl⟩
              subst hw7
              have HF7 := Lib.hid hcut
              clear hcut HKEY HOWN HAT6 HNL y0 y1' hl9 hLl2 HD0 HOK HM
              obtain ⟨L1, hL1⟩ : ∃ L1, L1 = L ++ q.bytes := ⟨_, rfl⟩
              rw [← hL1] at HF7 HL2
              clear hL1
              go_wp2
              go_loopw [10, 11, 12, 13, 14] (fun j _ _ _ _ wr => R3 w T pa pb room j wr) (fun j _ _ _ _ _ => 10000 - (intOf j).toNat)
              case atStart => exact ⟨0, L1, by omega, rfl, HF7.out, HL2.out.1, HL2.out.2⟩
              case round =>
                clear HF7 HL2
                obtain ⟨j, L2, hj, rfl, hF, hb2, hl2⟩ := hrel
                have HNEXT : Hid (∀ (L3 : List Nat) (wz : World), (∀ x ∈ L3, x < 256) → L3.length ≤ T → FF w pa pb room L3 L3 (fun _ => False) wz → R2 w l pa pb room (.int .i64 ((i + 1 : Nat) : Int)) wz) := Lib.hid (fun L3 wz h1 h2 h3 => ⟨i + 1, L3, HIL.out, rfl, h3, h1, by rw [← HT.out]; exact h2⟩)
                by_cases hjk : j < 10000
                · have ji : (j : Int) < 10000 := by omega
                  obtain ⟨R, hR⟩ : ∃ R, R = next room L2 := ⟨_, rfl⟩
                  have hrest := next_rest room L2
                  have hbody := next_body room L2
                  rw [← hR] at hrest hbody
                  obtain ⟨⟨fk, ff, fs, fb⟩, err, rest⟩ := R
                  simp only [] at hrest hbody
                  have HREST : Hid ((∀ x ∈ rest, x < 256) ∧ rest.length ≤ T) := Lib.hid ⟨fun x hx => hb2 x (hrest.1 x hx), Nat.le_trans hrest.2 hl2⟩
                  have HBODY : Hid (∀ x ∈ fb, x < 256) := Lib.hid (fun x hx => hb2 x (hbody x hx))
                  have HNA := Lib.hid (hF.nextA hb2 (by omega) hR.symm)
                  have HNB := Lib.hid (fun (wz : World) (Y : Nat → Prop) (La : List Nat) (hz : FF w pa pb room La L2 Y wz) => hz.nextB hb2 (by omega) hR.symm)
                  obtain ⟨mb, hmb⟩ : ∃ m, m = fb.length := ⟨_, rfl⟩
                  have HMB := Lib.hid hmb
                  have HR := Lib.hid hR
                  clear hR hrest hbody hF hb2 hl2 hmb
                  go_wp2_with fail
                  with_reducible refine (HNA.out).mono ?_
                  rintro e w8 ⟨A8, c8, rfl, hF8, hat8⟩
                  simp only [frm]
                  rw [← HMB.out]
                  obtain ⟨g9, hg9⟩ : ∃ g, g = w8.heap.size := ⟨_, rfl⟩
                  obtain ⟨w9, hw9⟩ : ∃ x, x = w8.alloc (.cells #[.int .i64 fk, .int .i64 ff, .int .i64 fs, .slice A8 mb c8] 30) := ⟨_, rfl⟩
                  have hb9 : Below w8.heap.size w8 w9 := by rw [hw9]; exact (Below.refl _ _).alloc (Nat.le_refl _) _
                  have hh9 : w9.heap[g9]? = some (.cells #[.int .i64 fk, .int .i64 ff, .int .i64 fs, .slice A8 mb c8] 30 (0, 0)) := by rw [hw9, hg9]; exact heap_alloc_new w8 _
                  have hF9 := hF8.more hb9
                  have hat9 := hat8.up hb9
                  have HNB9 := Lib.hid (HNB.out w9 _ _ hF9)
                  have HH9 := Lib.hid hh9
                  have HAT9 := Lib.hid hat9
                  have HW9 := Lib.hid hw9
                  have HG9 := Lib.hid hg9
                  have HSZ9 : Hid (g9 < w9.heap.size) := Lib.hid (lt_of_heapF hh9)
                  have HA8 : Hid (∀ b o, fb ≠ [] → A8 = some ⟨b, o, none⟩ → b < w8.heap.size) := Lib.hid (fun b o hne e => by
                    obtain ⟨b2, o2, e2, h2, _⟩ := hat8 hne
                    rw [e] at e2
                    injection e2 with e2
                    injection e2 with e2
                    omega)
                  clear hb9 hh9 hF9 hat9 hF8 hat8 hw9 hg9 HNA HNB
                  go_wp2_with fail
                  rw [← HW9.out, ← HG9.out]
                  with_reducible refine (HNB9.out).mono ?_
                  rintro e w10 ⟨A10, c10, rfl, hF10, hat10, hK10⟩
                  simp only [frm]
                  rw [← HMB.out]
                  obtain ⟨g11, hg11⟩ : ∃ g, g = w10.heap.size := ⟨_, rfl⟩
                  obtain ⟨w11, hw11⟩ : ∃ x, x = w10.alloc (.cells #[.int .i64 fk, .int .i64 ff, .int .i64 fs, .slice A10 mb c10] 30) := ⟨_, rfl⟩
                  have hb11 : Below w10.heap.size w10 w11 := by rw [hw11]; exact (Below.refl _ _).alloc (Nat.le_refl _) _
                  have hh11 : w11.heap[g11]? = some (.cells #[.int .i64 fk, .int .i64 ff, .int .i64 fs, .slice A10 mb c10] 30 (0, 0)) := by rw [hw11, hg11]; exact heap_alloc_new w10 _
                  have hF11 := hF10.quiet hb11
                  have hat11 := hat10.up hb11
                  have hat8 : At .u8 w11 w11.heap.size A8 fb := (HAT9.out.keptY (fun b o hne e => .inl (.inr ⟨HA8.out b o hne e, o, none, e⟩)) hK10).up hb11
                  have hg9 : w11.heap[g9]? = some (.cells #[.int .i64 fk, .int .i64 ff, .int .i64 fs, .slice A8 mb c8] 30 (0, 0)) := (hb11.block g9 (Nat.lt_of_lt_of_le HSZ9.out hK10.size)).trans ((hK10.block g9 HSZ9.out (fun h => h (.inr ⟨by rw [HG9.out]; exact Nat.le_refl _, HSZ9.out⟩))).trans HH9.out)
                  have HRS : Hid (∀ W, Below w11.heap.size w11 W → Calls Try.prog 14 #[.agg #[.int .i64 fk, .int .i64 ff, .int .i64 fs, .slice A8 mb c8], .agg #[.int .i64 fk, .int .i64 ff, .int .i64 fs, .slice A10 mb c10]] W (BoolPost W true)) := Lib.hid (fun W hB => by
                    have := rfsame_any ⟨fk, ff, fs, fb⟩ ⟨fk, ff, fs, fb⟩ A8 A10 c8 c10 W (hat8.up hB) (hat11.up hB) HBODY.out HBODY.out
                    rw [same_self] at this
                    simp only [frm] at this
                    rw [← HMB.out] at this
                    exact this)
                  obtain ⟨AB, cB, hcell, _⟩ := hF11.cells
                  obtain ⟨nr, hnr⟩ : ∃ n, n = rest.length := ⟨_, rfl⟩
                  have HLF : Hid (∀ W, Below w11.heap.size w11 W → Calls Try.prog 19 #[.pointer (some ⟨pa, 0, none⟩)] W (NumPost W nr)) := Lib.hid (fun W hB => by
                    rw [hnr]
                    exact (hF11.quiet hB).leftA (by have := HREST.out.2; omega))
                  rw [← hnr] at hcell
                  have hpb := World.block_lt_of_cell? w11 ⟨pb, 1, none⟩ hcell
                  have HS : Hid (∀ W, Below w11.heap.size w11 W → (W.cell? ⟨g9, 0, none⟩ = some (.int .i64 fk) ∧ W.cell? ⟨g9, 1, none⟩ = some (.int .i64 ff) ∧ W.cell? ⟨g9, 2, none⟩ = some (.int .i64 fs) ∧ W.cell? ⟨g9, 3, none⟩ = some (.slice A8 mb c8)) ∧ (W.cell? ⟨g11, 0, none⟩ = some (.int .i64 fk) ∧ W.cell? ⟨g11, 1, none⟩ = some (.int .i64 ff) ∧ W.cell? ⟨g11, 2, none⟩ = some (.int .i64 fs) ∧ W.cell? ⟨g11, 3, none⟩ = some (.slice A10 mb c10)) ∧ W.cell? ⟨pb, 1, none⟩ = some (.slice AB nr cB)) := Lib.hid (fun W hB => by
                    have h1 := (hB.block g9 (lt_of_heapF hg9)).trans hg9
                    have h2 := (hB.block g11 (lt_of_heapF hh11)).trans hh11
                    exact ⟨⟨cell_of_row _ g9 0 _ 30 _ h1, cell_of_row _ g9 1 _ 30 _ h1, cell_of_row _ g9 2 _ 30 _ h1, cell_of_row _ g9 3 _ 30 _ h1⟩, ⟨cell_of_row _ g11 0 _ 30 _ h2, cell_of_row _ g11 1 _ 30 _ h2, cell_of_row _ g11 2 _ 30 _ h2, cell_of_row _ g11 3 _ 30 _ h2⟩, (hB.cell (p := ⟨pb, 1, none⟩) hpb).trans hcell⟩)
                  have HF11 := Lib.hid hF11
                  have HW11 := Lib.hid hw11
                  have HG11 := Lib.hid hg11
                  have hd : Below w11.heap.size w11 w11.drew := (Below.refl _ _).drew
                  obtain ⟨⟨x0, x1, x2, x3⟩, ⟨z0, z1, z2, z3⟩, y1⟩ := HS.out w11 (Below.refl _ _)
                  clear hat8 hg9 hcell hnr hpb hF11 hat11 hh11 hb11 hw11 hg11 hF10 hat10 hK10 HNB9
                  go_wp2
                  rw [← HW11.out, ← HG11.out]
                  go_region_held3 (fun w' => (w'.cell? ⟨g9, 0, none⟩ = some (.int .i64 fk) ∧ w'.cell? ⟨g9, 1, none⟩ = some (.int .i64 ff) ∧ w'.cell? ⟨g9, 2, none⟩ = some (.int .i64 fs) ∧ w'.cell? ⟨g9, 3, none⟩ = some (.slice A8 mb c8)) ∧ (w'.cell? ⟨g11, 0, none⟩ = some (.int .i64 fk) ∧ w'.cell? ⟨g11, 1, none⟩ = some (.int .i64 ff) ∧ w'.cell? ⟨g11, 2, none⟩ = some (.int .i64 fs) ∧ w'.cell? ⟨g11, 3, none⟩ = some (.slice A10 mb c10)) ∧ w'.cell? ⟨pb, 1, none⟩ = some (.slice AB nr cB))
                    (first
                      | exact HS.out _ (Below.refl _ _)
                      | exact HS.out _ hd
                      | exact HS.out _ hb13
                      | exact HS.out _ hb12)
                    (first
                      | ((with_reducible refine (HRS.out _ hd).mono ?_); rintro e w12 ⟨rfl, hb12'⟩; have hb12 := hd.trans (hb12'.mono hd.size))
                      | ((with_reducible refine (HLF.out _ hb12).mono ?_); rintro e w13 ⟨rfl, hb13'⟩; have hb13 := hb12.trans (hb13'.mono hb12.size)))
                  have HF13 := Lib.hid ((HF11.out.quiet hb13).less (Y' := fun _ => False) (fun x hx => hx.elim))
                  clear hb13 hb13' hb12 hb12' hd x0 x1 x2 x3 z0 z1 z2 z3 y1
                  by_cases he : err = 0
                  · subst he
                    have hjn : j + 1 ≤ 10000 := by omega
                    go_wp2
                    go_roundw
                    case rel => exact ⟨j + 1, rest, hjn, by go_num, HF13.out, HREST.out.1, HREST.out.2⟩
                    case measure => simp [intOf]; omega
                  · have qe : ((err : Int) != 0) = true := by simp; omega
                    have HN3 := Lib.hid (HNEXT.out rest _ HREST.out.1 HREST.out.2 HF13.out)
                    clear HNEXT
                    go_wp2
                    go_roundw
                    case rel => exact HN3.out
                    case measure => simp [intOf]; omega
                · obtain rfl : j = 10000 := by omega
                  have ji : ¬ ((10000 : Nat) : Int) < 10000 := by omega
                  have HN3 := Lib.hid (HNEXT.out L2 wr hb2 hl2 hF)
                  clear hF hb2 hl2 HNEXT
                  go_wp2
                  go_roundw
                  case rel => exact HN3.out
                  case measure => simp [intOf]; omega
            · obtain rfl : i = k := by have := HL.out; omega
              have ii : ¬ (i : Int) < (i : Int) := by omega
              have HFI := Lib.hid (HFST.out wr)
              have HZ := Lib.hid hFF.below
              clear hFF hLb hLl
              go_wp2_with fail
              with_reducible refine (HFI.out).mono ?_
              rintro e w5 ⟨rfl, hb5⟩
              have HZ5 := Lib.hid (HZ.out.trans (hb5.mono HZ.out.size))
              clear hb5 HFI
              go_wp2
              go_ret
              exact ⟨rfl, HZ5.out⟩
end frameReads
end Go.Proofs.Ytegcloapadippaa
