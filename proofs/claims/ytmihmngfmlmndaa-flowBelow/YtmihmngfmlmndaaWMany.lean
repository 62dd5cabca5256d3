/- The walk of FlowMany. -/
import Derived.Test.YtmihmngfmlmndaaWKeep
import Derived.Test.YtmihmngfmlmndaaWFew
import Derived.Test.YtmihmngfmlmndaaLInts
import Derived.Deep.RegionHeld3
import Derived.Deep.DeepCutAuto
import Derived.BigQuiet
namespace Go.Proofs.Ytmihmngfmlmndaa
open Go.RowKit Fl Fw
namespace flowMany
set_option maxRecDepth 100000 in
set_option maxHeartbeats 4000000 in
theorem walk_out (s c : Int) (A : Option Addr) (n cap : Nat) (w : World) (h : s < 0 ∨ 2147483647 < s ∨ c < 0 ∨ 2147483647 < c ∨ 100 < (n : Int)) : Calls Try.prog 4 #[.int .i64 s, .int .i64 c, .slice A n cap] w (YesW w) := by
  have HFST := Lib.hid fun (W : World) => first12_any W
  rcases (show (s < 0) ∨ (¬ s < 0 ∧ 2147483647 < s) ∨ (¬ s < 0 ∧ ¬ 2147483647 < s ∧ c < 0) ∨ (¬ s < 0 ∧ ¬ 2147483647 < s ∧ ¬ c < 0 ∧ 2147483647 < c) ∨ (¬ s < 0 ∧ ¬ 2147483647 < s ∧ ¬ c < 0 ∧ ¬ 2147483647 < c ∧ 100 < (n : Int)) by omega) with h1 | ⟨h1, h2⟩ | ⟨h1, h2, h3⟩ | ⟨h1, h2, h3, h4⟩ | ⟨h1, h2, h3, h4, h5⟩
  all_goals
    clear h
    go_enter Try.func4, Try.ntmps4
    go_wp2_with fail
    with_reducible refine (HFST.out w).mono ?_
    rintro e w1 ⟨rfl, hb1⟩
    have HB1 := Lib.hid hb1
    have HF2 := Lib.hid (HFST.out w1)
    clear hb1
    go_wp2_with fail
    with_reducible refine (HF2.out).mono ?_
    rintro e w2 ⟨rfl, hb2⟩
    have HB2 := Lib.hid (HB1.out.trans (hb2.mono HB1.out.size))
    clear hb2
    go_wp2_with fail
    go_ret
    exact ⟨rfl, HB2.out⟩
/-- Behind j parts, q of them spent. -/
def MnR (w : World) (n : Nat) (s c : Int) (z sm i : Value) (wr : World) : Prop :=
  ∃ (j : Nat) (a b : Nat) (q : Int), j ≤ n ∧ z = .complex .f64 a b ∧ sm = .int .i64 q ∧ i = .int .i64 (j : Int) ∧ 0 ≤ q ∧ q ≤ s ∧ q ≤ c ∧ Zw a b (s - q) (c - q) ∧ Below w.heap.size w wr
set_option maxRecDepth 100000 in
set_option maxHeartbeats 4000000 in
theorem walk_in (s c : Int) (A : Option Addr) (l : List Int) (n cap : Nat) (w : World) (s0 : 0 ≤ s) (s1 : s ≤ 2147483647) (c0 : 0 ≤ c) (c1 : c ≤ 2147483647) (hA : AtI w w.heap.size A l) (hl : l.length = n) (hn : n ≤ 100) (hwf : ∀ x ∈ l, -9223372036854775808 ≤ x ∧ x ≤ 9223372036854775807) : Calls Try.prog 4 #[.int .i64 s, .int .i64 c, .slice A n cap] w (YesW w) := by
  have HFST := Lib.hid fun (W : World) => first12_any W
  have hs : in_ s := by unfold in_; omega
  have hc : in_ c := by unfold in_; omega
  have HWIN := Lib.hid fun (W : World) => win_in W hs hc
  have HA := Lib.hid hA
  have HL := Lib.hid hl
  have HWF := Lib.hid hwf
  have HS := Lib.hid (show 0 ≤ s ∧ s ≤ 2147483647 ∧ 0 ≤ c ∧ c ≤ 2147483647 from ⟨s0, s1, c0, c1⟩)
  have HNN := Lib.hid hn
  have h1 : ¬ s < 0 := by omega
  have h2 : ¬ 2147483647 < s := by omega
  have h3 : ¬ c < 0 := by omega
  have h4 : ¬ 2147483647 < c := by omega
  have h5 : ¬ 100 < (n : Int) := by omega
  clear s0 s1 c0 c1 hs hc hA hl hwf
  go_enter Try.func4, Try.ntmps4
  have HB0 := Lib.hid (Below.refl w.heap.size w)
  go_wp2_with fail
  with_reducible refine (HFST.out w).mono ?_
  rintro e w1 ⟨rfl, hb1⟩
  have HB1 := Lib.hid (HB0.out.trans (hb1.mono HB0.out.size))
  clear hb1
  go_wp2_with fail
  with_reducible refine (HWIN.out w1).mono ?_
  rintro e w2 ⟨z1, z2, rfl, hz, hb2⟩
  have HB2 := Lib.hid (HB1.out.trans (hb2.mono HB1.out.size))
  clear hb2
  go_wp2_with fail
  go_loopw [7, 8, 9] (fun z sm i wr => MnR w n s c z sm i wr) (fun _ _ i _ => n - (intOf i).toNat)
  case atStart =>
    have := HS.out
    exact ⟨0, z1, z2, 0, Nat.zero_le _, rfl, rfl, rfl, Int.le_refl 0, by omega, by omega, by rw [Int.sub_zero, Int.sub_zero]; exact hz, HB2.out⟩
  case round =>
    obtain ⟨j, a, b, q, hj, rfl, rfl, rfl, q0, q1, q2, hzz, hbw⟩ := hrel
    clear hz
    have HBwr := Lib.hid hbw
    have HZ := Lib.hid hzz
    by_cases hlt : j < n
    · have hjl : j < l.length := by have := HL.out; omega
      obtain ⟨bb, o, rfl, hbB, hcs⟩ := HA.out.pos (by omega)
      obtain ⟨x, hx⟩ : ∃ x, x = l[j] := ⟨_, rfl⟩
      have hxw : -9223372036854775808 ≤ x ∧ x ≤ 9223372036854775807 := by rw [hx]; exact HWF.out _ (List.getElem_mem hjl)
      have HY : Hid (∀ W, Below w.heap.size w W → W.cell? ⟨bb, o + j, none⟩ = some (.int .i64 x)) := Lib.hid (fun W h => (h.cell (p := ⟨bb, o + j, none⟩) hbB).trans (by rw [hx]; exact hcs j hjl))
      have y0 := HY.out wr hbw
      have ki : (j : Int) < (n : Int) := by omega
      have hss := HS.out
      obtain ⟨u, hu⟩ : ∃ z, z = s - q := ⟨_, rfl⟩
      obtain ⟨v, hv⟩ : ∃ z, z = c - q := ⟨_, rfl⟩
      rw [← hu, ← hv] at HZ hzz
      obtain ⟨m, hm⟩ : ∃ z, z = may u v := ⟨_, rfl⟩
      have hm2 : m = min u v ∧ 0 ≤ m ∧ m ≤ 2147483647 := by rw [hm, may]; omega
      have HJ : Hid (j < n ∧ n ≤ 100) := Lib.hid ⟨hlt, HNN.out⟩
      have wj : IntKind.i64.wrap ((j : Int) + 1) = (j : Int) + 1 := IntWalk.i64_in _ (by omega)
      have hq : Hid (0 ≤ q ∧ q ≤ s ∧ q ≤ c) := Lib.hid ⟨q0, q1, q2⟩
      have HUV : Hid (s - q = u ∧ c - q = v) := Lib.hid ⟨hu.symm, hv.symm⟩
      by_cases hok : 0 ≤ x ∧ x ≤ m
      · obtain ⟨t, ht⟩ : ∃ z, z = q + x := ⟨_, rfl⟩
        obtain ⟨p1, hp1⟩ : ∃ z, z = s - t := ⟨_, rfl⟩
        obtain ⟨p2, hp2⟩ : ∃ z, z = c - t := ⟨_, rfl⟩
        have ot : q + x = t := ht.symm
        have op1 : s - t = p1 := hp1.symm
        have op2 : c - t = p2 := hp2.symm
        have wt : IntKind.i64.wrap t = t := IntWalk.i64_in _ (by omega)
        have wp1 : IntKind.i64.wrap p1 = p1 := IntWalk.i64_in _ (by omega)
        have wp2 : IntKind.i64.wrap p2 = p2 := IntWalk.i64_in _ (by omega)
        have e1 : (p1 != p1) = false := by simp
        have e2 : (p2 != p2) = false := by simp
        have n1 : ¬ p1 < 0 := by omega
        have n2 : ¬ p2 < 0 := by omega
        have HSP : Hid (∀ W, Calls Try.prog 12 #[.complex .f64 a b, .int .i64 x] W fun e w' => ∃ a b, e = .returned (.tuple #[.complex .f64 a b, .int .i64 0]) ∧ Zw a b p1 p2 ∧ Below W.heap.size W w') := Lib.hid (fun W => by
          have := spd_ok HZ.out W hok.1 (by rw [← hm]; exact hok.2)
          rwa [show u - x = p1 by omega, show v - x = p2 by omega] at this)
        have HR : Hid (0 ≤ t ∧ t ≤ s ∧ t ≤ c ∧ s - t = p1 ∧ c - t = p2) := Lib.hid (by omega)
        clear hok hm hm2 hu hv hp1 hp2 ht hss hx hxw hcs hjl hbw hzz q0 q1 q2 hj hlt
        go_wp2_with fail
        with_reducible refine (HSP.out wr).mono ?_
        rintro e w1 ⟨x1, x2, rfl, hx, hb⟩
        have HBw1 := Lib.hid (HBwr.out.trans (hb.mono HBwr.out.size))
        have HX := Lib.hid hx
        clear hx y0
        have y0 := HY.out w1 HBw1.out
        clear hb
        go_wp2_with fail
        with_reducible refine (wstr_f HX.out w1).mono ?_
        rintro e w2 ⟨rfl, hb⟩
        have HBw2 := Lib.hid (HBw1.out.trans (hb.mono HBw1.out.size))
        clear y0
        clear hb
        go_wp2_with fail
        with_reducible refine (wcon_f HX.out w2).mono ?_
        rintro e w3 ⟨rfl, hb⟩
        have HBw3 := Lib.hid (HBw2.out.trans (hb.mono HBw2.out.size))
        clear hb
        go_wp2_with fail
        with_reducible refine (wstr_f HX.out w3).mono ?_
        rintro e w4 ⟨rfl, hb⟩
        have HBw4 := Lib.hid (HBw3.out.trans (hb.mono HBw3.out.size))
        clear hb
        go_wp2_with fail
        with_reducible refine (wcon_f HX.out w4).mono ?_
        rintro e w5 ⟨rfl, hb⟩
        have HBw5 := Lib.hid (HBw4.out.trans (hb.mono HBw4.out.size))
        clear hb
        go_wp2_with fail
        go_roundw
        case rel =>
          have hr := HR.out
          exact ⟨j + 1, x1, x2, t, by have := HJ.out; omega, rfl, rfl, by rw [show ((j + 1 : Nat) : Int) = (j : Int) + 1 by omega], hr.1, hr.2.1, hr.2.2.1, by rw [hr.2.2.2.1, hr.2.2.2.2]; exact HX.out, HBw5.out⟩
        case measure => simp [intOf]; have := HJ.out; omega
      · have HSP : Hid (∀ W, Calls Try.prog 12 #[.complex .f64 a b, .int .i64 x] W fun e w' => ∃ a b, e = .returned (.tuple #[.complex .f64 a b, .int .i64 1]) ∧ Whole a 0 ∧ Whole b 0 ∧ Below W.heap.size W w') := Lib.hid (fun W => spd_no HZ.out W hxw (by rw [← hm]; exact hok))
        have HM : Hid (∀ W, Calls Try.prog 11 #[.complex .f64 a b] W (IPost W m)) := Lib.hid (fun W => by
          have := wmay_f HZ.out W
          rwa [← hm] at this)
        have HREL : Hid (∀ W, Below w.heap.size w W → MnR w n s c (.complex .f64 a b) (.int .i64 q) (.int .i64 ((j : Int) + 1)) W) := Lib.hid (fun W h => ⟨j + 1, a, b, q, by omega, rfl, rfl, by rw [show ((j + 1 : Nat) : Int) = (j : Int) + 1 by omega], q0, q1, q2, by rw [HUV.out.1, HUV.out.2]; exact HZ.out, h⟩)
        by_cases hx0 : 0 ≤ x
        · have kx : ¬ x ≤ m := fun h => hok ⟨hx0, h⟩
          clear hok hm hm2 hu hv hss hx hxw hcs hjl hbw hzz q0 q1 q2 hj hlt
          go_wp2_with fail
          with_reducible refine (HSP.out wr).mono ?_
          rintro e w1 ⟨x1, x2, rfl, _, _, hb⟩
          have HBw1 := Lib.hid (HBwr.out.trans (hb.mono HBwr.out.size))
          clear y0
          have y0 := HY.out w1 HBw1.out
          clear hb
          go_wp2_with fail
          refine wp_region_held_drew (S := fun w' => w'.cell? ⟨bb, o + j, none⟩ = some (.int .i64 x)) (by kernel_rfl) (HY.out _ HBw1.out.drew) (fun hHeld => ?_)
          refine wpAnyH_take (i := 0) (v := ?_) rfl (by kernel_rfl) (by kernel_rfl) (by kernel_rfl) (fun _ _ _ h => h) (Or.inl ⟨by rfl, ?_⟩) hHeld ?_
          rotate_left
          · intro w hSw
            try dsimp only at hSw
            go_simp
            try with_reducible rfl
          change wpAnyH _ _ _ _ _ _ _ (Act.put _ (some 56) _) _
          simp only [Act.put, List.setIfInBounds_toArray, List.set_cons_zero, List.set_cons_succ]
          refine wpAnyH_take (i := 1) (v := ?_) rfl (by kernel_rfl) (by kernel_rfl) (by kernel_rfl) (fun _ _ _ h => h) (Or.inl ⟨by rfl, ?_⟩) hHeld ?_
          rotate_left
          · intro w hSw
            try dsimp only at hSw
            go_simp
            try with_reducible rfl
          change wpAnyH _ _ _ _ _ _ _ (Act.put _ (some 57) _) _
          simp only [Act.put, List.setIfInBounds_toArray, List.set_cons_zero, List.set_cons_succ]
          refine wpAnyH_take (i := 2) (v := ?_) rfl (by kernel_rfl) (by kernel_rfl) (by kernel_rfl) (fun _ _ _ h => h) (Or.inl ⟨by rfl, ?_⟩) hHeld ?_
          rotate_left
          · intro w hSw
            try dsimp only at hSw
            go_simp
            try with_reducible rfl
          change wpAnyH _ _ _ _ _ _ _ (Act.put _ (some 58) _) _
          simp only [Act.put, List.setIfInBounds_toArray, List.set_cons_zero, List.set_cons_succ]
          refine wpAnyH_take (i := 3) (v := ?_) rfl (by kernel_rfl) (by kernel_rfl) (by kernel_rfl) (fun _ _ _ h => h) (Or.inl ⟨by rfl, ?_⟩) hHeld ?_
          rotate_left
          · intro w hSw
            try dsimp only at hSw
            go_simp
            try with_reducible rfl
          change wpAnyH _ _ _ _ _ _ _ (Act.put _ (some 59) _) _
          simp only [Act.put, List.setIfInBounds_toArray, List.set_cons_zero, List.set_cons_succ]
          refine wpAnyH_take (i := 4) (v := .bool true) rfl (by kernel_rfl) (by kernel_rfl) (by kernel_rfl) (fun _ _ _ h => h) (Or.inl ⟨by rfl, ?_⟩) hHeld ?_
          · intro w hSw
            try dsimp only at hSw
            go_simp
            try simp
            try omega
          change wpAnyH _ _ _ _ _ _ _ (Act.put _ (some 60) _) _
          simp only [Act.put, List.setIfInBounds_toArray, List.set_cons_zero, List.set_cons_succ]
          refine wpAnyH_take (i := 5) (v := ?_) rfl (by kernel_rfl) (by kernel_rfl) (by kernel_rfl) (fun _ _ _ h => h) (Or.inl ⟨by rfl, ?_⟩) hHeld ?_
          rotate_left
          · intro w hSw
            try dsimp only at hSw
            go_simp
            try with_reducible rfl
          change wpAnyH _ _ _ _ _ _ _ (Act.put _ (some 61) _) _
          simp only [Act.put, List.setIfInBounds_toArray, List.set_cons_zero, List.set_cons_succ]
          refine wpAnyH_take (i := 6) (v := ?_) rfl (by kernel_rfl) (by kernel_rfl) (by kernel_rfl) (fun _ _ _ h => h) (Or.inl ⟨by rfl, ?_⟩) hHeld ?_
          rotate_left
          · intro w hSw
            try dsimp only at hSw
            go_simp
            try with_reducible rfl
          change wpAnyH _ _ _ _ _ _ _ (Act.put _ (some 62) _) _
          simp only [Act.put, List.setIfInBounds_toArray, List.set_cons_zero, List.set_cons_succ]
          refine wpAnyH_take (i := 7) (v := ?_) rfl (by kernel_rfl) (by kernel_rfl) (by kernel_rfl) (fun _ _ _ h => h) (Or.inl ⟨by rfl, ?_⟩) hHeld ?_
          rotate_left
          · intro w hSw
            try dsimp only at hSw
            go_simp
            try with_reducible rfl
          change wpAnyH _ _ _ _ _ _ _ (Act.put _ (some 63) _) _
          simp only [Act.put, List.setIfInBounds_toArray, List.set_cons_zero, List.set_cons_succ]
          refine wpAnyH_take (i := 8) (v := ?_) rfl (by kernel_rfl) (by kernel_rfl) (by kernel_rfl) (fun _ _ _ h => h) (Or.inl ⟨by rfl, ?_⟩) hHeld ?_
          rotate_left
          · intro w hSw
            try dsimp only at hSw
            go_simp
            try with_reducible rfl
          change wpAnyH _ _ _ _ _ _ _ (Act.put _ (some 64) _) _
          simp only [Act.put, List.setIfInBounds_toArray, List.set_cons_zero, List.set_cons_succ]
          refine wpAnyH_take (i := 9) (v := ?_) rfl (by kernel_rfl) (by kernel_rfl) (by kernel_rfl) (fun _ _ _ h => h) (Or.inl ⟨by rfl, ?_⟩) hHeld ?_
          rotate_left
          · intro w hSw
            try dsimp only at hSw
            go_simp
            try with_reducible rfl
          change wpAnyH _ _ _ _ _ _ _ (Act.put _ (some 65) _) _
          simp only [Act.put, List.setIfInBounds_toArray, List.set_cons_zero, List.set_cons_succ]
          refine wpAnyH_take (i := 10) (v := ?_) rfl (by kernel_rfl) (by kernel_rfl) (by kernel_rfl) (fun _ _ _ h => h) (Or.inl ⟨by rfl, ?_⟩) hHeld ?_
          rotate_left
          · intro w hSw
            try dsimp only at hSw
            go_simp
            try with_reducible rfl
          change wpAnyH _ _ _ _ _ _ _ (Act.put _ (some 66) _) _
          simp only [Act.put, List.setIfInBounds_toArray, List.set_cons_zero, List.set_cons_succ]
          refine wpAnyH_ready (rs := [11]) (by kernel_rfl) (by simp) ?_
          refine AllReadyH.cons rfl (fun K hK => ?_) AllReadyH.nil
          go_simp
          with_reducible refine (HM.out _).mono ?_
          rintro e w2 ⟨rfl, hb⟩
          have HBw2 := Lib.hid (HBw1.out.drew.trans (hb.mono HBw1.out.size))
          refine hK.out _ _ (HY.out _ HBw2.out) (fun hHeld => ?_)
          clear hK K
          refine wpAnyH_take (i := 12) (v := ?_) rfl (by kernel_rfl) (by kernel_rfl) (by kernel_rfl) (fun _ _ _ h => h) (Or.inl ⟨by rfl, ?_⟩) hHeld ?_
          rotate_left
          · intro w hSw
            try dsimp only at hSw
            go_simp
            try with_reducible rfl
          change wpAnyH _ _ _ _ _ _ _ (Act.put _ (some 68) _) _
          simp only [Act.put, List.setIfInBounds_toArray, List.set_cons_zero, List.set_cons_succ]
          refine wpAnyH_take (i := 13) (v := ?_) rfl (by kernel_rfl) (by kernel_rfl) (by kernel_rfl) (fun _ _ _ h => h) (Or.inl ⟨by rfl, ?_⟩) hHeld ?_
          rotate_left
          · intro w hSw
            try dsimp only at hSw
            go_simp
            try with_reducible rfl
          change wpAnyH _ _ _ _ _ _ _ (Act.put _ (some 69) _) _
          simp only [Act.put, List.setIfInBounds_toArray, List.set_cons_zero, List.set_cons_succ]
          refine wpAnyH_done (by kernel_rfl) ?_ _
          clear hb
          go_wp2_with fail
          go_roundw
          case rel => exact HREL.out _ HBw2.out
          case measure => simp [intOf]; have := HJ.out; omega
        · have kx : ¬ 0 ≤ x := hx0
          clear hok hm hm2 hu hv hss hx hxw hcs hjl hbw hzz q0 q1 q2 hj hlt
          go_wp2_with fail
          with_reducible refine (HSP.out wr).mono ?_
          rintro e w1 ⟨x1, x2, rfl, _, _, hb⟩
          have HBw1 := Lib.hid (HBwr.out.trans (hb.mono HBwr.out.size))
          clear y0
          have y0 := HY.out w1 HBw1.out
          clear hb
          go_wp2_with fail
          refine wp_region_held_drew (S := fun w' => w'.cell? ⟨bb, o + j, none⟩ = some (.int .i64 x)) (by kernel_rfl) (HY.out _ HBw1.out.drew) (fun hHeld => ?_)
          refine wpAnyH_take (i := 0) (v := ?_) rfl (by kernel_rfl) (by kernel_rfl) (by kernel_rfl) (fun _ _ _ h => h) (Or.inl ⟨by rfl, ?_⟩) hHeld ?_
          rotate_left
          · intro w hSw
            try dsimp only at hSw
            go_simp
            try with_reducible rfl
          change wpAnyH _ _ _ _ _ _ _ (Act.put _ (some 56) _) _
          simp only [Act.put, List.setIfInBounds_toArray, List.set_cons_zero, List.set_cons_succ]
          refine wpAnyH_take (i := 1) (v := ?_) rfl (by kernel_rfl) (by kernel_rfl) (by kernel_rfl) (fun _ _ _ h => h) (Or.inl ⟨by rfl, ?_⟩) hHeld ?_
          rotate_left
          · intro w hSw
            try dsimp only at hSw
            go_simp
            try with_reducible rfl
          change wpAnyH _ _ _ _ _ _ _ (Act.put _ (some 57) _) _
          simp only [Act.put, List.setIfInBounds_toArray, List.set_cons_zero, List.set_cons_succ]
          refine wpAnyH_take (i := 2) (v := ?_) rfl (by kernel_rfl) (by kernel_rfl) (by kernel_rfl) (fun _ _ _ h => h) (Or.inl ⟨by rfl, ?_⟩) hHeld ?_
          rotate_left
          · intro w hSw
            try dsimp only at hSw
            go_simp
            try with_reducible rfl
          change wpAnyH _ _ _ _ _ _ _ (Act.put _ (some 58) _) _
          simp only [Act.put, List.setIfInBounds_toArray, List.set_cons_zero, List.set_cons_succ]
          refine wpAnyH_take (i := 3) (v := ?_) rfl (by kernel_rfl) (by kernel_rfl) (by kernel_rfl) (fun _ _ _ h => h) (Or.inl ⟨by rfl, ?_⟩) hHeld ?_
          rotate_left
          · intro w hSw
            try dsimp only at hSw
            go_simp
            try with_reducible rfl
          change wpAnyH _ _ _ _ _ _ _ (Act.put _ (some 59) _) _
          simp only [Act.put, List.setIfInBounds_toArray, List.set_cons_zero, List.set_cons_succ]
          refine wpAnyH_take (i := 4) (v := .bool false) rfl (by kernel_rfl) (by kernel_rfl) (by kernel_rfl) (fun _ _ _ h => h) (Or.inl ⟨by rfl, ?_⟩) hHeld ?_
          · intro w hSw
            try dsimp only at hSw
            go_simp
            try simp
            try omega
          change wpAnyH _ _ _ _ _ _ _ (Act.put _ (some 60) _) _
          simp only [Act.put, List.setIfInBounds_toArray, List.set_cons_zero, List.set_cons_succ]
          refine wpAnyH_take (i := 5) (v := ?_) rfl (by kernel_rfl) (by kernel_rfl) (by kernel_rfl) (fun _ _ _ h => h) (Or.inl ⟨by rfl, ?_⟩) hHeld ?_
          rotate_left
          · intro w hSw
            try dsimp only at hSw
            go_simp
            try with_reducible rfl
          change wpAnyH _ _ _ _ _ _ _ (Act.put _ (some 61) _) _
          simp only [Act.put, List.setIfInBounds_toArray, List.set_cons_zero, List.set_cons_succ]
          refine wpAnyH_take (i := 6) (v := undef) rfl (by kernel_rfl) (by kernel_rfl) (by kernel_rfl) (fun _ _ _ h => h) (Or.inr ⟨by rfl, rfl⟩) hHeld ?_
          change wpAnyH _ _ _ _ _ _ _ (Act.put _ (some 62) _) _
          simp only [Act.put, List.setIfInBounds_toArray, List.set_cons_zero, List.set_cons_succ]
          refine wpAnyH_take (i := 7) (v := undef) rfl (by kernel_rfl) (by kernel_rfl) (by kernel_rfl) (fun _ _ _ h => h) (Or.inr ⟨by rfl, rfl⟩) hHeld ?_
          change wpAnyH _ _ _ _ _ _ _ (Act.put _ (some 63) _) _
          simp only [Act.put, List.setIfInBounds_toArray, List.set_cons_zero, List.set_cons_succ]
          refine wpAnyH_take (i := 8) (v := undef) rfl (by kernel_rfl) (by kernel_rfl) (by kernel_rfl) (fun _ _ _ h => h) (Or.inr ⟨by rfl, rfl⟩) hHeld ?_
          change wpAnyH _ _ _ _ _ _ _ (Act.put _ (some 64) _) _
          simp only [Act.put, List.setIfInBounds_toArray, List.set_cons_zero, List.set_cons_succ]
          refine wpAnyH_take (i := 9) (v := undef) rfl (by kernel_rfl) (by kernel_rfl) (by kernel_rfl) (fun _ _ _ h => h) (Or.inr ⟨by rfl, rfl⟩) hHeld ?_
          change wpAnyH _ _ _ _ _ _ _ (Act.put _ (some 65) _) _
          simp only [Act.put, List.setIfInBounds_toArray, List.set_cons_zero, List.set_cons_succ]
          refine wpAnyH_take (i := 10) (v := undef) rfl (by kernel_rfl) (by kernel_rfl) (by kernel_rfl) (fun _ _ _ h => h) (Or.inr ⟨by rfl, rfl⟩) hHeld ?_
          change wpAnyH _ _ _ _ _ _ _ (Act.put _ (some 66) _) _
          simp only [Act.put, List.setIfInBounds_toArray, List.set_cons_zero, List.set_cons_succ]
          refine wpAnyH_take (i := 11) (v := undef) rfl (by kernel_rfl) (by kernel_rfl) (by kernel_rfl) (fun _ _ _ h => h) (Or.inr ⟨by rfl, rfl⟩) hHeld ?_
          change wpAnyH _ _ _ _ _ _ _ (Act.put _ (some 67) _) _
          simp only [Act.put, List.setIfInBounds_toArray, List.set_cons_zero, List.set_cons_succ]
          refine wpAnyH_take (i := 12) (v := undef) rfl (by kernel_rfl) (by kernel_rfl) (by kernel_rfl) (fun _ _ _ h => h) (Or.inr ⟨by rfl, rfl⟩) hHeld ?_
          change wpAnyH _ _ _ _ _ _ _ (Act.put _ (some 68) _) _
          simp only [Act.put, List.setIfInBounds_toArray, List.set_cons_zero, List.set_cons_succ]
          refine wpAnyH_take (i := 13) (v := ?_) rfl (by kernel_rfl) (by kernel_rfl) (by kernel_rfl) (fun _ _ _ h => h) (Or.inl ⟨by rfl, ?_⟩) hHeld ?_
          rotate_left
          · intro w hSw
            try dsimp only at hSw
            go_simp
            try with_reducible rfl
          change wpAnyH _ _ _ _ _ _ _ (Act.put _ (some 69) _) _
          simp only [Act.put, List.setIfInBounds_toArray, List.set_cons_zero, List.set_cons_succ]
          refine wpAnyH_done (by kernel_rfl) ?_ _
          go_wp2_with fail
          go_roundw
          case rel => exact HREL.out _ HBw1.out.drew
          case measure => simp [intOf]; have := HJ.out; omega
    · obtain rfl : j = n := by omega
      have hss := HS.out
      have HSP : Hid (∀ x y W, Zw x y s c → Calls Try.prog 12 #[.complex .f64 x y, .int .i64 q] W fun e w' => ∃ a b, e = .returned (.tuple #[.complex .f64 a b, .int .i64 0]) ∧ Zw a b (s - q) (c - q) ∧ Below W.heap.size W w') := Lib.hid (fun x y W h => spd_ok h W q0 (by unfold may; omega))
      have ki : ¬ (j : Int) < (j : Int) := by omega
      clear hss q0 q1 q2 hj hlt hzz hbw
      go_wp2_with fail
      with_reducible refine (HWIN.out wr).mono ?_
      rintro e w4 ⟨r1, r2, rfl, hr, hb⟩
      have HBw4 := Lib.hid (HBwr.out.trans (hb.mono HBwr.out.size))
      have HR := Lib.hid hr
      clear hr
      clear hb
      go_wp2_with fail
      with_reducible refine (HSP.out _ _ w4 HR.out).mono ?_
      rintro e w5 ⟨x1, x2, rfl, hx, hb⟩
      have HBw5 := Lib.hid (HBw4.out.trans (hb.mono HBw4.out.size))
      have g1 := feq hx.a' HZ.out.a' rfl
      have g2 := feq hx.b' HZ.out.b' rfl
      clear hx
      clear hb
      go_wp2_with fail
      with_reducible refine (HFST.out w5).mono ?_
      rintro e w6 ⟨rfl, hb⟩
      have HBw6 := Lib.hid (HBw5.out.trans (hb.mono HBw5.out.size))
      clear hb
      go_wp2_with fail
      go_ret
      exact ⟨rfl, HBw6.out⟩
theorem walk_any (s c : Int) (A : Option Addr) (l : List Int) (n cap : Nat) (w : World) (hA : AtI w w.heap.size A l) (hl : l.length = n) (hwf : ∀ x ∈ l, -9223372036854775808 ≤ x ∧ x ≤ 9223372036854775807) : Calls Try.prog 4 #[.int .i64 s, .int .i64 c, .slice A n cap] w (YesW w) := by
  by_cases h : s < 0 ∨ 2147483647 < s ∨ c < 0 ∨ 2147483647 < c ∨ 100 < (n : Int)
  · exact walk_out s c A n cap w h
  · exact walk_in s c A l n cap w (by omega) (by omega) (by omega) (by omega) hA hl (by omega) hwf
end flowMany
end Go.Proofs.Ytmihmngfmlmndaa
