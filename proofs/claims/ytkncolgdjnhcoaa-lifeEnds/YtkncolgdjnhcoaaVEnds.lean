/- The walk of LifeEnds. -/
import Derived.Test.YtkncolgdjnhcoaaVFew
import Derived.Test.YtkncolgdjnhcoaaVEndsP
import Derived.Test.YtkncolgdjnhcoaaLInts
import Derived.Deep.RegionHeld3
import Derived.Deep.LoopGhost
import Derived.Deep.DeepCutAuto
import Derived.BigQuiet
namespace Go.Proofs.Ytkncolgdjnhcoaa
open Go.RowKit Lf
namespace lifeEnds
/-- Behind so many steps that g are left. -/
def EnR (w : World) (n g : Nat) (s th ou ov i : Value) (wr : World) : Prop := ∃ (j : Nat) (z : Int) (a b c : Bool), j ≤ n ∧ g = n - j ∧ s = .int .i64 z ∧ th = .bool a ∧ ou = .bool b ∧ ov = .bool c ∧ i = .int .i64 (j : Int) ∧ St z a b c ∧ Below w.heap.size w wr
/-- Behind a step from state z. -/
def EnS (w : World) (z : Int) (s th ou ov : Value) (wr : World) : Prop := ∃ (t : Int) (a b c : Bool), s = .int .i64 t ∧ th = .bool a ∧ ou = .bool b ∧ ov = .bool c ∧ Nx z t a b c ∧ Below w.heap.size w wr
set_option maxRecDepth 100000 in
set_option maxHeartbeats 40000000 in
theorem walk_out (A : Option Addr) (n cap : Nat) (w : World) (h : 300 < n) : Calls Try.prog 4 #[.slice A n cap] w (YesV w) := by
  have HFST := Lib.hid fun (W : World) => first14_any W
  have k0 : (300 : Int) < (n : Int) := by omega
  clear h
  go_enter Try.func4, Try.ntmps4
  go_wp2_with fail
  with_reducible refine (HFST.out w).mono ?_
  rintro e w1 ⟨rfl, hb1⟩
  have HB1 := Lib.hid hb1
  clear hb1
  go_wp2_with fail
  with_reducible refine (HFST.out w1).mono ?_
  rintro e w2 ⟨rfl, hb2⟩
  have HB2 := Lib.hid (HB1.out.trans (hb2.mono HB1.out.size))
  clear hb2
  go_wp2_with fail
  go_ret
  exact ⟨rfl, HB2.out⟩
set_option maxRecDepth 100000 in
set_option maxHeartbeats 40000000 in
theorem walk_in (A : Option Addr) (l : List Int) (n cap : Nat) (w : World) (hA : AtI w w.heap.size A l) (hl : l.length = n) (hn : n ≤ 300) (hwf : ∀ x ∈ l, -9223372036854775808 ≤ x ∧ x ≤ 9223372036854775807) : Calls Try.prog 4 #[.slice A n cap] w (YesV w) := by
  have HFST := Lib.hid fun (W : World) => first14_any W
  have HA := Lib.hid hA
  have HL := Lib.hid hl
  have HWF := Lib.hid hwf
  have HNN := Lib.hid hn
  have k0 : ¬ (300 : Int) < (n : Int) := by omega
  have k1 : decide ((300 : Int) < (n : Int)) = false := decide_eq_false k0
  clear hA hl hwf hn k0
  go_enter Try.func4, Try.ntmps4
  go_wp2_with fail
  with_reducible refine (HFST.out w).mono ?_
  rintro e w1 ⟨rfl, hb1⟩
  have HB1 := Lib.hid hb1
  clear hb1
  go_wp2_with fail
  clear k1
  go_loopg [3, 4, 5, 6, 7] n (fun g s th ou ov i wr => EnR w n g s th ou ov i wr)
  case atStart => exact ⟨0, 0, false, false, false, Nat.zero_le _, by simp, rfl, rfl, rfl, rfl, rfl, Or.inl ⟨rfl, rfl, rfl, rfl⟩, HB1.out⟩
  case round =>
    obtain ⟨j, z, th, ou, ov, hj, hg, rfl, rfl, rfl, rfl, rfl, hst, hbw⟩ := hrel
    have HST := Lib.hid hst
    have HBwr := Lib.hid hbw
    have HG := Lib.hid hg
    clear hst hg
    by_cases hlt : j < n
    · have hjl : j < l.length := by have := HL.out; omega
      obtain ⟨bb, o, rfl, hbB, hcs⟩ := HA.out.pos (by omega)
      obtain ⟨x, hx⟩ : ∃ x, x = l[j] := ⟨_, rfl⟩
      have hxw : -9223372036854775808 ≤ x ∧ x ≤ 9223372036854775807 := by rw [hx]; exact HWF.out _ (List.getElem_mem hjl)
      have HY : Hid (∀ W, Below w.heap.size w W → W.cell? ⟨bb, o + j, none⟩ = some (.int .i64 x)) := Lib.hid (fun W h => (h.cell (p := ⟨bb, o + j, none⟩) hbB).trans (by rw [hx]; exact hcs j hjl))
      have y0 := HY.out wr hbw
      have ki : (j : Int) < (n : Int) := by omega
      have HJ : Hid (j < n ∧ n ≤ 300) := Lib.hid ⟨hlt, HNN.out⟩
      have wj : IntKind.i64.wrap ((j : Int) + 1) = (j : Int) + 1 := IntWalk.i64_in _ (by have := HNN.out; omega)
      clear hx hcs hjl hj hlt hbw
      by_cases h0 : x < 0
      · clear hxw
        go_wp2_with fail
        with_reducible refine (HFST.out wr).mono ?_
        rintro e w2 ⟨rfl, hb⟩
        have HB2 := Lib.hid (HBwr.out.trans (hb.mono HBwr.out.size))
        clear hb
        go_wp2_with fail
        go_ret
        exact ⟨rfl, HB2.out⟩
      · have HX := Lib.hid (show 0 ≤ x ∧ x ≤ 9223372036854775807 by omega)
        clear hxw
        obtain ⟨m, hm, hm5⟩ : ∃ m : Nat, x.tmod 5 = (m : Int) ∧ m < 5 := ⟨(x.tmod 5).toNat, by have := Int.tmod_nonneg 5 HX.out.1; omega, by have := Int.tmod_lt_of_pos x (show (0 : Int) < 5 by omega); omega⟩
        obtain ⟨a5, ha5⟩ : ∃ a, IntKind.i64.wrap (x.tdiv 5) = a := ⟨_, rfl⟩
        obtain ⟨b5, hb5⟩ : ∃ a, a5.tmod 2 = a := ⟨_, rfl⟩
        obtain ⟨sd, hsd⟩ : ∃ a, (b5 == 1) = a := ⟨_, rfl⟩
        obtain ⟨a10, ha10⟩ : ∃ a, IntKind.i64.wrap (x.tdiv 10) = a := ⟨_, rfl⟩
        obtain ⟨b10, hb10⟩ : ∃ a, a10.tmod 2 = a := ⟨_, rfl⟩
        obtain ⟨ed, hed⟩ : ∃ a, (b10 == 1) = a := ⟨_, rfl⟩
        have ki5 : (m : Int) < 5 := by omega
        obtain ⟨wk, hwk⟩ : ∃ x, x = wr.alloc (.cells #[.int .i64 0, .int .i64 1, .int .i64 3, .int .i64 8, .int .i64 2] 3) := ⟨_, rfl⟩
        obtain ⟨g, hgk⟩ : ∃ x, x = wr.heap.size := ⟨_, rfl⟩
        have hbk : Below w.heap.size w wk := by rw [hwk]; exact HBwr.out.trans (((Below.refl _ _).alloc (Nat.le_refl _) _).mono HBwr.out.size)
        have hrk : wk.heap[g]? = some (.cells #[.int .i64 0, .int .i64 1, .int .i64 3, .int .i64 8, .int .i64 2] 3 (0, 0)) := by rw [hwk, hgk]; exact heap_alloc_new wr _
        obtain ⟨k, bd, hkd, hck⟩ : ∃ k bd, Kd k bd ∧ wk.cell? ⟨g, m, none⟩ = some (.int .i64 k) := by
          rcases (show m = 0 ∨ m = 1 ∨ m = 2 ∨ m = 3 ∨ m = 4 by omega) with rfl | rfl | rfl | rfl | rfl
          · exact ⟨0, true, by decide, cell_of_row _ g 0 _ 3 _ hrk⟩
          · exact ⟨1, true, by decide, cell_of_row _ g 1 _ 3 _ hrk⟩
          · exact ⟨3, false, by decide, cell_of_row _ g 2 _ 3 _ hrk⟩
          · exact ⟨8, false, by decide, cell_of_row _ g 3 _ 3 _ hrk⟩
          · exact ⟨2, false, by decide, cell_of_row _ g 4 _ 3 _ hrk⟩
        have HWK := Lib.hid hwk
        have HGK := Lib.hid hgk
        have HBk := Lib.hid hbk
        have HKD := Lib.hid hkd
        have HCK := Lib.hid hck
        clear hwk hgk hbk hrk hkd hck hm5
        go_upto_region 12 with fail
        go_cut [8, 9, 10] from 23 to 22 (fun a b c wx => a = .int .i64 k ∧ b = .bool sd ∧ c = .bool ed ∧ wx = wk.drew)
        case first =>
          refine wp_region_held_drew (S := fun w' => w'.cell? ⟨bb, o + j, none⟩ = some (.int .i64 x)) (by kernel_rfl) (HY.out _ HBwr.out.drew) (fun hHeld => ?_)
          refine wpAnyH_take (i := 1) (v := ?_) rfl (by kernel_rfl) (by kernel_rfl) (by kernel_rfl) (fun _ _ _ h => h) (Or.inl ⟨by rfl, ?_⟩) hHeld ?_
          rotate_left
          · intro w hSw
            try dsimp only at hSw
            go_simp
            try with_reducible rfl
          change wpAnyH _ _ _ _ _ _ _ (Act.put _ (some 36) _) _
          simp only [Act.put, List.setIfInBounds_toArray, List.set_cons_zero, List.set_cons_succ]
          refine wpAnyH_take (i := 2) (v := ?_) rfl (by kernel_rfl) (by kernel_rfl) (by kernel_rfl) (fun _ _ _ h => h) (Or.inl ⟨by rfl, ?_⟩) hHeld ?_
          rotate_left
          · intro w hSw
            try dsimp only at hSw
            go_simp
            try with_reducible rfl
          change wpAnyH _ _ _ _ _ _ _ (Act.put _ (some 37) _) _
          simp only [Act.put, List.setIfInBounds_toArray, List.set_cons_zero, List.set_cons_succ]
          refine wpAnyH_take (i := 3) (v := ?_) rfl (by kernel_rfl) (by kernel_rfl) (by kernel_rfl) (fun _ _ _ h => h) (Or.inl ⟨by rfl, ?_⟩) hHeld ?_
          rotate_left
          · intro w hSw
            try dsimp only at hSw
            go_simp
            try with_reducible rfl
          change wpAnyH _ _ _ _ _ _ _ (Act.put _ (some 38) _) _
          simp only [Act.put, List.setIfInBounds_toArray, List.set_cons_zero, List.set_cons_succ]
          refine wpAnyH_take (i := 4) (v := ?_) rfl (by kernel_rfl) (by kernel_rfl) (by kernel_rfl) (fun _ _ _ h => h) (Or.inl ⟨by rfl, ?_⟩) hHeld ?_
          rotate_left
          · intro w hSw
            try dsimp only at hSw
            go_simp
            try with_reducible rfl
          change wpAnyH _ _ _ _ _ _ _ (Act.put _ (some 39) _) _
          simp only [Act.put, List.setIfInBounds_toArray, List.set_cons_zero, List.set_cons_succ]
          refine wpAnyH_take (i := 5) (v := ?_) rfl (by kernel_rfl) (by kernel_rfl) (by kernel_rfl) (fun _ _ _ h => h) (Or.inl ⟨by rfl, ?_⟩) hHeld ?_
          rotate_left
          · intro w hSw
            try dsimp only at hSw
            go_simp
            try with_reducible rfl
          change wpAnyH _ _ _ _ _ _ _ (Act.put _ (some 40) _) _
          simp only [Act.put, List.setIfInBounds_toArray, List.set_cons_zero, List.set_cons_succ]
          refine wpAnyH_take (i := 8) (v := ?_) rfl (by kernel_rfl) (by kernel_rfl) (by kernel_rfl) (fun _ _ _ h => h) (Or.inl ⟨by rfl, ?_⟩) hHeld ?_
          rotate_left
          · intro w hSw
            try dsimp only at hSw
            go_simp
            try with_reducible rfl
          change wpAnyH _ _ _ _ _ _ _ (Act.put _ (some 43) _) _
          simp only [Act.put, List.setIfInBounds_toArray, List.set_cons_zero, List.set_cons_succ]
          refine wpAnyH_take (i := 9) (v := ?_) rfl (by kernel_rfl) (by kernel_rfl) (by kernel_rfl) (fun _ _ _ h => h) (Or.inl ⟨by rfl, ?_⟩) hHeld ?_
          rotate_left
          · intro w hSw
            try dsimp only at hSw
            go_simp
            try with_reducible rfl
          change wpAnyH _ _ _ _ _ _ _ (Act.put _ (some 44) _) _
          simp only [Act.put, List.setIfInBounds_toArray, List.set_cons_zero, List.set_cons_succ]
          refine wpAnyH_take (i := 10) (v := ?_) rfl (by kernel_rfl) (by kernel_rfl) (by kernel_rfl) (fun _ _ _ h => h) (Or.inl ⟨by rfl, ?_⟩) hHeld ?_
          rotate_left
          · intro w hSw
            try dsimp only at hSw
            go_simp
            try with_reducible rfl
          change wpAnyH _ _ _ _ _ _ _ (Act.put _ (some 45) _) _
          simp only [Act.put, List.setIfInBounds_toArray, List.set_cons_zero, List.set_cons_succ]
          refine wpAnyH_take (i := 11) (v := ?_) rfl (by kernel_rfl) (by kernel_rfl) (by kernel_rfl) (fun _ _ _ h => h) (Or.inl ⟨by rfl, ?_⟩) hHeld ?_
          rotate_left
          · intro w hSw
            try dsimp only at hSw
            go_simp
            try with_reducible rfl
          change wpAnyH _ _ _ _ _ _ _ (Act.put _ (some 46) _) _
          simp only [Act.put, List.setIfInBounds_toArray, List.set_cons_zero, List.set_cons_succ]
          refine wpAnyH_take (i := 12) (v := ?_) rfl (by kernel_rfl) (by kernel_rfl) (by kernel_rfl) (fun _ _ _ h => h) (Or.inl ⟨by rfl, ?_⟩) hHeld ?_
          rotate_left
          · intro w hSw
            try dsimp only at hSw
            go_simp
            try with_reducible rfl
          change wpAnyH _ _ _ _ _ _ _ (Act.put _ (some 47) _) _
          simp only [Act.put, List.setIfInBounds_toArray, List.set_cons_zero, List.set_cons_succ]
          refine wpAnyH_take (i := 13) (v := ?_) rfl (by kernel_rfl) (by kernel_rfl) (by kernel_rfl) (fun _ _ _ h => h) (Or.inl ⟨by rfl, ?_⟩) hHeld ?_
          rotate_left
          · intro w hSw
            try dsimp only at hSw
            go_simp
            try with_reducible rfl
          change wpAnyH _ _ _ _ _ _ _ (Act.put _ (some 48) _) _
          simp only [Act.put, List.setIfInBounds_toArray, List.set_cons_zero, List.set_cons_succ]
          refine wpAnyH_take (i := 14) (v := ?_) rfl (by kernel_rfl) (by kernel_rfl) (by kernel_rfl) (fun _ _ _ h => h) (Or.inl ⟨by rfl, ?_⟩) hHeld ?_
          rotate_left
          · intro w hSw
            try dsimp only at hSw
            go_simp
            try with_reducible rfl
          change wpAnyH _ _ _ _ _ _ _ (Act.put _ (some 49) _) _
          simp only [Act.put, List.setIfInBounds_toArray, List.set_cons_zero, List.set_cons_succ]
          refine wpAnyH_take (i := 15) (v := ?_) rfl (by kernel_rfl) (by kernel_rfl) (by kernel_rfl) (fun _ _ _ h => h) (Or.inl ⟨by rfl, ?_⟩) hHeld ?_
          rotate_left
          · intro w hSw
            try dsimp only at hSw
            go_simp
            try with_reducible rfl
          change wpAnyH _ _ _ _ _ _ _ (Act.put _ (some 50) _) _
          simp only [Act.put, List.setIfInBounds_toArray, List.set_cons_zero, List.set_cons_succ]
          refine wpAnyH_take (i := 16) (v := ?_) rfl (by kernel_rfl) (by kernel_rfl) (by kernel_rfl) (fun _ _ _ h => h) (Or.inl ⟨by rfl, ?_⟩) hHeld ?_
          rotate_left
          · intro w hSw
            try dsimp only at hSw
            go_simp
            try with_reducible rfl
          change wpAnyH _ _ _ _ _ _ _ (Act.put _ (some 51) _) _
          simp only [Act.put, List.setIfInBounds_toArray, List.set_cons_zero, List.set_cons_succ]
          refine wpAnyH_take (i := 17) (v := ?_) rfl (by kernel_rfl) (by kernel_rfl) (by kernel_rfl) (fun _ _ _ h => h) (Or.inl ⟨by rfl, ?_⟩) hHeld ?_
          rotate_left
          · intro w hSw
            try dsimp only at hSw
            go_simp
            try with_reducible rfl
          change wpAnyH _ _ _ _ _ _ _ (Act.put _ (some 52) _) _
          simp only [Act.put, List.setIfInBounds_toArray, List.set_cons_zero, List.set_cons_succ]
          refine wpAnyH_take (i := 18) (v := ?_) rfl (by kernel_rfl) (by kernel_rfl) (by kernel_rfl) (fun _ _ _ h => h) (Or.inl ⟨by rfl, ?_⟩) hHeld ?_
          rotate_left
          · intro w hSw
            try dsimp only at hSw
            go_simp
            try with_reducible rfl
          change wpAnyH _ _ _ _ _ _ _ (Act.put _ (some 53) _) _
          simp only [Act.put, List.setIfInBounds_toArray, List.set_cons_zero, List.set_cons_succ]
          refine wpAnyH_take (i := 19) (v := ?_) rfl (by kernel_rfl) (by kernel_rfl) (by kernel_rfl) (fun _ _ _ h => h) (Or.inl ⟨by rfl, ?_⟩) hHeld ?_
          rotate_left
          · intro w hSw
            try dsimp only at hSw
            go_simp
            try with_reducible rfl
          change wpAnyH _ _ _ _ _ _ _ (Act.put _ (some 54) _) _
          simp only [Act.put, List.setIfInBounds_toArray, List.set_cons_zero, List.set_cons_succ]
          refine wpAnyH_take (i := 20) (v := ?_) rfl (by kernel_rfl) (by kernel_rfl) (by kernel_rfl) (fun _ _ _ h => h) (Or.inl ⟨by rfl, ?_⟩) hHeld ?_
          rotate_left
          · intro w hSw
            try dsimp only at hSw
            go_simp
            try with_reducible rfl
          change wpAnyH _ _ _ _ _ _ _ (Act.put _ (some 55) _) _
          simp only [Act.put, List.setIfInBounds_toArray, List.set_cons_zero, List.set_cons_succ]
          refine wpAnyH_take (i := 21) (v := ?_) rfl (by kernel_rfl) (by kernel_rfl) (by kernel_rfl) (fun _ _ _ h => h) (Or.inl ⟨by rfl, ?_⟩) hHeld ?_
          rotate_left
          · intro w hSw
            try dsimp only at hSw
            go_simp
            try with_reducible rfl
          change wpAnyH _ _ _ _ _ _ _ (Act.put _ (some 56) _) _
          simp only [Act.put, List.setIfInBounds_toArray, List.set_cons_zero, List.set_cons_succ]
          refine wpAnyH_ready (rs := [0]) (by kernel_rfl) (by simp) ?_
          refine AllReadyH.cons rfl (fun K hK => ?_) AllReadyH.nil
          go_simp
          rw [← HWK.out, ← HGK.out]
          refine hK.out _ _ (HY.out _ HBk.out.drew) (fun hHeld => ?_)
          clear hK K
          have c0 := HCK.out
          have c1 : wk.drew.cell? ⟨g, m, none⟩ = some (.int .i64 k) := HCK.out
          refine wpAnyH_take (i := 6) (v := ?_) rfl (by kernel_rfl) (by kernel_rfl) (by kernel_rfl) (fun _ _ _ h => h) (Or.inl ⟨by rfl, ?_⟩) hHeld ?_
          rotate_left
          · intro w hSw
            try dsimp only at hSw
            go_simp
            try with_reducible rfl
          change wpAnyH _ _ _ _ _ _ _ (Act.put _ (some 41) _) _
          simp only [Act.put, List.setIfInBounds_toArray, List.set_cons_zero, List.set_cons_succ]
          refine wpAnyH_ready (rs := [7]) (by kernel_rfl) (by simp) ?_
          refine AllReadyH.cons rfl (fun K hK => ?_) AllReadyH.nil
          go_simp
          refine hK.out _ _ (HY.out _ HBk.out.drew) (fun hHeld => ?_)
          clear hK K
          refine wpAnyH_take (i := 22) (v := ?_) rfl (by kernel_rfl) (by kernel_rfl) (by kernel_rfl) (fun _ _ _ h => h) (Or.inl ⟨by rfl, ?_⟩) hHeld ?_
          rotate_left
          · intro w hSw
            try dsimp only at hSw
            go_simp
            try with_reducible rfl
          change wpAnyH _ _ _ _ _ _ _ (Act.put _ (some 8) _) _
          simp only [Act.put, List.setIfInBounds_toArray, List.set_cons_zero, List.set_cons_succ]
          refine wpAnyH_take (i := 23) (v := ?_) rfl (by kernel_rfl) (by kernel_rfl) (by kernel_rfl) (fun _ _ _ h => h) (Or.inl ⟨by rfl, ?_⟩) hHeld ?_
          rotate_left
          · intro w hSw
            try dsimp only at hSw
            go_simp
            try with_reducible rfl
          change wpAnyH _ _ _ _ _ _ _ (Act.put _ (some 9) _) _
          simp only [Act.put, List.setIfInBounds_toArray, List.set_cons_zero, List.set_cons_succ]
          refine wpAnyH_take (i := 24) (v := ?_) rfl (by kernel_rfl) (by kernel_rfl) (by kernel_rfl) (fun _ _ _ h => h) (Or.inl ⟨by rfl, ?_⟩) hHeld ?_
          rotate_left
          · intro w hSw
            try dsimp only at hSw
            go_simp
            try with_reducible rfl
          change wpAnyH _ _ _ _ _ _ _ (Act.put _ (some 10) _) _
          simp only [Act.put, List.setIfInBounds_toArray, List.set_cons_zero, List.set_cons_succ]
          refine wpAnyH_done (by kernel_rfl) ?_ _
          go_wp2_with fail
          go_meet
          exact ⟨rfl, rfl, rfl, rfl⟩
        case rest =>
          obtain ⟨rfl, rfl, rfl, rfl⟩ := hcut
          clear ha5 hb5 hsd ha10 hb10 hed hm ki5 y0
          go_upto_region 13 with fail
          go_cut [11] from 23 to 22 (fun v wx => v = .bool bd ∧ wx = wk.drew)
          case first =>
            rcases HKD.out with ⟨rfl, rfl⟩ | ⟨rfl, rfl⟩ | ⟨rfl, rfl⟩ | ⟨rfl, rfl⟩ | ⟨rfl, rfl⟩
            all_goals
              go_wp2_with fail
              go_meet
              exact ⟨rfl, rfl⟩
          case rest =>
            obtain ⟨rfl, rfl⟩ := hcut
            go_upto_if 64 with fail
            go_cut [3, 4, 5, 6] from 23 to 22 (fun a b c d wx => EnS w z a b c d wx)
            case first =>
              cases sd
              · obtain ⟨t, bad, cn, cd, hq⟩ : ∃ t b c n, recv z k ed = ⟨t, b, c, n⟩ := ⟨_, _, _, _, rfl⟩
                have HC := Lib.hid fun (W : World) => vrecv_is hq W
                obtain ⟨f1, f2, f3⟩ := recv_step HST.out HKD.out hq
                obtain ⟨k3, hk3⟩ : ∃ b, (k == 3) = b := ⟨_, rfl⟩
                obtain ⟨t4, ht4⟩ : ∃ b, (t == 4) = b := ⟨_, rfl⟩
                obtain ⟨z5, hz5⟩ : ∃ b, (z != 5) = b := ⟨_, rfl⟩
                obtain ⟨tz, htz⟩ : ∃ b, (t != z) = b := ⟨_, rfl⟩
                rw [hk3, ht4, hz5] at f3
                have HF1 : Hid (bad = true → tz = false) := Lib.hid (fun h => by rw [← htz]; exact nq (f1 h))
                have HF2 : Hid (bd = true → bad = false → th = true → z5 = false) := Lib.hid (fun h1 h2 h3 => by rw [← hz5]; exact nq (f2 h1 h2 h3))
                have HNX := Lib.hid f3
                clear f1 f2 f3 hq HST HKD
                go_wp2_with fail
                with_reducible refine (HC.out _).mono ?_
                rintro e w2 ⟨rfl, hb⟩
                have HB2 := Lib.hid (HBk.out.drew.trans (hb.mono HBk.out.drew.size))
                clear hb
                obtain ⟨hf3, hb3⟩ := kf_of w2 bad cn cd
                obtain ⟨w3, hw3⟩ : ∃ x, x = w2.alloc (.cells #[.bool bad, .bool cn, .int .i64 cd] 24) := ⟨_, rfl⟩
                obtain ⟨g3, hg3⟩ : ∃ x, x = w2.heap.size := ⟨_, rfl⟩
                rw [← hw3, ← hg3] at hf3
                rw [← hw3] at hb3
                have HB3 := Lib.hid (HB2.out.trans (hb3.mono HB2.out.size))
                have HW3 := Lib.hid hw3
                have HG3 := Lib.hid hg3
                obtain ⟨d0, d1, d2⟩ := hf3.cells
                clear hf3 hb3 hw3 hg3
                go_upto_region 23 with fail
                rw [← HW3.out, ← HG3.out]
                clear HW3 HG3
                go_upto_region 23 with fail
                go_cut [142] from 23 to 22 (fun v wx => v = .bool false ∧ w3 = wx)
                case first =>
                  as_aux_lemma =>
                    cases bad
                    · cases bd
                      · go_wp2_with fail
                        go_meet
                        exact ⟨rfl, rfl⟩
                      · cases th
                        · go_wp2_with fail
                          go_meet
                          exact ⟨rfl, rfl⟩
                        · obtain rfl : z5 = false := HF2.out rfl rfl rfl
                          go_wp2_with fail
                          go_meet
                          exact ⟨rfl, rfl⟩
                    · obtain rfl : tz = false := HF1.out rfl
                      cases bd
                      · go_wp2_with fail
                        go_meet
                        exact ⟨rfl, rfl⟩
                      · go_wp2_with fail
                        go_meet
                        exact ⟨rfl, rfl⟩
                case rest =>
                  obtain ⟨rfl, rfl⟩ := hcut
                  go_upto_region 25 with fail
                  go_cut [4] from 23 to 22 (fun v wx => v = .bool (th || (bd && !bad && ed && z5)) ∧ w3 = wx)
                  case first =>
                    as_aux_lemma =>
                      cases th
                      · cases bd
                        · go_wp2_with fail
                          go_meet
                          exact ⟨rfl, rfl⟩
                        · cases bad
                          · cases ed
                            · go_wp2_with fail
                              go_meet
                              exact ⟨rfl, rfl⟩
                            · go_wp2_with fail
                              go_meet
                              exact ⟨rfl, rfl⟩
                          · go_wp2_with fail
                            go_meet
                            exact ⟨rfl, rfl⟩
                      · go_wp2_with fail
                        go_meet
                        exact ⟨rfl, rfl⟩
                  case rest =>
                    obtain ⟨rfl, rfl⟩ := hcut
                    go_upto_region 26 with fail
                    go_cut [6] from 23 to 22 (fun v wx => v = .bool (ov || (k3 && t4)) ∧ w3 = wx)
                    case first =>
                      as_aux_lemma =>
                        cases ov
                        · cases k3
                          · go_wp2_with fail
                            go_meet
                            exact ⟨rfl, rfl⟩
                          · go_wp2_with fail
                            go_meet
                            exact ⟨rfl, rfl⟩
                        · go_wp2_with fail
                          go_meet
                          exact ⟨rfl, rfl⟩
                    case rest =>
                      obtain ⟨rfl, rfl⟩ := hcut
                      go_wp2_with fail
                      go_meet
                      exact ⟨t, _, _, _, rfl, rfl, rfl, rfl, HNX.out, HB3.out⟩
              · obtain ⟨t, ok, hq⟩ : ∃ t b, send z k ed = (t, b) := ⟨_, _, rfl⟩
                have HC := Lib.hid fun (W : World) => vsend_is hq W
                obtain ⟨f1, f2, f3⟩ := send_step HST.out HKD.out hq
                obtain ⟨k3, hk3⟩ : ∃ b, (k == 3) = b := ⟨_, rfl⟩
                obtain ⟨z0, hz0⟩ : ∃ b, (z == 0) = b := ⟨_, rfl⟩
                obtain ⟨tz, htz⟩ : ∃ b, (t != z) = b := ⟨_, rfl⟩
                rw [hk3] at f3
                have HF1 : Hid (ok = false → tz = false) := Lib.hid (fun h => by rw [← htz]; exact nq (f1 h))
                have HF2 : Hid (bd = true → ok = true → ou = false ∧ ov = false ∧ z0 = false) := Lib.hid (fun h1 h2 => ⟨(f2 h1 h2).1, (f2 h1 h2).2.1, by rw [← hz0]; exact bne (f2 h1 h2).2.2⟩)
                have HNX := Lib.hid f3
                clear f1 f2 f3 hq HST HKD
                go_wp2_with fail
                with_reducible refine (HC.out _).mono ?_
                rintro e w2 ⟨rfl, hb⟩
                have HB2 := Lib.hid (HBk.out.drew.trans (hb.mono HBk.out.drew.size))
                clear hb
                go_upto_region 17 with fail
                go_cut [94] from 23 to 22 (fun v wx => v = .bool false ∧ w2 = wx)
                case first =>
                  as_aux_lemma =>
                    cases bd
                    · cases ok
                      · obtain rfl : tz = false := HF1.out rfl
                        go_wp2_with fail
                        go_meet
                        exact ⟨rfl, rfl⟩
                      · go_wp2_with fail
                        go_meet
                        exact ⟨rfl, rfl⟩
                    · cases ok
                      · obtain rfl : tz = false := HF1.out rfl
                        go_wp2_with fail
                        go_meet
                        exact ⟨rfl, rfl⟩
                      · obtain ⟨rfl, rfl, rfl⟩ := HF2.out rfl rfl
                        go_wp2_with fail
                        go_meet
                        exact ⟨rfl, rfl⟩
                case rest =>
                  obtain ⟨rfl, rfl⟩ := hcut
                  go_upto_region 19 with fail
                  go_cut [5] from 23 to 22 (fun v wx => v = .bool (ou || (bd && ok && ed)) ∧ w2 = wx)
                  case first =>
                    as_aux_lemma =>
                      cases ou
                      · cases bd
                        · go_wp2_with fail
                          go_meet
                          exact ⟨rfl, rfl⟩
                        · cases ok
                          · go_wp2_with fail
                            go_meet
                            exact ⟨rfl, rfl⟩
                          · go_wp2_with fail
                            go_meet
                            exact ⟨rfl, rfl⟩
                      · go_wp2_with fail
                        go_meet
                        exact ⟨rfl, rfl⟩
                  case rest =>
                    obtain ⟨rfl, rfl⟩ := hcut
                    go_upto_region 20 with fail
                    go_cut [6] from 23 to 22 (fun v wx => v = .bool (ov || (k3 && ok)) ∧ w2 = wx)
                    case first =>
                      as_aux_lemma =>
                        cases ov
                        · cases k3
                          · go_wp2_with fail
                            go_meet
                            exact ⟨rfl, rfl⟩
                          · go_wp2_with fail
                            go_meet
                            exact ⟨rfl, rfl⟩
                        · go_wp2_with fail
                          go_meet
                          exact ⟨rfl, rfl⟩
                    case rest =>
                      obtain ⟨rfl, rfl⟩ := hcut
                      go_wp2_with fail
                      go_meet
                      exact ⟨t, _, _, _, rfl, rfl, rfl, rfl, HNX.out, HB2.out⟩
            case rest =>
              obtain ⟨t, th2, ou2, ov2, rfl, rfl, rfl, rfl, ⟨hst2, f1, f2⟩, hbc⟩ := hcut
              have HBc := Lib.hid hbc
              have HS2 := Lib.hid hst2
              have f3 := st_end hst2
              obtain ⟨z4, hz4⟩ : ∃ b, (z == 4) = b := ⟨_, rfl⟩
              obtain ⟨z5, hz5⟩ : ∃ b, (z == 5) = b := ⟨_, rfl⟩
              obtain ⟨zn, hzn⟩ : ∃ b, (z != 0) = b := ⟨_, rfl⟩
              obtain ⟨tz, htz⟩ : ∃ b, (t != z) = b := ⟨_, rfl⟩
              obtain ⟨t0, ht0⟩ : ∃ b, (t == 0) = b := ⟨_, rfl⟩
              obtain ⟨n4, hn4⟩ : ∃ b, (t != 4) = b := ⟨_, rfl⟩
              obtain ⟨n5, hn5⟩ : ∃ b, (t != 5) = b := ⟨_, rfl⟩
              have HG1 : Hid (z4 = true → tz = false ∧ zn = true) := Lib.hid (fun h => by
                have e : z = 4 := by rw [h] at hz4; exact eq_of_beq hz4
                exact ⟨by rw [← htz]; exact nq (f1 (Or.inl e)), by rw [← hzn]; exact nbt (by omega)⟩)
              have HG2 : Hid (z5 = true → tz = false ∧ zn = true) := Lib.hid (fun h => by
                have e : z = 5 := by rw [h] at hz5; exact eq_of_beq hz5
                exact ⟨by rw [← htz]; exact nq (f1 (Or.inr e)), by rw [← hzn]; exact nbt (by omega)⟩)
              have HG3 : Hid (zn = true → t0 = false) := Lib.hid (fun h => by
                have e : z ≠ 0 := by rw [h] at hzn; exact bne_iff_ne.mp hzn
                rw [← ht0]; exact bne (f2 e))
              have HG4 : Hid (th2 = true → ou2 = true → n4 = true → n5 = false) := Lib.hid (fun h1 h2 h => by
                have e : t ≠ 4 := by rw [h] at hn4; exact bne_iff_ne.mp hn4
                rw [← hn5]; exact nq (by rcases f3 h1 h2 with h | h <;> omega))
              clear f1 f2 f3 hst2 hbc
              obtain ⟨w4, hw4⟩ : ∃ x, x = wc := ⟨_, rfl⟩
              rw [← hw4] at HBc ⊢
              clear hw4
              go_upto_region 28 with fail
              go_cut [201] from 23 to 22 (fun v wx => v = .bool false ∧ w4 = wx)
              case first =>
                as_aux_lemma =>
                  cases z4
                  · cases z5
                    · cases zn
                      · cases th2
                        · go_wp2_with fail
                          go_meet
                          exact ⟨rfl, rfl⟩
                        · cases ou2
                          · go_wp2_with fail
                            go_meet
                            exact ⟨rfl, rfl⟩
                          · cases n4
                            · go_wp2_with fail
                              go_meet
                              exact ⟨rfl, rfl⟩
                            · obtain rfl : n5 = false := HG4.out rfl rfl rfl
                              go_wp2_with fail
                              go_meet
                              exact ⟨rfl, rfl⟩
                      · obtain rfl : t0 = false := HG3.out rfl
                        cases th2
                        · go_wp2_with fail
                          go_meet
                          exact ⟨rfl, rfl⟩
                        · cases ou2
                          · go_wp2_with fail
                            go_meet
                            exact ⟨rfl, rfl⟩
                          · cases n4
                            · go_wp2_with fail
                              go_meet
                              exact ⟨rfl, rfl⟩
                            · obtain rfl : n5 = false := HG4.out rfl rfl rfl
                              go_wp2_with fail
                              go_meet
                              exact ⟨rfl, rfl⟩
                    · obtain ⟨rfl, rfl⟩ := HG2.out rfl
                      obtain rfl : t0 = false := HG3.out rfl
                      cases th2
                      · go_wp2_with fail
                        go_meet
                        exact ⟨rfl, rfl⟩
                      · cases ou2
                        · go_wp2_with fail
                          go_meet
                          exact ⟨rfl, rfl⟩
                        · cases n4
                          · go_wp2_with fail
                            go_meet
                            exact ⟨rfl, rfl⟩
                          · obtain rfl : n5 = false := HG4.out rfl rfl rfl
                            go_wp2_with fail
                            go_meet
                            exact ⟨rfl, rfl⟩
                  · obtain ⟨rfl, rfl⟩ := HG1.out rfl
                    obtain rfl : t0 = false := HG3.out rfl
                    cases th2
                    · go_wp2_with fail
                      go_meet
                      exact ⟨rfl, rfl⟩
                    · cases ou2
                      · go_wp2_with fail
                        go_meet
                        exact ⟨rfl, rfl⟩
                      · cases n4
                        · go_wp2_with fail
                          go_meet
                          exact ⟨rfl, rfl⟩
                        · obtain rfl : n5 = false := HG4.out rfl rfl rfl
                          go_wp2_with fail
                          go_meet
                          exact ⟨rfl, rfl⟩
              case rest =>
                obtain ⟨rfl, rfl⟩ := hcut
                go_wp2_with fail
                go_roundg (n - (j + 1))
                case measure => have := HG.out; have := HJ.out; omega
                case rel => exact ⟨j + 1, t, th2, ou2, ov2, by have := HJ.out; omega, rfl, rfl, rfl, rfl, rfl, by rw [show ((j + 1 : Nat) : Int) = (j : Int) + 1 by omega], HS2.out, HBc.out⟩
    · obtain rfl : j = n := by omega
      have ki : ¬ (j : Int) < (j : Int) := by omega
      go_wp2_with fail
      with_reducible refine (HFST.out wr).mono ?_
      rintro e w2 ⟨rfl, hb⟩
      have HB2 := Lib.hid (HBwr.out.trans (hb.mono HBwr.out.size))
      clear hb
      go_wp2_with fail
      go_ret
      exact ⟨rfl, HB2.out⟩
theorem walk_any (A : Option Addr) (l : List Int) (n cap : Nat) (w : World) (hA : AtI w w.heap.size A l) (hl : l.length = n) (hwf : ∀ x ∈ l, -9223372036854775808 ≤ x ∧ x ≤ 9223372036854775807) : Calls Try.prog 4 #[.slice A n cap] w (YesV w) := by
  by_cases h : 300 < n
  · exact walk_out A n cap w h
  · exact walk_in A l n cap w hA hl (by omega) hwf
end lifeEnds
end Go.Proofs.Ytkncolgdjnhcoaa
