/- The walk of PartCuts. -/
import Derived.Test.YtelbldhnlmggiaaPtFew
import Derived.Test.YtelbldhnlmggiaaPtKeep
import Derived.Test.YtelbldhnlmggiaaPtCutM
import Derived.Test.YtelbldhnlmggiaaPtSteps
import Derived.Deep.DeepCutAuto
import Derived.BigQuiet
namespace Go.Proofs.Ytelbldhnlmggiaa
open Go.RowKit Fr

theorem at_one {w : World} {b : Nat} (h : w.heap[b]? = some (.cells #[.int .u8 1] 5 (0, 0))) : At .u8 w (b + 1) (some ⟨b, 0, none⟩) [1] := fun _ => ⟨b, 0, rfl, by omega, fun i hi => by
  obtain rfl : i = 0 := by simpa using hi
  exact cell_of_row _ b 0 _ 5 _ h⟩
theorem own_one {w : World} {B m n : Nat} {v : Value} {xs : List Value} (h : w.ownsRow B 5 1 v m xs) (e : m = n + 1) : ∃ A c, v = .slice A (n + 1) c ∧ w.ownsRow B 5 1 (.slice A (n + 1) c) (n + 1) xs := by
  subst e
  obtain ⟨A, c, rfl⟩ := own_shape h
  exact ⟨A, c, rfl, h⟩
theorem held_name {P : Program} {md : Region.Mode} {ops : Array Oper} {Q : Exit → Act → World → Prop} {S : World → Prop} {fuel : Nat} {l : Array Bool} {a : Act} {w : World} (h : ∀ o0 q0 a0, o0 = ops → q0 = Q → a0 = a → wpAnyH P md o0 q0 S fuel l a0 w) : wpAnyH P md ops Q S fuel l a w := h _ _ _ rfl rfl rfl
theorem held_as {P : Program} {md : Region.Mode} {ops ops' : Array Oper} {Q : Exit → Act → World → Prop} {S : World → Prop} {fuel : Nat} {l l' : Array Bool} {a a' : Act} {w : World} (ho : ops' = ops) (hl : l = l') (ha : a = a') (h : wpAnyH P md ops' Q S fuel l' a' w) : wpAnyH P md ops Q S fuel l a w := by
  subst ho hl ha
  exact h
namespace partCuts
set_option maxRecDepth 100000 in
set_option maxHeartbeats 4000000 in
theorem walk_out (stream more : Int) (w : World) (h : stream < 1 ∨ 2147483647 < stream ∨ more < 0 ∨ 1 < more) : Calls Try.prog 6 #[.int .i64 stream, .int .i64 more] w (YesP w) := by
  have HFST := Lib.hid fun (W : World) => first11_any W
  rcases (show stream < 1 ∨ (¬ stream < 1 ∧ 2147483647 < stream) ∨ (¬ stream < 1 ∧ ¬ 2147483647 < stream ∧ more < 0) ∨ (¬ stream < 1 ∧ ¬ 2147483647 < stream ∧ ¬ more < 0 ∧ 1 < more) by omega) with h1 | ⟨h1, h2⟩ | ⟨h1, h2, h3⟩ | ⟨h1, h2, h3, h4⟩
  all_goals
    clear h
    go_enter Try.func6, Try.ntmps6
    go_wp2_with fail
    with_reducible refine (HFST.out w).mono ?_
    rintro e w1 ⟨rfl, hb1⟩
    have HB1 := Lib.hid hb1
    have HF2 := Lib.hid (HFST.out w1)
    clear hb1
    go_wp2_with fail
    with_reducible refine (HF2.out).mono ?_
    rintro e w3 ⟨rfl, hb3⟩
    have HZ := Lib.hid (HB1.out.trans (hb3.mono HB1.out.size))
    clear hb3 HF2
    go_wp2
    go_ret
    exact ⟨rfl, HZ.out⟩
def CtR (w : World) (gS : Nat) (i : Value) (wr : World) : Prop := ∃ k : Nat, k ≤ 6 ∧ i = .int .i64 (k : Int) ∧ Below w.heap.size w wr ∧ wr.heap[gS]? = some (.cells #[.int .i64 5, .int .i64 4, .int .i64 6, .int .i64 8, .int .i64 8, .int .i64 4] 3 (0, 0)) ∧ wr.heap[gS + 1]? = some (.cells #[.int .i64 2, .int .i64 3, .int .i64 4, .int .i64 6, .int .i64 7, .int .i64 8] 3 (0, 0))
theorem tabs {wr : World} {gS k : Nat} (h1 : wr.heap[gS]? = some (.cells #[.int .i64 5, .int .i64 4, .int .i64 6, .int .i64 8, .int .i64 8, .int .i64 4] 3 (0, 0))) (h2 : wr.heap[gS + 1]? = some (.cells #[.int .i64 2, .int .i64 3, .int .i64 4, .int .i64 6, .int .i64 7, .int .i64 8] 3 (0, 0))) (hk : k < 6) : wr.cell? ⟨gS + 1, k, none⟩ = some (.int .i64 (cutK k : Int)) ∧ wr.cell? ⟨gS, k, none⟩ = some (.int .i64 (cutN k : Int)) := by
  rw [cell_of_row wr gS k _ 3 _ h1, cell_of_row wr (gS + 1) k _ 3 _ h2]
  rcases cut_cases hk with rfl | rfl | rfl | rfl | rfl | rfl <;> exact ⟨rfl, rfl⟩
theorem cutN_le {k : Nat} (hk : k < 6) : 4 ≤ cutN k ∧ cutN k ≤ 8 := by rcases cut_cases hk with rfl | rfl | rfl | rfl | rfl | rfl <;> decide
theorem cutK_le {k : Nat} (hk : k < 6) : cutK k ≤ 8 ∧ (cutK k = 7 ↔ k = 4) := by rcases cut_cases hk with rfl | rfl | rfl | rfl | rfl | rfl <;> decide
set_option maxRecDepth 100000 in
set_option maxHeartbeats 64000000 in
theorem walk_in (stream : Int) (m : Nat) (w : World) (h1 : 1 ≤ stream) (h2 : stream ≤ 2147483647) (hm : m ≤ 1) : Calls Try.prog 6 #[.int .i64 stream, .int .i64 (m : Int)] w (YesP w) := by
  have HFST := Lib.hid fun (W : World) => first11_any W
  have g1 : ¬ stream < 1 := by omega
  have g2 : ¬ 2147483647 < stream := by omega
  have g3 : ¬ (m : Int) < 0 := by omega
  have g4 : ¬ (1 : Int) < (m : Int) := by omega
  have HS := Lib.hid (And.intro h1 h2)
  have HM := Lib.hid hm
  clear h1 h2 hm
  go_enter Try.func6, Try.ntmps6
  go_wp2_with fail
  with_reducible refine (HFST.out w).mono ?_
  rintro e w1 ⟨rfl, hb1⟩
  go_upto_region 7 with fail
  obtain ⟨w3, hw3⟩ : ∃ w3, w3 = (w1.alloc (.cells #[.int .i64 5, .int .i64 4, .int .i64 6, .int .i64 8, .int .i64 8, .int .i64 4] 3)).alloc (.cells #[.int .i64 2, .int .i64 3, .int .i64 4, .int .i64 6, .int .i64 7, .int .i64 8] 3) := ⟨_, rfl⟩
  rw [← hw3]
  obtain ⟨gS, hgS⟩ : ∃ g, g = w1.heap.size := ⟨_, rfl⟩
  rw [← hgS]
  have HST : Hid (CtR w gS (.int .i64 0) w3) := Lib.hid (by
    have q1 := heap_alloc_new w1 (.cells #[.int .i64 5, .int .i64 4, .int .i64 6, .int .i64 8, .int .i64 8, .int .i64 4] 3 (0, 0))
    have b1 : Below w1.heap.size w1 (w1.alloc (.cells #[.int .i64 5, .int .i64 4, .int .i64 6, .int .i64 8, .int .i64 8, .int .i64 4] 3)) := (Below.refl _ _).alloc (Nat.le_refl _) _
    have b2 : Below (w1.alloc (.cells #[.int .i64 5, .int .i64 4, .int .i64 6, .int .i64 8, .int .i64 8, .int .i64 4] 3)).heap.size (w1.alloc (.cells #[.int .i64 5, .int .i64 4, .int .i64 6, .int .i64 8, .int .i64 8, .int .i64 4] 3)) w3 := by rw [hw3]; exact (Below.refl _ _).alloc (Nat.le_refl _) _
    have q2 := heap_alloc_new (w1.alloc (.cells #[.int .i64 5, .int .i64 4, .int .i64 6, .int .i64 8, .int .i64 8, .int .i64 4] 3)) (.cells #[.int .i64 2, .int .i64 3, .int .i64 4, .int .i64 6, .int .i64 7, .int .i64 8] 3 (0, 0))
    refine ⟨0, Nat.zero_le _, rfl, hb1.trans ((b1.trans (b2.mono b1.size)).mono hb1.size), ?_, ?_⟩
    · rw [hgS]
      exact (b2.block w1.heap.size (lt_of_heapK q1)).trans q1
    · rw [hw3, hgS]
      simpa using q2)
  clear hw3 hgS hb1 g1 g2 g3 g4
  go_wp2
  go_loopw [7] (fun i wr => CtR w gS i wr) (fun i _ => 6 - (intOf i).toNat)
  case atStart => exact HST.out
  case round =>
    obtain ⟨k, hk, rfl, hbw, hS, hK⟩ := hrel
    have HBW := Lib.hid hbw
    by_cases hlt : k < 6
    · have ki : (k : Int) < 6 := by omega
      obtain ⟨c0, c1⟩ := tabs hS hK hlt
      have hNb := cutN_le hlt
      have hKb := cutK_le hlt
      have hwrong := cut_wrong k stream (by have := HS.out; omega) hlt m HM.out
      obtain ⟨P2, hright⟩ := cut_right k stream (by have := HS.out; omega) hlt
      obtain ⟨Kk, hKk⟩ : ∃ K, K = cutK k := ⟨_, rfl⟩
      obtain ⟨Nk, hNk⟩ : ∃ N, N = cutN k := ⟨_, rfl⟩
      obtain ⟨sv, hsv⟩ : ∃ s, s = (if k = 2 ∨ k = 3 ∨ k = 4 then (0 : Int) else stream) := ⟨_, rfl⟩
      obtain ⟨nv, hnv⟩ : ∃ n, n = (if m = 1 then Nk + 1 else Nk - 1) := ⟨_, rfl⟩
      obtain ⟨N1, hN1⟩ : ∃ n, n = Nk - 1 := ⟨_, rfl⟩
      obtain ⟨fits, hfits⟩ : ∃ f, f = decide (k = 4 ∧ m = 1) := ⟨_, rfl⟩
      obtain ⟨cb, hcb⟩ : ∃ c, c = decide (Kk ≠ 2) := ⟨_, rfl⟩
      rw [← hKk] at c0 hKb hwrong hright
      rw [← hNk] at c1 hNb hwrong hright
      rw [← hsv, ← hnv] at hwrong
      rw [← hsv, ← hN1] at hright
      have hR1 : ∃ P, Fr.read ⟨(Kk : Int), 0, sv, List.replicate nv 0⟩ = (P, ⟨!fits, !fits && cb, if fits then 0 else 6⟩) := by
        cases hf : fits with
        | true =>
          have h4 : k = 4 ∧ m = 1 := by simpa [hfits] using hf
          obtain ⟨rfl, rfl⟩ := h4
          have e1 : Kk = 7 := by rw [hKk]; rfl
          have e2 : nv = 9 := by rw [hnv, hNk]; rfl
          have e3 : sv = 0 := by rw [hsv]; rfl
          rw [e1, e2, e3]
          exact ⟨_, cut_long⟩
        | false =>
          have h4 : ¬ (k = 4 ∧ m = 1) := by simpa [hfits] using hf
          exact ⟨noPrt, by rw [hwrong h4, hcb]; rfl⟩
      obtain ⟨P1, hR1⟩ := hR1
      have hsvb : 0 ≤ sv ∧ sv ≤ 2147483647 := by have := HS.out; rw [hsv]; split <;> omega
      obtain ⟨bad, hbad⟩ : ∃ b, b = !fits := ⟨_, rfl⟩
      obtain ⟨conn, hconn⟩ : ∃ b, b = (!fits && cb) := ⟨_, rfl⟩
      obtain ⟨fc, hfc⟩ : ∃ c, c = (if fits then 0 else 6) := ⟨_, rfl⟩
      rw [← hconn, ← hbad, ← hfc] at hR1
      obtain ⟨D1, pad1, code1, last1, step1, sets1, e11, e12, e13⟩ := P1
      obtain ⟨D2, pad2, code2, last2, step2, sets2, e21, e22, e23⟩ := P2
      have hnvb : nv ≤ 9 := by rw [hnv]; split <;> omega
      have HRD1 : Hid (∀ (W : World) (b q : Nat), W.ownsRow b 5 1 (.slice (some ⟨b, 0, none⟩) nv q) nv (cn .u8 (List.replicate nv 0)) → Calls Try.prog 9 #[.agg #[.int .i64 (Kk : Int), .int .i64 0, .int .i64 sv, .slice (some ⟨b, 0, none⟩) nv q]] W (PtPost W (⟨D1, pad1, code1, last1, step1, sets1, e11, e12, e13⟩, ⟨bad, conn, fc⟩))) := Lib.hid (fun W b q ho => pread_is (At.of_own ho) (fun x hx => by rw [List.eq_of_mem_replicate hx]; omega) (by simp) (fun h => by cases h) (own_cap ho) (by omega) (by omega) hR1)
      have HRD2 : Hid (∀ (W : World) (b : Nat) (Az : Option Addr) (cz : Nat), W.ownsRow b 5 1 (.slice Az (N1 + 1) cz) (N1 + 1) (cn .u8 (List.replicate N1 0 ++ [1])) → Calls Try.prog 9 #[.agg #[.int .i64 (Kk : Int), .int .i64 0, .int .i64 sv, .slice Az (N1 + 1) cz]] W (PtPost W (⟨D2, pad2, code2, last2, step2, sets2, e21, e22, e23⟩, noFlt))) := Lib.hid (fun W b Az cz ho => pread_is (At.of_own ho) (fun x hx => (List.mem_append.1 hx).elim (fun h => by rw [List.eq_of_mem_replicate h]; omega) (fun h => by rw [List.mem_singleton.1 h]; omega)) (by simp) (own_none ho) (own_cap ho) (by omega) (by omega) hright)
      have HKC : Hid (∀ W, Below wr.heap.size wr W → W.cell? ⟨gS + 1, k, none⟩ = some (.int .i64 (Kk : Int)) ∧ W.cell? ⟨gS, k, none⟩ = some (.int .i64 (Nk : Int))) := Lib.hid (fun W hb => ⟨(hb.cell (p := ⟨gS + 1, k, none⟩) (lt_of_heapK hK)).trans c0, (hb.cell (p := ⟨gS, k, none⟩) (lt_of_heapK hS)).trans c1⟩)
      have HTB : Hid (∀ W, Below wr.heap.size wr W → W.heap[gS]? = some (.cells #[.int .i64 5, .int .i64 4, .int .i64 6, .int .i64 8, .int .i64 8, .int .i64 4] 3 (0, 0)) ∧ W.heap[gS + 1]? = some (.cells #[.int .i64 2, .int .i64 3, .int .i64 4, .int .i64 6, .int .i64 7, .int .i64 8] 3 (0, 0))) := Lib.hid (fun W hb => ⟨(hb.block gS (lt_of_heapK hS)).trans hS, (hb.block (gS + 1) (lt_of_heapK hK)).trans hK⟩)
      have HNV : Hid (nv ≤ 1000) := Lib.hid (by omega)
      have HN1 : Hid (N1 ≤ 1000) := Lib.hid (by omega)
      have HSV := Lib.hid hsv
      have HNVE := Lib.hid hnv
      have HFT : Hid (fits = decide (Kk = 7 ∧ m = 1)) := Lib.hid (by rw [hfits, decide_eq_decide]; rw [hKb.2])
      have HXX : Hid (bad = !fits ∧ conn = (!fits && cb) ∧ fc = (if fits then 0 else 6) ∧ cb = decide (Kk ≠ 2)) := Lib.hid ⟨hbad, hconn, hfc, hcb⟩
      have HKL := Lib.hid hlt
      have eN : (Nk : Int) - 1 = (N1 : Int) := by omega
      have wN : IntKind.i64.wrap (N1 : Int) = (N1 : Int) := IntWalk.i64_in _ (by omega)
      have HNK : Hid (4 ≤ Nk ∧ Nk ≤ 8 ∧ N1 = Nk - 1) := Lib.hid ⟨hNb.1, hNb.2, hN1⟩
      have i0 : (0 : Int) ≤ (k : Int) := by omega
      clear hS hK hbw hNb hKb hwrong hright hKk hNk hsv hnv hN1 hfits hcb hR1 hsvb hbad hconn hfc hnvb hk hlt
      go_upto_region 10 with fail
      go_cut [8] (fun x wx => x = .int .i64 stream ∧ wx = wr)
      case first =>
        go_wp2
        go_meet
        case rel => exact ⟨rfl, rfl⟩
      case rest =>
      obtain ⟨rfl, rfl⟩ := hcut
      rename_i hKK
      refine hKK _ _ ?_
      clear hKK
      go_step
      go_cut [8] (fun x wx => x = .int .i64 sv ∧ wx = wc)
      case first =>
        rcases (show k = 2 ∨ k = 3 ∨ k = 4 ∨ (k ≠ 2 ∧ k ≠ 3 ∧ k ≠ 4) by omega) with rfl | rfl | rfl | ⟨n2, n3, n4⟩
        · have ES : Hid (sv = 0) := Lib.hid (by rw [HSV.out]; rfl)
          go_wp2
          go_meet
          case rel => exact ⟨by rw [ES.out], rfl⟩
        · have ES : Hid (sv = 0) := Lib.hid (by rw [HSV.out]; rfl)
          go_wp2
          go_meet
          case rel => exact ⟨by rw [ES.out], rfl⟩
        · have ES : Hid (sv = 0) := Lib.hid (by rw [HSV.out]; rfl)
          go_wp2
          go_meet
          case rel => exact ⟨by rw [ES.out], rfl⟩
        · have ES : Hid (sv = stream) := Lib.hid (by rw [HSV.out, if_neg (by omega)])
          have t2 : ((k : Int) == 2) = false := by rw [beq_eq_false_iff_ne]; omega
          have t3 : ((k : Int) == 3) = false := by rw [beq_eq_false_iff_ne]; omega
          have t4 : ((k : Int) == 4) = false := by rw [beq_eq_false_iff_ne]; omega
          clear n2 n3 n4
          go_wp2
          go_meet
          case rel => exact ⟨by rw [ES.out], rfl⟩
      case rest =>
      obtain ⟨rfl, hwe⟩ := hcut
      subst hwe
      obtain ⟨z0, z1⟩ := HKC.out wc (Below.refl _ _)
      go_upto_region 13 with fail
      go_cut [9] (fun x wx => x = .int .i64 (N1 : Int) ∧ wx = wc)
      case first =>
        go_wp2
        go_meet
        case rel => exact ⟨rfl, rfl⟩
      case rest =>
      obtain ⟨rfl, hwe⟩ := hcut
      subst hwe
      rename_i hKK
      refine hKK _ _ ?_
      clear hKK
      go_step
      go_cut [9] (fun x wx => x = .int .i64 (nv : Int) ∧ wx = wc)
      case first =>
        by_cases hm1 : m = 1
        · obtain ⟨N2, hN2⟩ : ∃ n, n = Nk + 1 := ⟨_, rfl⟩
          have eN2 : (Nk : Int) + 1 = (N2 : Int) := by omega
          have wN2 : IntKind.i64.wrap (N2 : Int) = (N2 : Int) := IntWalk.i64_in _ (by have := HNK.out; omega)
          have EV : Hid (nv = N2) := Lib.hid (by rw [HNVE.out, if_pos hm1, hN2])
          have km : ((m : Int) == 1) = true := by rw [hm1]; rfl
          clear hN2 hm1
          go_wp2
          go_meet
          case rel => exact ⟨by rw [EV.out], rfl⟩
        · have EV : Hid (nv = N1) := Lib.hid (by rw [HNVE.out, if_neg hm1]; exact HNK.out.2.2.symm)
          have km : ((m : Int) == 1) = false := by rw [beq_eq_false_iff_ne]; omega
          clear hm1
          go_wp2
          go_meet
          case rel => exact ⟨by rw [EV.out], rfl⟩
      case rest =>
      obtain ⟨rfl, hwe⟩ := hcut
      subst hwe
      rename_i hKK
      refine hKK _ _ ?_
      clear hKK
      obtain ⟨w4, hw4⟩ : ∃ w4, w4 = wc := ⟨_, rfl⟩
      subst hw4
      go_wp2
      go_cut [11] (fun x wx => ∃ gf, x = .pointer (some ⟨gf, 0, none⟩) ∧ wx.heap[gf]? = some (.cells #[.bool bad, .bool conn, .int .i64 (fc : Int)] 30 (0, 0)) ∧ Below w4.heap.size w4 wx)
      case first =>
       refine wp_region_held_drew (S := fun w' => w'.cell? ⟨gS + 1, k, none⟩ = some (.int .i64 (Kk : Int)) ∧ w'.cell? ⟨gS, k, none⟩ = some (.int .i64 (Nk : Int))) (by kernel_rfl) (HKC.out _ ((Below.refl _ _).drew)) (fun hq => ?_)
       have hb0 : Below w4.heap.size w4 w4.drew := (Below.refl _ _).drew
       obtain ⟨y0, hy0⟩ : ∃ y0, y0 = w4.drew := ⟨_, rfl⟩
       rw [← hy0] at hb0 hq ⊢
       clear hy0
       refine wpAnyH_take (i := 0) (v := ?_) rfl (by kernel_rfl) (by kernel_rfl) (by kernel_rfl) (fun _ _ _ h => h) (Or.inl ⟨by rfl, ?_⟩) hq ?_
       rotate_left
       · intro w hs
         try dsimp only at hs
         go_simp
         try with_reducible rfl
       change wpAnyH _ _ _ _ _ _ _ (Act.put _ (some 62) _) _
       simp only [Act.put, List.setIfInBounds_toArray, List.set_cons_zero, List.set_cons_succ]
       refine wpAnyH_take (i := 1) (v := ?_) rfl (by kernel_rfl) (by kernel_rfl) (by kernel_rfl) (fun _ _ _ h => h) (Or.inl ⟨by rfl, ?_⟩) hq ?_
       rotate_left
       · intro w hs
         try dsimp only at hs
         go_simp
         try with_reducible rfl
       change wpAnyH _ _ _ _ _ _ _ (Act.put _ (some 63) _) _
       simp only [Act.put, List.setIfInBounds_toArray, List.set_cons_zero, List.set_cons_succ]
       refine wpAnyH_take (i := 2) (v := ?_) rfl (by kernel_rfl) (by kernel_rfl) (by kernel_rfl) (fun _ _ _ h => h) (Or.inl ⟨by rfl, ?_⟩) hq ?_
       rotate_left
       · intro w hs
         try dsimp only at hs
         go_simp
         try with_reducible rfl
       change wpAnyH _ _ _ _ _ _ _ (Act.put _ (some 64) _) _
       simp only [Act.put, List.setIfInBounds_toArray, List.set_cons_zero, List.set_cons_succ]
       refine wpAnyH_take (i := 3) (v := ?_) rfl (by kernel_rfl) (by kernel_rfl) (by kernel_rfl) (fun _ _ _ h => h) (Or.inl ⟨by rfl, ?_⟩) hq ?_
       rotate_left
       · intro w hs
         try dsimp only at hs
         go_simp
         try with_reducible rfl
       change wpAnyH _ _ _ _ _ _ _ (Act.put _ (some 65) _) _
       simp only [Act.put, List.setIfInBounds_toArray, List.set_cons_zero, List.set_cons_succ]
       refine wpAnyH_take (i := 4) (v := ?_) rfl (by kernel_rfl) (by kernel_rfl) (by kernel_rfl) (fun _ _ _ h => h) (Or.inl ⟨by rfl, ?_⟩) hq ?_
       rotate_left
       · intro w hs
         try dsimp only at hs
         go_simp
         try with_reducible rfl
       change wpAnyH _ _ _ _ _ _ _ (Act.put _ (some 66) _) _
       simp only [Act.put, List.setIfInBounds_toArray, List.set_cons_zero, List.set_cons_succ]
       refine wpAnyH_take (i := 5) (v := ?_) rfl (by kernel_rfl) (by kernel_rfl) (by kernel_rfl) (fun _ _ _ h => h) (Or.inl ⟨by rfl, ?_⟩) hq ?_
       rotate_left
       · intro w hs
         try dsimp only at hs
         go_simp
         try with_reducible rfl
       change wpAnyH _ _ _ _ _ _ _ (Act.put _ (some 67) _) _
       simp only [Act.put, List.setIfInBounds_toArray, List.set_cons_zero, List.set_cons_succ]
       have hbE := hb0
       have haE := hb0
       have hfE := hb0
       refine wpAnyH_ready (rs := [6, 12, 13]) (by kernel_rfl) (by simp) ?_
       refine AllReadyH.cons rfl (fun K hK => ?_) ?_
       refine step_m rfl (.tmp 67) (.tmp 67) rfl nv rfl rfl HNV.out (fun bm y1 hbm hx1 hm1 => ?_)
       have bm_0 : w4.heap.size ≤ bm := by have := hb0.size; omega
       clear hbm
       have hb1 := hb0.trans (hx1.mono hb0.size)
       refine hK.out _ _ (HKC.out _ hb1) (fun hq => ?_)
       clear hK K
       refine wpAnyH_take (i := 7) (v := ?_) rfl (by kernel_rfl) (by kernel_rfl) (by kernel_rfl) (fun _ _ _ h => h) (Or.inl ⟨by rfl, ?_⟩) hq ?_
       rotate_left
       · intro w hs
         try dsimp only at hs
         go_simp
         try with_reducible rfl
       change wpAnyH _ _ _ _ _ _ _ (Act.put _ (some 69) _) _
       simp only [Act.put, List.setIfInBounds_toArray]
       refine wpAnyH_ready (rs := [8, 12, 13]) (by kernel_rfl) (by simp) ?_
       refine AllReadyH.cons rfl (fun K hK => ?_) ?_
       go_simp
       with_reducible refine (HRD1.out y1 bm nv hm1).mono ?_
       rintro e y2 ⟨A9, c9, B9, d9, rfl, _, _, _, _, _, _, _, _, hx2⟩
       simp only [prt, flt]
       have hb2 := hb1.trans (hx2.mono hb1.size)
       have hm2 := own_keep hm1 hx2
       refine hK.out _ _ (HKC.out _ hb2) (fun hq => ?_)
       clear hK K
       refine wpAnyH_take (i := 9) (v := ?_) rfl (by kernel_rfl) (by kernel_rfl) (by kernel_rfl) (fun _ _ _ h => h) (Or.inl ⟨by rfl, ?_⟩) hq ?_
       rotate_left
       · intro w hs
         try dsimp only at hs
         go_simp
         try with_reducible rfl
       change wpAnyH _ _ _ _ _ _ _ (Act.put _ (some 61) _) _
       simp only [Act.put, List.setIfInBounds_toArray, List.set_cons_zero, List.set_cons_succ]
       refine wpAnyH_take (i := 10) (v := ?_) rfl (by kernel_rfl) (by kernel_rfl) (by kernel_rfl) (fun _ _ _ h => h) (Or.inl ⟨by rfl, ?_⟩) hq ?_
       rotate_left
       · intro w hs
         try dsimp only at hs
         go_simp
         try with_reducible rfl
       change wpAnyH _ _ _ _ _ _ _ (Act.put _ (some 71) _) _
       simp only [Act.put, List.setIfInBounds_toArray, List.set_cons_zero, List.set_cons_succ]
       refine wpAnyH_take (i := 11) (v := ?_) rfl (by kernel_rfl) (by kernel_rfl) (by kernel_rfl) (fun _ _ _ h => h) (Or.inl ⟨by rfl, ?_⟩) hq ?_
       rotate_left
       · intro w hs
         try dsimp only at hs
         go_simp
         try with_reducible rfl
       change wpAnyH _ _ _ _ _ _ _ (Act.put _ (some 72) _) _
       simp only [Act.put, List.setIfInBounds_toArray, List.set_cons_zero, List.set_cons_succ]
       refine wpAnyH_ready (rs := [12, 13]) (by kernel_rfl) (by simp) ?_
       refine AllReadyH.cons rfl (fun K hK => ?_) ?_
       refine step_a rfl rfl (fun ga y3 hga hx3 ha3 => ?_)
       have ne_bm_ga : bm ≠ ga := by have := (hm2.lt bm rfl).2; omega
       have ga_0 : w4.heap.size ≤ ga := by have := hb2.size; omega
       clear hga
       have hb3 := hb2.trans (hx3.mono hb2.size)
       have hm3 := own_keep hm2 hx3
       refine hK.out _ _ (HKC.out _ hb3) (fun hq => ?_)
       clear hK K
       refine wpAnyH_ready (rs := [13]) (by kernel_rfl) (by simp) ?_
       refine AllReadyH.cons rfl (fun K hK => ?_) ?_
       refine step_b rfl rfl (fun gf y4 hgf hx4 hf4 => ?_)
       have ne_bm_gf : bm ≠ gf := by have := (hm3.lt bm rfl).2; omega
       have ne_ga_gf : ga ≠ gf := by have := lt_of_heapK ha3; omega
       have gf_0 : w4.heap.size ≤ gf := by have := hb3.size; omega
       clear hgf
       have hb4 := hb3.trans (hx4.mono hb3.size)
       have hm4 := own_keep hm3 hx4
       have ha4 := (hx4.block ga (lt_of_heapK ha3)).trans ha3
       refine hK.out _ _ (HKC.out _ hb4) (fun hq => ?_)
       clear hK K
       have hgne : ga ≠ gf := by omega
       replace hbE := hb4
       replace haE := ha4
       replace hfE := hf4
       rotate_left
       exact AllReadyH.nil
       refine AllReadyH.cons rfl (fun K hK => ?_) ?_
       refine step_b rfl rfl (fun gf y5 hgf hx5 hf5 => ?_)
       have ne_bm_gf : bm ≠ gf := by have := (hm2.lt bm rfl).2; omega
       have gf_0 : w4.heap.size ≤ gf := by have := hb2.size; omega
       clear hgf
       have hb5 := hb2.trans (hx5.mono hb2.size)
       have hm5 := own_keep hm2 hx5
       refine hK.out _ _ (HKC.out _ hb5) (fun hq => ?_)
       clear hK K
       refine wpAnyH_ready (rs := [12]) (by kernel_rfl) (by simp) ?_
       refine AllReadyH.cons rfl (fun K hK => ?_) ?_
       refine step_a rfl rfl (fun ga y6 hga hx6 ha6 => ?_)
       have ne_bm_ga : bm ≠ ga := by have := (hm5.lt bm rfl).2; omega
       have ne_gf_ga : gf ≠ ga := by have := lt_of_heapK hf5; omega
       have ga_0 : w4.heap.size ≤ ga := by have := hb5.size; omega
       clear hga
       have hb6 := hb5.trans (hx6.mono hb5.size)
       have hm6 := own_keep hm5 hx6
       have hf6 := (hx6.block gf (lt_of_heapK hf5)).trans hf5
       refine hK.out _ _ (HKC.out _ hb6) (fun hq => ?_)
       clear hK K
       have hgne : ga ≠ gf := by omega
       replace hbE := hb6
       replace haE := ha6
       replace hfE := hf6
       rotate_left
       exact AllReadyH.nil
       exact AllReadyH.nil
       refine AllReadyH.cons rfl (fun K hK => ?_) ?_
       refine step_a rfl rfl (fun ga y7 hga hx7 ha7 => ?_)
       have ne_bm_ga : bm ≠ ga := by have := (hm1.lt bm rfl).2; omega
       have ga_0 : w4.heap.size ≤ ga := by have := hb1.size; omega
       clear hga
       have hb7 := hb1.trans (hx7.mono hb1.size)
       have hm7 := own_keep hm1 hx7
       refine hK.out _ _ (HKC.out _ hb7) (fun hq => ?_)
       clear hK K
       refine wpAnyH_ready (rs := [8, 13]) (by kernel_rfl) (by simp) ?_
       refine AllReadyH.cons rfl (fun K hK => ?_) ?_
       go_simp
       with_reducible refine (HRD1.out y7 bm nv hm7).mono ?_
       rintro e y8 ⟨A9, c9, B9, d9, rfl, _, _, _, _, _, _, _, _, hx8⟩
       simp only [prt, flt]
       have hb8 := hb7.trans (hx8.mono hb7.size)
       have hm8 := own_keep hm7 hx8
       have ha8 := (hx8.block ga (lt_of_heapK ha7)).trans ha7
       refine hK.out _ _ (HKC.out _ hb8) (fun hq => ?_)
       clear hK K
       refine wpAnyH_take (i := 9) (v := ?_) rfl (by kernel_rfl) (by kernel_rfl) (by kernel_rfl) (fun _ _ _ h => h) (Or.inl ⟨by rfl, ?_⟩) hq ?_
       rotate_left
       · intro w hs
         try dsimp only at hs
         go_simp
         try with_reducible rfl
       change wpAnyH _ _ _ _ _ _ _ (Act.put _ (some 61) _) _
       simp only [Act.put, List.setIfInBounds_toArray, List.set_cons_zero, List.set_cons_succ]
       refine wpAnyH_take (i := 10) (v := ?_) rfl (by kernel_rfl) (by kernel_rfl) (by kernel_rfl) (fun _ _ _ h => h) (Or.inl ⟨by rfl, ?_⟩) hq ?_
       rotate_left
       · intro w hs
         try dsimp only at hs
         go_simp
         try with_reducible rfl
       change wpAnyH _ _ _ _ _ _ _ (Act.put _ (some 71) _) _
       simp only [Act.put, List.setIfInBounds_toArray, List.set_cons_zero, List.set_cons_succ]
       refine wpAnyH_take (i := 11) (v := ?_) rfl (by kernel_rfl) (by kernel_rfl) (by kernel_rfl) (fun _ _ _ h => h) (Or.inl ⟨by rfl, ?_⟩) hq ?_
       rotate_left
       · intro w hs
         try dsimp only at hs
         go_simp
         try with_reducible rfl
       change wpAnyH _ _ _ _ _ _ _ (Act.put _ (some 72) _) _
       simp only [Act.put, List.setIfInBounds_toArray, List.set_cons_zero, List.set_cons_succ]
       refine wpAnyH_ready (rs := [13]) (by kernel_rfl) (by simp) ?_
       refine AllReadyH.cons rfl (fun K hK => ?_) ?_
       refine step_b rfl rfl (fun gf y9 hgf hx9 hf9 => ?_)
       have ne_bm_gf : bm ≠ gf := by have := (hm8.lt bm rfl).2; omega
       have ne_ga_gf : ga ≠ gf := by have := lt_of_heapK ha8; omega
       have gf_0 : w4.heap.size ≤ gf := by have := hb8.size; omega
       clear hgf
       have hb9 := hb8.trans (hx9.mono hb8.size)
       have hm9 := own_keep hm8 hx9
       have ha9 := (hx9.block ga (lt_of_heapK ha8)).trans ha8
       refine hK.out _ _ (HKC.out _ hb9) (fun hq => ?_)
       clear hK K
       have hgne : ga ≠ gf := by omega
       replace hbE := hb9
       replace haE := ha9
       replace hfE := hf9
       rotate_left
       exact AllReadyH.nil
       refine AllReadyH.cons rfl (fun K hK => ?_) ?_
       refine step_b rfl rfl (fun gf y10 hgf hx10 hf10 => ?_)
       have ne_bm_gf : bm ≠ gf := by have := (hm7.lt bm rfl).2; omega
       have ne_ga_gf : ga ≠ gf := by have := lt_of_heapK ha7; omega
       have gf_0 : w4.heap.size ≤ gf := by have := hb7.size; omega
       clear hgf
       have hb10 := hb7.trans (hx10.mono hb7.size)
       have hm10 := own_keep hm7 hx10
       have ha10 := (hx10.block ga (lt_of_heapK ha7)).trans ha7
       refine hK.out _ _ (HKC.out _ hb10) (fun hq => ?_)
       clear hK K
       refine wpAnyH_ready (rs := [8]) (by kernel_rfl) (by simp) ?_
       refine AllReadyH.cons rfl (fun K hK => ?_) ?_
       go_simp
       with_reducible refine (HRD1.out y10 bm nv hm10).mono ?_
       rintro e y11 ⟨A9, c9, B9, d9, rfl, _, _, _, _, _, _, _, _, hx11⟩
       simp only [prt, flt]
       have hb11 := hb10.trans (hx11.mono hb10.size)
       have hm11 := own_keep hm10 hx11
       have ha11 := (hx11.block ga (lt_of_heapK ha10)).trans ha10
       have hf11 := (hx11.block gf (lt_of_heapK hf10)).trans hf10
       refine hK.out _ _ (HKC.out _ hb11) (fun hq => ?_)
       clear hK K
       refine wpAnyH_take (i := 9) (v := ?_) rfl (by kernel_rfl) (by kernel_rfl) (by kernel_rfl) (fun _ _ _ h => h) (Or.inl ⟨by rfl, ?_⟩) hq ?_
       rotate_left
       · intro w hs
         try dsimp only at hs
         go_simp
         try with_reducible rfl
       change wpAnyH _ _ _ _ _ _ _ (Act.put _ (some 61) _) _
       simp only [Act.put, List.setIfInBounds_toArray, List.set_cons_zero, List.set_cons_succ]
       refine wpAnyH_take (i := 10) (v := ?_) rfl (by kernel_rfl) (by kernel_rfl) (by kernel_rfl) (fun _ _ _ h => h) (Or.inl ⟨by rfl, ?_⟩) hq ?_
       rotate_left
       · intro w hs
         try dsimp only at hs
         go_simp
         try with_reducible rfl
       change wpAnyH _ _ _ _ _ _ _ (Act.put _ (some 71) _) _
       simp only [Act.put, List.setIfInBounds_toArray, List.set_cons_zero, List.set_cons_succ]
       refine wpAnyH_take (i := 11) (v := ?_) rfl (by kernel_rfl) (by kernel_rfl) (by kernel_rfl) (fun _ _ _ h => h) (Or.inl ⟨by rfl, ?_⟩) hq ?_
       rotate_left
       · intro w hs
         try dsimp only at hs
         go_simp
         try with_reducible rfl
       change wpAnyH _ _ _ _ _ _ _ (Act.put _ (some 72) _) _
       simp only [Act.put, List.setIfInBounds_toArray, List.set_cons_zero, List.set_cons_succ]
       have hgne : ga ≠ gf := by omega
       replace hbE := hb11
       replace haE := ha11
       replace hfE := hf11
       rotate_left
       exact AllReadyH.nil
       exact AllReadyH.nil
       refine AllReadyH.cons rfl (fun K hK => ?_) ?_
       refine step_b rfl rfl (fun gf y12 hgf hx12 hf12 => ?_)
       have ne_bm_gf : bm ≠ gf := by have := (hm1.lt bm rfl).2; omega
       have gf_0 : w4.heap.size ≤ gf := by have := hb1.size; omega
       clear hgf
       have hb12 := hb1.trans (hx12.mono hb1.size)
       have hm12 := own_keep hm1 hx12
       refine hK.out _ _ (HKC.out _ hb12) (fun hq => ?_)
       clear hK K
       refine wpAnyH_ready (rs := [8, 12]) (by kernel_rfl) (by simp) ?_
       refine AllReadyH.cons rfl (fun K hK => ?_) ?_
       go_simp
       with_reducible refine (HRD1.out y12 bm nv hm12).mono ?_
       rintro e y13 ⟨A9, c9, B9, d9, rfl, _, _, _, _, _, _, _, _, hx13⟩
       simp only [prt, flt]
       have hb13 := hb12.trans (hx13.mono hb12.size)
       have hm13 := own_keep hm12 hx13
       have hf13 := (hx13.block gf (lt_of_heapK hf12)).trans hf12
       refine hK.out _ _ (HKC.out _ hb13) (fun hq => ?_)
       clear hK K
       refine wpAnyH_take (i := 9) (v := ?_) rfl (by kernel_rfl) (by kernel_rfl) (by kernel_rfl) (fun _ _ _ h => h) (Or.inl ⟨by rfl, ?_⟩) hq ?_
       rotate_left
       · intro w hs
         try dsimp only at hs
         go_simp
         try with_reducible rfl
       change wpAnyH _ _ _ _ _ _ _ (Act.put _ (some 61) _) _
       simp only [Act.put, List.setIfInBounds_toArray, List.set_cons_zero, List.set_cons_succ]
       refine wpAnyH_take (i := 10) (v := ?_) rfl (by kernel_rfl) (by kernel_rfl) (by kernel_rfl) (fun _ _ _ h => h) (Or.inl ⟨by rfl, ?_⟩) hq ?_
       rotate_left
       · intro w hs
         try dsimp only at hs
         go_simp
         try with_reducible rfl
       change wpAnyH _ _ _ _ _ _ _ (Act.put _ (some 71) _) _
       simp only [Act.put, List.setIfInBounds_toArray, List.set_cons_zero, List.set_cons_succ]
       refine wpAnyH_take (i := 11) (v := ?_) rfl (by kernel_rfl) (by kernel_rfl) (by kernel_rfl) (fun _ _ _ h => h) (Or.inl ⟨by rfl, ?_⟩) hq ?_
       rotate_left
       · intro w hs
         try dsimp only at hs
         go_simp
         try with_reducible rfl
       change wpAnyH _ _ _ _ _ _ _ (Act.put _ (some 72) _) _
       simp only [Act.put, List.setIfInBounds_toArray, List.set_cons_zero, List.set_cons_succ]
       refine wpAnyH_ready (rs := [12]) (by kernel_rfl) (by simp) ?_
       refine AllReadyH.cons rfl (fun K hK => ?_) ?_
       refine step_a rfl rfl (fun ga y14 hga hx14 ha14 => ?_)
       have ne_bm_ga : bm ≠ ga := by have := (hm13.lt bm rfl).2; omega
       have ne_gf_ga : gf ≠ ga := by have := lt_of_heapK hf13; omega
       have ga_0 : w4.heap.size ≤ ga := by have := hb13.size; omega
       clear hga
       have hb14 := hb13.trans (hx14.mono hb13.size)
       have hm14 := own_keep hm13 hx14
       have hf14 := (hx14.block gf (lt_of_heapK hf13)).trans hf13
       refine hK.out _ _ (HKC.out _ hb14) (fun hq => ?_)
       clear hK K
       have hgne : ga ≠ gf := by omega
       replace hbE := hb14
       replace haE := ha14
       replace hfE := hf14
       rotate_left
       exact AllReadyH.nil
       refine AllReadyH.cons rfl (fun K hK => ?_) ?_
       refine step_a rfl rfl (fun ga y15 hga hx15 ha15 => ?_)
       have ne_bm_ga : bm ≠ ga := by have := (hm12.lt bm rfl).2; omega
       have ne_gf_ga : gf ≠ ga := by have := lt_of_heapK hf12; omega
       have ga_0 : w4.heap.size ≤ ga := by have := hb12.size; omega
       clear hga
       have hb15 := hb12.trans (hx15.mono hb12.size)
       have hm15 := own_keep hm12 hx15
       have hf15 := (hx15.block gf (lt_of_heapK hf12)).trans hf12
       refine hK.out _ _ (HKC.out _ hb15) (fun hq => ?_)
       clear hK K
       refine wpAnyH_ready (rs := [8]) (by kernel_rfl) (by simp) ?_
       refine AllReadyH.cons rfl (fun K hK => ?_) ?_
       go_simp
       with_reducible refine (HRD1.out y15 bm nv hm15).mono ?_
       rintro e y16 ⟨A9, c9, B9, d9, rfl, _, _, _, _, _, _, _, _, hx16⟩
       simp only [prt, flt]
       have hb16 := hb15.trans (hx16.mono hb15.size)
       have hm16 := own_keep hm15 hx16
       have ha16 := (hx16.block ga (lt_of_heapK ha15)).trans ha15
       have hf16 := (hx16.block gf (lt_of_heapK hf15)).trans hf15
       refine hK.out _ _ (HKC.out _ hb16) (fun hq => ?_)
       clear hK K
       refine wpAnyH_take (i := 9) (v := ?_) rfl (by kernel_rfl) (by kernel_rfl) (by kernel_rfl) (fun _ _ _ h => h) (Or.inl ⟨by rfl, ?_⟩) hq ?_
       rotate_left
       · intro w hs
         try dsimp only at hs
         go_simp
         try with_reducible rfl
       change wpAnyH _ _ _ _ _ _ _ (Act.put _ (some 61) _) _
       simp only [Act.put, List.setIfInBounds_toArray, List.set_cons_zero, List.set_cons_succ]
       refine wpAnyH_take (i := 10) (v := ?_) rfl (by kernel_rfl) (by kernel_rfl) (by kernel_rfl) (fun _ _ _ h => h) (Or.inl ⟨by rfl, ?_⟩) hq ?_
       rotate_left
       · intro w hs
         try dsimp only at hs
         go_simp
         try with_reducible rfl
       change wpAnyH _ _ _ _ _ _ _ (Act.put _ (some 71) _) _
       simp only [Act.put, List.setIfInBounds_toArray, List.set_cons_zero, List.set_cons_succ]
       refine wpAnyH_take (i := 11) (v := ?_) rfl (by kernel_rfl) (by kernel_rfl) (by kernel_rfl) (fun _ _ _ h => h) (Or.inl ⟨by rfl, ?_⟩) hq ?_
       rotate_left
       · intro w hs
         try dsimp only at hs
         go_simp
         try with_reducible rfl
       change wpAnyH _ _ _ _ _ _ _ (Act.put _ (some 72) _) _
       simp only [Act.put, List.setIfInBounds_toArray, List.set_cons_zero, List.set_cons_succ]
       have hgne : ga ≠ gf := by omega
       replace hbE := hb16
       replace haE := ha16
       replace hfE := hf16
       rotate_left
       exact AllReadyH.nil
       exact AllReadyH.nil
       exact AllReadyH.nil
       refine AllReadyH.cons rfl (fun K hK => ?_) ?_
       refine step_a rfl rfl (fun ga y17 hga hx17 ha17 => ?_)
       have ga_0 : w4.heap.size ≤ ga := by have := hb0.size; omega
       clear hga
       have hb17 := hb0.trans (hx17.mono hb0.size)
       refine hK.out _ _ (HKC.out _ hb17) (fun hq => ?_)
       clear hK K
       refine wpAnyH_ready (rs := [6, 13]) (by kernel_rfl) (by simp) ?_
       refine AllReadyH.cons rfl (fun K hK => ?_) ?_
       refine step_m rfl (.tmp 67) (.tmp 67) rfl nv rfl rfl HNV.out (fun bm y18 hbm hx18 hm18 => ?_)
       have ne_ga_bm : ga ≠ bm := by have := lt_of_heapK ha17; omega
       have bm_0 : w4.heap.size ≤ bm := by have := hb17.size; omega
       clear hbm
       have hb18 := hb17.trans (hx18.mono hb17.size)
       have ha18 := (hx18.block ga (lt_of_heapK ha17)).trans ha17
       refine hK.out _ _ (HKC.out _ hb18) (fun hq => ?_)
       clear hK K
       refine wpAnyH_take (i := 7) (v := ?_) rfl (by kernel_rfl) (by kernel_rfl) (by kernel_rfl) (fun _ _ _ h => h) (Or.inl ⟨by rfl, ?_⟩) hq ?_
       rotate_left
       · intro w hs
         try dsimp only at hs
         go_simp
         try with_reducible rfl
       change wpAnyH _ _ _ _ _ _ _ (Act.put _ (some 69) _) _
       simp only [Act.put, List.setIfInBounds_toArray]
       refine wpAnyH_ready (rs := [8, 13]) (by kernel_rfl) (by simp) ?_
       refine AllReadyH.cons rfl (fun K hK => ?_) ?_
       go_simp
       with_reducible refine (HRD1.out y18 bm nv hm18).mono ?_
       rintro e y19 ⟨A9, c9, B9, d9, rfl, _, _, _, _, _, _, _, _, hx19⟩
       simp only [prt, flt]
       have hb19 := hb18.trans (hx19.mono hb18.size)
       have hm19 := own_keep hm18 hx19
       have ha19 := (hx19.block ga (lt_of_heapK ha18)).trans ha18
       refine hK.out _ _ (HKC.out _ hb19) (fun hq => ?_)
       clear hK K
       refine wpAnyH_take (i := 9) (v := ?_) rfl (by kernel_rfl) (by kernel_rfl) (by kernel_rfl) (fun _ _ _ h => h) (Or.inl ⟨by rfl, ?_⟩) hq ?_
       rotate_left
       · intro w hs
         try dsimp only at hs
         go_simp
         try with_reducible rfl
       change wpAnyH _ _ _ _ _ _ _ (Act.put _ (some 61) _) _
       simp only [Act.put, List.setIfInBounds_toArray, List.set_cons_zero, List.set_cons_succ]
       refine wpAnyH_take (i := 10) (v := ?_) rfl (by kernel_rfl) (by kernel_rfl) (by kernel_rfl) (fun _ _ _ h => h) (Or.inl ⟨by rfl, ?_⟩) hq ?_
       rotate_left
       · intro w hs
         try dsimp only at hs
         go_simp
         try with_reducible rfl
       change wpAnyH _ _ _ _ _ _ _ (Act.put _ (some 71) _) _
       simp only [Act.put, List.setIfInBounds_toArray, List.set_cons_zero, List.set_cons_succ]
       refine wpAnyH_take (i := 11) (v := ?_) rfl (by kernel_rfl) (by kernel_rfl) (by kernel_rfl) (fun _ _ _ h => h) (Or.inl ⟨by rfl, ?_⟩) hq ?_
       rotate_left
       · intro w hs
         try dsimp only at hs
         go_simp
         try with_reducible rfl
       change wpAnyH _ _ _ _ _ _ _ (Act.put _ (some 72) _) _
       simp only [Act.put, List.setIfInBounds_toArray, List.set_cons_zero, List.set_cons_succ]
       refine wpAnyH_ready (rs := [13]) (by kernel_rfl) (by simp) ?_
       refine AllReadyH.cons rfl (fun K hK => ?_) ?_
       refine step_b rfl rfl (fun gf y20 hgf hx20 hf20 => ?_)
       have ne_bm_gf : bm ≠ gf := by have := (hm19.lt bm rfl).2; omega
       have ne_ga_gf : ga ≠ gf := by have := lt_of_heapK ha19; omega
       have gf_0 : w4.heap.size ≤ gf := by have := hb19.size; omega
       clear hgf
       have hb20 := hb19.trans (hx20.mono hb19.size)
       have hm20 := own_keep hm19 hx20
       have ha20 := (hx20.block ga (lt_of_heapK ha19)).trans ha19
       refine hK.out _ _ (HKC.out _ hb20) (fun hq => ?_)
       clear hK K
       have hgne : ga ≠ gf := by omega
       replace hbE := hb20
       replace haE := ha20
       replace hfE := hf20
       rotate_left
       exact AllReadyH.nil
       refine AllReadyH.cons rfl (fun K hK => ?_) ?_
       refine step_b rfl rfl (fun gf y21 hgf hx21 hf21 => ?_)
       have ne_bm_gf : bm ≠ gf := by have := (hm18.lt bm rfl).2; omega
       have ne_ga_gf : ga ≠ gf := by have := lt_of_heapK ha18; omega
       have gf_0 : w4.heap.size ≤ gf := by have := hb18.size; omega
       clear hgf
       have hb21 := hb18.trans (hx21.mono hb18.size)
       have hm21 := own_keep hm18 hx21
       have ha21 := (hx21.block ga (lt_of_heapK ha18)).trans ha18
       refine hK.out _ _ (HKC.out _ hb21) (fun hq => ?_)
       clear hK K
       refine wpAnyH_ready (rs := [8]) (by kernel_rfl) (by simp) ?_
       refine AllReadyH.cons rfl (fun K hK => ?_) ?_
       go_simp
       with_reducible refine (HRD1.out y21 bm nv hm21).mono ?_
       rintro e y22 ⟨A9, c9, B9, d9, rfl, _, _, _, _, _, _, _, _, hx22⟩
       simp only [prt, flt]
       have hb22 := hb21.trans (hx22.mono hb21.size)
       have hm22 := own_keep hm21 hx22
       have ha22 := (hx22.block ga (lt_of_heapK ha21)).trans ha21
       have hf22 := (hx22.block gf (lt_of_heapK hf21)).trans hf21
       refine hK.out _ _ (HKC.out _ hb22) (fun hq => ?_)
       clear hK K
       refine wpAnyH_take (i := 9) (v := ?_) rfl (by kernel_rfl) (by kernel_rfl) (by kernel_rfl) (fun _ _ _ h => h) (Or.inl ⟨by rfl, ?_⟩) hq ?_
       rotate_left
       · intro w hs
         try dsimp only at hs
         go_simp
         try with_reducible rfl
       change wpAnyH _ _ _ _ _ _ _ (Act.put _ (some 61) _) _
       simp only [Act.put, List.setIfInBounds_toArray, List.set_cons_zero, List.set_cons_succ]
       refine wpAnyH_take (i := 10) (v := ?_) rfl (by kernel_rfl) (by kernel_rfl) (by kernel_rfl) (fun _ _ _ h => h) (Or.inl ⟨by rfl, ?_⟩) hq ?_
       rotate_left
       · intro w hs
         try dsimp only at hs
         go_simp
         try with_reducible rfl
       change wpAnyH _ _ _ _ _ _ _ (Act.put _ (some 71) _) _
       simp only [Act.put, List.setIfInBounds_toArray, List.set_cons_zero, List.set_cons_succ]
       refine wpAnyH_take (i := 11) (v := ?_) rfl (by kernel_rfl) (by kernel_rfl) (by kernel_rfl) (fun _ _ _ h => h) (Or.inl ⟨by rfl, ?_⟩) hq ?_
       rotate_left
       · intro w hs
         try dsimp only at hs
         go_simp
         try with_reducible rfl
       change wpAnyH _ _ _ _ _ _ _ (Act.put _ (some 72) _) _
       simp only [Act.put, List.setIfInBounds_toArray, List.set_cons_zero, List.set_cons_succ]
       have hgne : ga ≠ gf := by omega
       replace hbE := hb22
       replace haE := ha22
       replace hfE := hf22
       rotate_left
       exact AllReadyH.nil
       exact AllReadyH.nil
       refine AllReadyH.cons rfl (fun K hK => ?_) ?_
       refine step_b rfl rfl (fun gf y23 hgf hx23 hf23 => ?_)
       have ne_ga_gf : ga ≠ gf := by have := lt_of_heapK ha17; omega
       have gf_0 : w4.heap.size ≤ gf := by have := hb17.size; omega
       clear hgf
       have hb23 := hb17.trans (hx23.mono hb17.size)
       have ha23 := (hx23.block ga (lt_of_heapK ha17)).trans ha17
       refine hK.out _ _ (HKC.out _ hb23) (fun hq => ?_)
       clear hK K
       refine wpAnyH_ready (rs := [6]) (by kernel_rfl) (by simp) ?_
       refine AllReadyH.cons rfl (fun K hK => ?_) ?_
       refine step_m rfl (.tmp 67) (.tmp 67) rfl nv rfl rfl HNV.out (fun bm y24 hbm hx24 hm24 => ?_)
       have ne_ga_bm : ga ≠ bm := by have := lt_of_heapK ha23; omega
       have ne_gf_bm : gf ≠ bm := by have := lt_of_heapK hf23; omega
       have bm_0 : w4.heap.size ≤ bm := by have := hb23.size; omega
       clear hbm
       have hb24 := hb23.trans (hx24.mono hb23.size)
       have ha24 := (hx24.block ga (lt_of_heapK ha23)).trans ha23
       have hf24 := (hx24.block gf (lt_of_heapK hf23)).trans hf23
       refine hK.out _ _ (HKC.out _ hb24) (fun hq => ?_)
       clear hK K
       refine wpAnyH_take (i := 7) (v := ?_) rfl (by kernel_rfl) (by kernel_rfl) (by kernel_rfl) (fun _ _ _ h => h) (Or.inl ⟨by rfl, ?_⟩) hq ?_
       rotate_left
       · intro w hs
         try dsimp only at hs
         go_simp
         try with_reducible rfl
       change wpAnyH _ _ _ _ _ _ _ (Act.put _ (some 69) _) _
       simp only [Act.put, List.setIfInBounds_toArray]
       refine wpAnyH_ready (rs := [8]) (by kernel_rfl) (by simp) ?_
       refine AllReadyH.cons rfl (fun K hK => ?_) ?_
       go_simp
       with_reducible refine (HRD1.out y24 bm nv hm24).mono ?_
       rintro e y25 ⟨A9, c9, B9, d9, rfl, _, _, _, _, _, _, _, _, hx25⟩
       simp only [prt, flt]
       have hb25 := hb24.trans (hx25.mono hb24.size)
       have hm25 := own_keep hm24 hx25
       have ha25 := (hx25.block ga (lt_of_heapK ha24)).trans ha24
       have hf25 := (hx25.block gf (lt_of_heapK hf24)).trans hf24
       refine hK.out _ _ (HKC.out _ hb25) (fun hq => ?_)
       clear hK K
       refine wpAnyH_take (i := 9) (v := ?_) rfl (by kernel_rfl) (by kernel_rfl) (by kernel_rfl) (fun _ _ _ h => h) (Or.inl ⟨by rfl, ?_⟩) hq ?_
       rotate_left
       · intro w hs
         try dsimp only at hs
         go_simp
         try with_reducible rfl
       change wpAnyH _ _ _ _ _ _ _ (Act.put _ (some 61) _) _
       simp only [Act.put, List.setIfInBounds_toArray, List.set_cons_zero, List.set_cons_succ]
       refine wpAnyH_take (i := 10) (v := ?_) rfl (by kernel_rfl) (by kernel_rfl) (by kernel_rfl) (fun _ _ _ h => h) (Or.inl ⟨by rfl, ?_⟩) hq ?_
       rotate_left
       · intro w hs
         try dsimp only at hs
         go_simp
         try with_reducible rfl
       change wpAnyH _ _ _ _ _ _ _ (Act.put _ (some 71) _) _
       simp only [Act.put, List.setIfInBounds_toArray, List.set_cons_zero, List.set_cons_succ]
       refine wpAnyH_take (i := 11) (v := ?_) rfl (by kernel_rfl) (by kernel_rfl) (by kernel_rfl) (fun _ _ _ h => h) (Or.inl ⟨by rfl, ?_⟩) hq ?_
       rotate_left
       · intro w hs
         try dsimp only at hs
         go_simp
         try with_reducible rfl
       change wpAnyH _ _ _ _ _ _ _ (Act.put _ (some 72) _) _
       simp only [Act.put, List.setIfInBounds_toArray, List.set_cons_zero, List.set_cons_succ]
       have hgne : ga ≠ gf := by omega
       replace hbE := hb25
       replace haE := ha25
       replace hfE := hf25
       rotate_left
       exact AllReadyH.nil
       exact AllReadyH.nil
       exact AllReadyH.nil
       refine AllReadyH.cons rfl (fun K hK => ?_) ?_
       refine step_b rfl rfl (fun gf y26 hgf hx26 hf26 => ?_)
       have gf_0 : w4.heap.size ≤ gf := by have := hb0.size; omega
       clear hgf
       have hb26 := hb0.trans (hx26.mono hb0.size)
       refine hK.out _ _ (HKC.out _ hb26) (fun hq => ?_)
       clear hK K
       refine wpAnyH_ready (rs := [6, 12]) (by kernel_rfl) (by simp) ?_
       refine AllReadyH.cons rfl (fun K hK => ?_) ?_
       refine step_m rfl (.tmp 67) (.tmp 67) rfl nv rfl rfl HNV.out (fun bm y27 hbm hx27 hm27 => ?_)
       have ne_gf_bm : gf ≠ bm := by have := lt_of_heapK hf26; omega
       have bm_0 : w4.heap.size ≤ bm := by have := hb26.size; omega
       clear hbm
       have hb27 := hb26.trans (hx27.mono hb26.size)
       have hf27 := (hx27.block gf (lt_of_heapK hf26)).trans hf26
       refine hK.out _ _ (HKC.out _ hb27) (fun hq => ?_)
       clear hK K
       refine wpAnyH_take (i := 7) (v := ?_) rfl (by kernel_rfl) (by kernel_rfl) (by kernel_rfl) (fun _ _ _ h => h) (Or.inl ⟨by rfl, ?_⟩) hq ?_
       rotate_left
       · intro w hs
         try dsimp only at hs
         go_simp
         try with_reducible rfl
       change wpAnyH _ _ _ _ _ _ _ (Act.put _ (some 69) _) _
       simp only [Act.put, List.setIfInBounds_toArray]
       refine wpAnyH_ready (rs := [8, 12]) (by kernel_rfl) (by simp) ?_
       refine AllReadyH.cons rfl (fun K hK => ?_) ?_
       go_simp
       with_reducible refine (HRD1.out y27 bm nv hm27).mono ?_
       rintro e y28 ⟨A9, c9, B9, d9, rfl, _, _, _, _, _, _, _, _, hx28⟩
       simp only [prt, flt]
       have hb28 := hb27.trans (hx28.mono hb27.size)
       have hm28 := own_keep hm27 hx28
       have hf28 := (hx28.block gf (lt_of_heapK hf27)).trans hf27
       refine hK.out _ _ (HKC.out _ hb28) (fun hq => ?_)
       clear hK K
       refine wpAnyH_take (i := 9) (v := ?_) rfl (by kernel_rfl) (by kernel_rfl) (by kernel_rfl) (fun _ _ _ h => h) (Or.inl ⟨by rfl, ?_⟩) hq ?_
       rotate_left
       · intro w hs
         try dsimp only at hs
         go_simp
         try with_reducible rfl
       change wpAnyH _ _ _ _ _ _ _ (Act.put _ (some 61) _) _
       simp only [Act.put, List.setIfInBounds_toArray, List.set_cons_zero, List.set_cons_succ]
       refine wpAnyH_take (i := 10) (v := ?_) rfl (by kernel_rfl) (by kernel_rfl) (by kernel_rfl) (fun _ _ _ h => h) (Or.inl ⟨by rfl, ?_⟩) hq ?_
       rotate_left
       · intro w hs
         try dsimp only at hs
         go_simp
         try with_reducible rfl
       change wpAnyH _ _ _ _ _ _ _ (Act.put _ (some 71) _) _
       simp only [Act.put, List.setIfInBounds_toArray, List.set_cons_zero, List.set_cons_succ]
       refine wpAnyH_take (i := 11) (v := ?_) rfl (by kernel_rfl) (by kernel_rfl) (by kernel_rfl) (fun _ _ _ h => h) (Or.inl ⟨by rfl, ?_⟩) hq ?_
       rotate_left
       · intro w hs
         try dsimp only at hs
         go_simp
         try with_reducible rfl
       change wpAnyH _ _ _ _ _ _ _ (Act.put _ (some 72) _) _
       simp only [Act.put, List.setIfInBounds_toArray, List.set_cons_zero, List.set_cons_succ]
       refine wpAnyH_ready (rs := [12]) (by kernel_rfl) (by simp) ?_
       refine AllReadyH.cons rfl (fun K hK => ?_) ?_
       refine step_a rfl rfl (fun ga y29 hga hx29 ha29 => ?_)
       have ne_bm_ga : bm ≠ ga := by have := (hm28.lt bm rfl).2; omega
       have ne_gf_ga : gf ≠ ga := by have := lt_of_heapK hf28; omega
       have ga_0 : w4.heap.size ≤ ga := by have := hb28.size; omega
       clear hga
       have hb29 := hb28.trans (hx29.mono hb28.size)
       have hm29 := own_keep hm28 hx29
       have hf29 := (hx29.block gf (lt_of_heapK hf28)).trans hf28
       refine hK.out _ _ (HKC.out _ hb29) (fun hq => ?_)
       clear hK K
       have hgne : ga ≠ gf := by omega
       replace hbE := hb29
       replace haE := ha29
       replace hfE := hf29
       rotate_left
       exact AllReadyH.nil
       refine AllReadyH.cons rfl (fun K hK => ?_) ?_
       refine step_a rfl rfl (fun ga y30 hga hx30 ha30 => ?_)
       have ne_bm_ga : bm ≠ ga := by have := (hm27.lt bm rfl).2; omega
       have ne_gf_ga : gf ≠ ga := by have := lt_of_heapK hf27; omega
       have ga_0 : w4.heap.size ≤ ga := by have := hb27.size; omega
       clear hga
       have hb30 := hb27.trans (hx30.mono hb27.size)
       have hm30 := own_keep hm27 hx30
       have hf30 := (hx30.block gf (lt_of_heapK hf27)).trans hf27
       refine hK.out _ _ (HKC.out _ hb30) (fun hq => ?_)
       clear hK K
       refine wpAnyH_ready (rs := [8]) (by kernel_rfl) (by simp) ?_
       refine AllReadyH.cons rfl (fun K hK => ?_) ?_
       go_simp
       with_reducible refine (HRD1.out y30 bm nv hm30).mono ?_
       rintro e y31 ⟨A9, c9, B9, d9, rfl, _, _, _, _, _, _, _, _, hx31⟩
       simp only [prt, flt]
       have hb31 := hb30.trans (hx31.mono hb30.size)
       have hm31 := own_keep hm30 hx31
       have ha31 := (hx31.block ga (lt_of_heapK ha30)).trans ha30
       have hf31 := (hx31.block gf (lt_of_heapK hf30)).trans hf30
       refine hK.out _ _ (HKC.out _ hb31) (fun hq => ?_)
       clear hK K
       refine wpAnyH_take (i := 9) (v := ?_) rfl (by kernel_rfl) (by kernel_rfl) (by kernel_rfl) (fun _ _ _ h => h) (Or.inl ⟨by rfl, ?_⟩) hq ?_
       rotate_left
       · intro w hs
         try dsimp only at hs
         go_simp
         try with_reducible rfl
       change wpAnyH _ _ _ _ _ _ _ (Act.put _ (some 61) _) _
       simp only [Act.put, List.setIfInBounds_toArray, List.set_cons_zero, List.set_cons_succ]
       refine wpAnyH_take (i := 10) (v := ?_) rfl (by kernel_rfl) (by kernel_rfl) (by kernel_rfl) (fun _ _ _ h => h) (Or.inl ⟨by rfl, ?_⟩) hq ?_
       rotate_left
       · intro w hs
         try dsimp only at hs
         go_simp
         try with_reducible rfl
       change wpAnyH _ _ _ _ _ _ _ (Act.put _ (some 71) _) _
       simp only [Act.put, List.setIfInBounds_toArray, List.set_cons_zero, List.set_cons_succ]
       refine wpAnyH_take (i := 11) (v := ?_) rfl (by kernel_rfl) (by kernel_rfl) (by kernel_rfl) (fun _ _ _ h => h) (Or.inl ⟨by rfl, ?_⟩) hq ?_
       rotate_left
       · intro w hs
         try dsimp only at hs
         go_simp
         try with_reducible rfl
       change wpAnyH _ _ _ _ _ _ _ (Act.put _ (some 72) _) _
       simp only [Act.put, List.setIfInBounds_toArray, List.set_cons_zero, List.set_cons_succ]
       have hgne : ga ≠ gf := by omega
       replace hbE := hb31
       replace haE := ha31
       replace hfE := hf31
       rotate_left
       exact AllReadyH.nil
       exact AllReadyH.nil
       refine AllReadyH.cons rfl (fun K hK => ?_) ?_
       refine step_a rfl rfl (fun ga y32 hga hx32 ha32 => ?_)
       have ne_gf_ga : gf ≠ ga := by have := lt_of_heapK hf26; omega
       have ga_0 : w4.heap.size ≤ ga := by have := hb26.size; omega
       clear hga
       have hb32 := hb26.trans (hx32.mono hb26.size)
       have hf32 := (hx32.block gf (lt_of_heapK hf26)).trans hf26
       refine hK.out _ _ (HKC.out _ hb32) (fun hq => ?_)
       clear hK K
       refine wpAnyH_ready (rs := [6]) (by kernel_rfl) (by simp) ?_
       refine AllReadyH.cons rfl (fun K hK => ?_) ?_
       refine step_m rfl (.tmp 67) (.tmp 67) rfl nv rfl rfl HNV.out (fun bm y33 hbm hx33 hm33 => ?_)
       have ne_ga_bm : ga ≠ bm := by have := lt_of_heapK ha32; omega
       have ne_gf_bm : gf ≠ bm := by have := lt_of_heapK hf32; omega
       have bm_0 : w4.heap.size ≤ bm := by have := hb32.size; omega
       clear hbm
       have hb33 := hb32.trans (hx33.mono hb32.size)
       have ha33 := (hx33.block ga (lt_of_heapK ha32)).trans ha32
       have hf33 := (hx33.block gf (lt_of_heapK hf32)).trans hf32
       refine hK.out _ _ (HKC.out _ hb33) (fun hq => ?_)
       clear hK K
       refine wpAnyH_take (i := 7) (v := ?_) rfl (by kernel_rfl) (by kernel_rfl) (by kernel_rfl) (fun _ _ _ h => h) (Or.inl ⟨by rfl, ?_⟩) hq ?_
       rotate_left
       · intro w hs
         try dsimp only at hs
         go_simp
         try with_reducible rfl
       change wpAnyH _ _ _ _ _ _ _ (Act.put _ (some 69) _) _
       simp only [Act.put, List.setIfInBounds_toArray]
       refine wpAnyH_ready (rs := [8]) (by kernel_rfl) (by simp) ?_
       refine AllReadyH.cons rfl (fun K hK => ?_) ?_
       go_simp
       with_reducible refine (HRD1.out y33 bm nv hm33).mono ?_
       rintro e y34 ⟨A9, c9, B9, d9, rfl, _, _, _, _, _, _, _, _, hx34⟩
       simp only [prt, flt]
       have hb34 := hb33.trans (hx34.mono hb33.size)
       have hm34 := own_keep hm33 hx34
       have ha34 := (hx34.block ga (lt_of_heapK ha33)).trans ha33
       have hf34 := (hx34.block gf (lt_of_heapK hf33)).trans hf33
       refine hK.out _ _ (HKC.out _ hb34) (fun hq => ?_)
       clear hK K
       refine wpAnyH_take (i := 9) (v := ?_) rfl (by kernel_rfl) (by kernel_rfl) (by kernel_rfl) (fun _ _ _ h => h) (Or.inl ⟨by rfl, ?_⟩) hq ?_
       rotate_left
       · intro w hs
         try dsimp only at hs
         go_simp
         try with_reducible rfl
       change wpAnyH _ _ _ _ _ _ _ (Act.put _ (some 61) _) _
       simp only [Act.put, List.setIfInBounds_toArray, List.set_cons_zero, List.set_cons_succ]
       refine wpAnyH_take (i := 10) (v := ?_) rfl (by kernel_rfl) (by kernel_rfl) (by kernel_rfl) (fun _ _ _ h => h) (Or.inl ⟨by rfl, ?_⟩) hq ?_
       rotate_left
       · intro w hs
         try dsimp only at hs
         go_simp
         try with_reducible rfl
       change wpAnyH _ _ _ _ _ _ _ (Act.put _ (some 71) _) _
       simp only [Act.put, List.setIfInBounds_toArray, List.set_cons_zero, List.set_cons_succ]
       refine wpAnyH_take (i := 11) (v := ?_) rfl (by kernel_rfl) (by kernel_rfl) (by kernel_rfl) (fun _ _ _ h => h) (Or.inl ⟨by rfl, ?_⟩) hq ?_
       rotate_left
       · intro w hs
         try dsimp only at hs
         go_simp
         try with_reducible rfl
       change wpAnyH _ _ _ _ _ _ _ (Act.put _ (some 72) _) _
       simp only [Act.put, List.setIfInBounds_toArray, List.set_cons_zero, List.set_cons_succ]
       have hgne : ga ≠ gf := by omega
       replace hbE := hb34
       replace haE := ha34
       replace hfE := hf34
       rotate_left
       exact AllReadyH.nil
       exact AllReadyH.nil
       exact AllReadyH.nil
       exact AllReadyH.nil
       all_goals
         refine wpAnyH_ready (rs := [14]) (by kernel_rfl) (by simp) ?_
         refine AllReadyH.cons rfl (fun K hK => ?_) AllReadyH.nil
         refine step_store9 rfl (.tmp 10) (.tmp 71) rfl ga rfl A9 B9 _ c9 _ d9 _ _ _ _ _ _ _ rfl haE (fun yS hkS _ => ?_)
         have hbS := hbE.trans (hkS.below (fun k e => by omega) hbE.size)
         have hfS := (hkS.block gf (lt_of_heapK hfE) (fun e => hgne e.symm)).trans hfE
         refine hK.out _ _ (HKC.out _ hbS) (fun hq => ?_)
         clear hK K
         refine wpAnyH_ready (rs := [15]) (by kernel_rfl) (by simp) ?_
         refine AllReadyH.cons rfl (fun K hK => ?_) AllReadyH.nil
         refine step_store3 rfl (.tmp 11) (.tmp 72) rfl gf rfl _ _ _ rfl hfS (fun yT hkT hfT => ?_)
         have hbT := hbS.trans (hkT.below (fun k e => by omega) hbS.size)
         refine hK.out _ _ (HKC.out _ hbT) (fun hq => ?_)
         clear hK K
         refine wpAnyH_done (by kernel_rfl) ?_ _
         go_wp2
         go_meet
         case rel => exact ⟨gf, rfl, hfT, hbT⟩
      case rest =>
      obtain ⟨gf, rfl, hf5, hb5⟩ := hcut
      obtain ⟨w5, hw5⟩ : ∃ w5, w5 = wc := ⟨_, rfl⟩
      subst hw5
      rename_i hKK
      refine hKK _ _ ?_
      clear hKK
      have q1 := (HKC.out w5 hb5).1
      have HF5 := Lib.hid hf5
      have HB5 := Lib.hid hb5
      clear hf5 hb5 z0 z1 c0 c1
      go_upto_region 17 with fail
      go_cut [12] (fun x wx => x = .bool fits ∧ wx = w5)
      case first =>
        by_cases h7 : Kk = 7
        · have k7 : ((Kk : Int) == 7) = true := by rw [h7]; rfl
          by_cases hm1 : m = 1
          · have km : ((m : Int) == 1) = true := by rw [hm1]; rfl
            have EF : Hid (fits = true) := Lib.hid (by rw [HFT.out]; exact decide_eq_true ⟨h7, hm1⟩)
            clear hm1 h7
            go_wp2
            go_meet
            case rel => exact ⟨by rw [EF.out], rfl⟩
          · have km : ((m : Int) == 1) = false := by rw [beq_eq_false_iff_ne]; omega
            have EF : Hid (fits = false) := Lib.hid (by rw [HFT.out]; exact decide_eq_false (fun h => hm1 h.2))
            clear hm1 h7
            go_wp2
            go_meet
            case rel => exact ⟨by rw [EF.out], rfl⟩
        · have k7 : ((Kk : Int) == 7) = false := by rw [beq_eq_false_iff_ne]; omega
          have EF : Hid (fits = false) := Lib.hid (by rw [HFT.out]; exact decide_eq_false (fun h => h7 h.1))
          clear h7
          go_wp2
          go_meet
          case rel => exact ⟨by rw [EF.out], rfl⟩
      case rest =>
      obtain ⟨rfl, hwe⟩ := hcut
      subst hwe
      rename_i hKK
      refine hKK _ _ ?_
      clear hKK
      obtain ⟨w6, hw6⟩ : ∃ w6, w6 = wc := ⟨_, rfl⟩
      subst hw6
      go_step
      go_cut [12] (fun x wx => x = .bool fits ∧ Below w6.heap.size w6 wx)
      case first =>
        have f0 : w6.cell? ⟨gf, 0, none⟩ = some (.bool bad) := cell_of_row _ _ 0 _ 30 _ HF5.out
        have f1 : w6.cell? ⟨gf, 1, none⟩ = some (.bool conn) := cell_of_row _ _ 1 _ 30 _ HF5.out
        have f2 : w6.cell? ⟨gf, 2, none⟩ = some (.int .i64 (fc : Int)) := cell_of_row _ _ 2 _ 30 _ HF5.out
        obtain ⟨ha, hb, hc, hd⟩ := HXX.out
        obtain ⟨fv, hfv⟩ : ∃ f, f = fits := ⟨_, rfl⟩
        rw [← hfv] at ha hb hc ⊢
        have HFV := Lib.hid hfv
        clear hfv
        cases hfit : fv with
        | true =>
          rw [hfit] at ha hb hc
          have HFI : Hid (fits = true) := Lib.hid (by rw [← HFV.out, hfit])
          simp only [Bool.not_true, Bool.false_and, if_true] at ha hb hc
          rw [ha] at f0
          rw [hb] at f1
          rw [hc, show ((0 : Nat) : Int) = 0 from rfl] at f2
          clear ha hb hc hd hfit
          go_wp2
          go_quiet (fail)
          go_wp2
          go_meet
          case rel => exact ⟨by rw [HFI.out], below_drewN (Below.refl _ _) _⟩
        | false =>
          rw [hfit] at ha hb hc
          have HFI : Hid (fits = false) := Lib.hid (by rw [← HFV.out, hfit])
          simp only [Bool.not_false, Bool.true_and, Bool.false_eq_true, if_false] at ha hb hc
          have k2 : ((Kk : Int) != 2) = cb := by
            rw [hd]
            by_cases h2 : Kk = 2
            · rw [h2]; rfl
            · rw [decide_eq_true h2, bne_iff_ne]; omega
          rw [ha] at f0
          rw [hb] at f1
          rw [hc, show ((6 : Nat) : Int) = 6 from rfl] at f2
          clear ha hb hc hd hfit
          go_wp2
          go_quiet (fail)
          go_wp2
          go_meet
          case rel => exact ⟨by rw [HFI.out], below_drewN (Below.refl _ _) _⟩
      case rest =>
      obtain ⟨rfl, hb7⟩ := hcut
      rename_i hKK
      refine hKK _ _ ?_
      clear hKK
      obtain ⟨w7, hw7⟩ : ∃ w7, w7 = wc := ⟨_, rfl⟩
      subst hw7
      have hb47 : Below w4.heap.size w4 w7 := HB5.out.trans (hb7.mono HB5.out.size)
      have HKC7 : Hid (∀ W, Below w7.heap.size w7 W → W.cell? ⟨gS + 1, k, none⟩ = some (.int .i64 (Kk : Int)) ∧ W.cell? ⟨gS, k, none⟩ = some (.int .i64 (Nk : Int))) := Lib.hid (fun W hb => HKC.out W (hb47.trans (hb.mono hb47.size)))
      have HTB7 : Hid (∀ W, Below w7.heap.size w7 W → Below w.heap.size w W ∧ W.heap[gS]? = some (.cells #[.int .i64 5, .int .i64 4, .int .i64 6, .int .i64 8, .int .i64 8, .int .i64 4] 3 (0, 0)) ∧ W.heap[gS + 1]? = some (.cells #[.int .i64 2, .int .i64 3, .int .i64 4, .int .i64 6, .int .i64 7, .int .i64 8] 3 (0, 0))) := Lib.hid (fun W hb => ⟨HBW.out.trans ((hb47.trans (hb.mono hb47.size)).mono HBW.out.size), HTB.out W (hb47.trans (hb.mono hb47.size))⟩)
      clear HKC HTB
      have HKC := HKC7
      clear HKC7 hb47 hb7 HRD1 HNV HSV HNVE HFT HXX HF5 HB5 HNK q1
      go_wp2
      go_cut [14] (fun x wx => ∃ gf, x = .pointer (some ⟨gf, 0, none⟩) ∧ wx.heap[gf]? = some (.cells #[.bool false, .bool false, .int .i64 0] 30 (0, 0)) ∧ Below w7.heap.size w7 wx)
      case first =>
       refine wp_region_held_drew (S := fun w' => w'.cell? ⟨gS + 1, k, none⟩ = some (.int .i64 (Kk : Int)) ∧ w'.cell? ⟨gS, k, none⟩ = some (.int .i64 (Nk : Int))) (by kernel_rfl) (HKC.out _ ((Below.refl _ _).drew)) (fun hq => ?_)
       have hb0 : Below w7.heap.size w7 w7.drew := (Below.refl _ _).drew
       obtain ⟨y0, hy0⟩ : ∃ y0, y0 = w7.drew := ⟨_, rfl⟩
       rw [← hy0] at hb0 hq ⊢
       clear hy0
       refine wpAnyH_take (i := 0) (v := ?_) rfl (by kernel_rfl) (by kernel_rfl) (by kernel_rfl) (fun _ _ _ h => h) (Or.inl ⟨by rfl, ?_⟩) hq ?_
       rotate_left
       · intro w hs
         try dsimp only at hs
         go_simp
         try with_reducible rfl
       change wpAnyH _ _ _ _ _ _ _ (Act.put _ (some 112) _) _
       simp only [Act.put, List.setIfInBounds_toArray, List.set_cons_zero, List.set_cons_succ]
       refine wpAnyH_take (i := 1) (v := ?_) rfl (by kernel_rfl) (by kernel_rfl) (by kernel_rfl) (fun _ _ _ h => h) (Or.inl ⟨by rfl, ?_⟩) hq ?_
       rotate_left
       · intro w hs
         try dsimp only at hs
         go_simp
         try with_reducible rfl
       change wpAnyH _ _ _ _ _ _ _ (Act.put _ (some 113) _) _
       simp only [Act.put, List.setIfInBounds_toArray, List.set_cons_zero, List.set_cons_succ]
       refine wpAnyH_take (i := 2) (v := ?_) rfl (by kernel_rfl) (by kernel_rfl) (by kernel_rfl) (fun _ _ _ h => h) (Or.inl ⟨by rfl, ?_⟩) hq ?_
       rotate_left
       · intro w hs
         try dsimp only at hs
         go_simp
         try with_reducible rfl
       change wpAnyH _ _ _ _ _ _ _ (Act.put _ (some 114) _) _
       simp only [Act.put, List.setIfInBounds_toArray, List.set_cons_zero, List.set_cons_succ]
       refine wpAnyH_take (i := 3) (v := ?_) rfl (by kernel_rfl) (by kernel_rfl) (by kernel_rfl) (fun _ _ _ h => h) (Or.inl ⟨by rfl, ?_⟩) hq ?_
       rotate_left
       · intro w hs
         try dsimp only at hs
         go_simp
         try with_reducible rfl
       change wpAnyH _ _ _ _ _ _ _ (Act.put _ (some 115) _) _
       simp only [Act.put, List.setIfInBounds_toArray, List.set_cons_zero, List.set_cons_succ]
       refine wpAnyH_take (i := 4) (v := ?_) rfl (by kernel_rfl) (by kernel_rfl) (by kernel_rfl) (fun _ _ _ h => h) (Or.inl ⟨by rfl, ?_⟩) hq ?_
       rotate_left
       · intro w hs
         try dsimp only at hs
         go_simp
         try with_reducible rfl
       change wpAnyH _ _ _ _ _ _ _ (Act.put _ (some 116) _) _
       simp only [Act.put, List.setIfInBounds_toArray, List.set_cons_zero, List.set_cons_succ]
       refine wpAnyH_take (i := 5) (v := ?_) rfl (by kernel_rfl) (by kernel_rfl) (by kernel_rfl) (fun _ _ _ h => h) (Or.inl ⟨by rfl, ?_⟩) hq ?_
       rotate_left
       · intro w hs
         try dsimp only at hs
         go_simp
         try with_reducible rfl
       change wpAnyH _ _ _ _ _ _ _ (Act.put _ (some 117) _) _
       simp only [Act.put, List.setIfInBounds_toArray, List.set_cons_zero, List.set_cons_succ]
       refine wpAnyH_take (i := 6) (v := ?_) rfl (by kernel_rfl) (by kernel_rfl) (by kernel_rfl) (fun _ _ _ h => h) (Or.inl ⟨by rfl, ?_⟩) hq ?_
       rotate_left
       · intro w hs
         try dsimp only at hs
         go_simp
         try with_reducible rfl
       change wpAnyH _ _ _ _ _ _ _ (Act.put _ (some 118) _) _
       simp only [Act.put, List.setIfInBounds_toArray, List.set_cons_zero, List.set_cons_succ]
       refine wpAnyH_take (i := 7) (v := ?_) rfl (by kernel_rfl) (by kernel_rfl) (by kernel_rfl) (fun _ _ _ h => h) (Or.inl ⟨by rfl, ?_⟩) hq ?_
       rotate_left
       · intro w hs
         try dsimp only at hs
         go_simp
         try with_reducible rfl
       change wpAnyH _ _ _ _ _ _ _ (Act.put _ (some 119) _) _
       simp only [Act.put, List.setIfInBounds_toArray, List.set_cons_zero, List.set_cons_succ]
       refine wpAnyH_take (i := 8) (v := ?_) rfl (by kernel_rfl) (by kernel_rfl) (by kernel_rfl) (fun _ _ _ h => h) (Or.inl ⟨by rfl, ?_⟩) hq ?_
       rotate_left
       · intro w hs
         try dsimp only at hs
         go_simp
         try with_reducible rfl
       change wpAnyH _ _ _ _ _ _ _ (Act.put _ (some 120) _) _
       simp only [Act.put, List.setIfInBounds_toArray, List.set_cons_zero, List.set_cons_succ]
       refine wpAnyH_take (i := 9) (v := ?_) rfl (by kernel_rfl) (by kernel_rfl) (by kernel_rfl) (fun _ _ _ h => h) (Or.inl ⟨by rfl, ?_⟩) hq ?_
       rotate_left
       · intro w hs
         try dsimp only at hs
         go_simp
         try with_reducible rfl
       change wpAnyH _ _ _ _ _ _ _ (Act.put _ (some 121) _) _
       simp only [Act.put, List.setIfInBounds_toArray, List.set_cons_zero, List.set_cons_succ]
       refine held_name (fun o0 q0 a0 ho hq0 hA0 => ?_)
       have HQP : Hid (∀ c a (d : Nat) v w, q0 (.panic c) (Act.put a (some d) v) w → q0 (.panic c) a w) := Lib.hid (by rw [hq0]; exact fun _ _ _ _ _ h => h)
       have KMLZCab : Hid (∀ (y : World) (bm : Nat) (bl : Nat) (Az : Option Addr) (cz : Nat) (A9 : Option Addr) (c9 : Nat) (B9 : Option Addr) (d9 : Nat) (ga : Nat) (gf : Nat), Below w7.heap.size w7 y → w7.heap.size ≤ ga → y.heap[ga]? = some (.cells #[.slice none 0 0, .int .i64 0, .int .i64 0, .int .i64 0, .int .i64 0, .slice none 0 0, .bool false, .bool false, .bool false] 28 (0, 0)) → w7.heap.size ≤ gf → y.heap[gf]? = some (.cells #[.bool false, .bool false, .int .i64 0] 30 (0, 0)) → ga ≠ gf → wpAnyH Try.prog .any o0 q0 (fun w' => w'.cell? ⟨gS + 1, k, none⟩ = some (.int .i64 (Kk : Int)) ∧ w'.cell? ⟨gS, k, none⟩ = some (.int .i64 (Nk : Int))) 2 #[true, true, true, true, true, true, true, true, true, true, true, true, true, true, true, true, true, true, true, true, false, false] ({ tmps := ((((((((((a0.tmps.setIfInBounds 122 (.slice (some ⟨bm, 0, none⟩) N1 N1)).setIfInBounds 123 (.slice (some ⟨bl, 0, none⟩) 1 1)).setIfInBounds 124 (.slice Az (N1 + 1) cz)).setIfInBounds 125 (.agg #[.int .i64 (Kk : Int), .int .i64 0, .int .i64 sv, .slice Az (N1 + 1) cz])).setIfInBounds 126 (.tuple #[.agg #[.slice A9 D2.length c9, .int .i64 (pad2 : Int), .int .i64 (code2 : Int), .int .i64 (last2 : Int), .int .i64 (step2 : Int), .slice B9 sets2.length d9, .bool e21, .bool e22, .bool e23], .agg #[.bool false, .bool false, .int .i64 ((0 : Nat) : Int)]])).setIfInBounds 111 (.tuple #[.agg #[.slice A9 D2.length c9, .int .i64 (pad2 : Int), .int .i64 (code2 : Int), .int .i64 (last2 : Int), .int .i64 (step2 : Int), .slice B9 sets2.length d9, .bool e21, .bool e22, .bool e23], .agg #[.bool false, .bool false, .int .i64 ((0 : Nat) : Int)]])).setIfInBounds 127 (.agg #[.slice A9 D2.length c9, .int .i64 (pad2 : Int), .int .i64 (code2 : Int), .int .i64 (last2 : Int), .int .i64 (step2 : Int), .slice B9 sets2.length d9, .bool e21, .bool e22, .bool e23])).setIfInBounds 128 (.agg #[.bool false, .bool false, .int .i64 ((0 : Nat) : Int)])).setIfInBounds 13 (.pointer (some ⟨ga, 0, none⟩))).setIfInBounds 14 (.pointer (some ⟨gf, 0, none⟩))), defers := [] } : Act) y) := Lib.hid (by
         intro y bm bl Az cz A9 c9 B9 d9 ga gf hb ga_0 ha gf_0 hf ne_ab
         rw [ho, hA0]
         simp only [List.setIfInBounds_toArray, List.set_cons_zero, List.set_cons_succ]
         have hq := HKC.out y hb
         refine wpAnyH_ready (rs := [20]) (by kernel_rfl) (by simp) ?_
         refine AllReadyH.cons rfl (fun K hK => ?_) AllReadyH.nil
         refine step_store9 rfl (.tmp 13) (.tmp 127) rfl ga rfl A9 B9 _ c9 _ d9 _ _ _ _ _ _ _ rfl ha (fun yS hkS _ => ?_)
         have hbS := hb.trans (hkS.below (fun k e => by omega) hb.size)
         have hfS := (hkS.block gf (lt_of_heapK hf) (fun e => ne_ab e.symm)).trans hf
         refine hK.out _ _ (HKC.out _ hbS) (fun hq => ?_)
         clear hK K
         refine wpAnyH_ready (rs := [21]) (by kernel_rfl) (by simp) ?_
         refine AllReadyH.cons rfl (fun K hK => ?_) AllReadyH.nil
         refine step_store3 rfl (.tmp 14) (.tmp 128) rfl gf rfl _ _ _ rfl hfS (fun yT hkT hfT => ?_)
         have hbT := hbS.trans (hkT.below (fun k e => by omega) hbS.size)
         refine hK.out _ _ (HKC.out _ hbT) (fun hq => ?_)
         clear hK K
         refine wpAnyH_done (by kernel_rfl) ?_ _
         rw [hq0]
         go_wp2
         go_meet
         case rel => exact ⟨gf, rfl, hfT, hbT⟩)
       have KMLZCa : Hid (∀ (y : World) (bm : Nat) (bl : Nat) (Az : Option Addr) (cz : Nat) (A9 : Option Addr) (c9 : Nat) (B9 : Option Addr) (d9 : Nat) (ga : Nat), Below w7.heap.size w7 y → w7.heap.size ≤ ga → y.heap[ga]? = some (.cells #[.slice none 0 0, .int .i64 0, .int .i64 0, .int .i64 0, .int .i64 0, .slice none 0 0, .bool false, .bool false, .bool false] 28 (0, 0)) → wpAnyH Try.prog .any o0 q0 (fun w' => w'.cell? ⟨gS + 1, k, none⟩ = some (.int .i64 (Kk : Int)) ∧ w'.cell? ⟨gS, k, none⟩ = some (.int .i64 (Nk : Int))) 3 #[true, true, true, true, true, true, true, true, true, true, true, true, true, true, true, true, true, true, true, false, false, false] ({ tmps := (((((((((a0.tmps.setIfInBounds 122 (.slice (some ⟨bm, 0, none⟩) N1 N1)).setIfInBounds 123 (.slice (some ⟨bl, 0, none⟩) 1 1)).setIfInBounds 124 (.slice Az (N1 + 1) cz)).setIfInBounds 125 (.agg #[.int .i64 (Kk : Int), .int .i64 0, .int .i64 sv, .slice Az (N1 + 1) cz])).setIfInBounds 126 (.tuple #[.agg #[.slice A9 D2.length c9, .int .i64 (pad2 : Int), .int .i64 (code2 : Int), .int .i64 (last2 : Int), .int .i64 (step2 : Int), .slice B9 sets2.length d9, .bool e21, .bool e22, .bool e23], .agg #[.bool false, .bool false, .int .i64 ((0 : Nat) : Int)]])).setIfInBounds 111 (.tuple #[.agg #[.slice A9 D2.length c9, .int .i64 (pad2 : Int), .int .i64 (code2 : Int), .int .i64 (last2 : Int), .int .i64 (step2 : Int), .slice B9 sets2.length d9, .bool e21, .bool e22, .bool e23], .agg #[.bool false, .bool false, .int .i64 ((0 : Nat) : Int)]])).setIfInBounds 127 (.agg #[.slice A9 D2.length c9, .int .i64 (pad2 : Int), .int .i64 (code2 : Int), .int .i64 (last2 : Int), .int .i64 (step2 : Int), .slice B9 sets2.length d9, .bool e21, .bool e22, .bool e23])).setIfInBounds 128 (.agg #[.bool false, .bool false, .int .i64 ((0 : Nat) : Int)])).setIfInBounds 13 (.pointer (some ⟨ga, 0, none⟩))), defers := [] } : Act) y) := Lib.hid (by
         intro y bm bl Az cz A9 c9 B9 d9 ga hb ga_0 ha
         rw [ho, hA0]
         simp only [List.setIfInBounds_toArray, List.set_cons_zero, List.set_cons_succ]
         have hq := HKC.out y hb
         refine wpAnyH_ready (rs := [19]) (by kernel_rfl) (by simp) ?_
         refine AllReadyH.cons rfl (fun K hK => ?_) ?_
         · refine step_b rfl rfl (fun gf y' hgf hx hf' => ?_)
           have gf_0 : w7.heap.size ≤ gf := by have := hb.size; omega
           have ne_ab : ga ≠ gf := by have := lt_of_heapK ha; omega
           have hb' := hb.trans (hx.mono hb.size)
           have ha' := (hx.block ga (lt_of_heapK ha)).trans ha
           refine hK.out _ _ (HKC.out _ hb') (fun hq => ?_)
           clear hK K
           exact held_as ho (by kernel_rfl) (by rw [hA0]; kernel_rfl) (KMLZCab.out y' bm bl Az cz A9 c9 B9 d9 ga gf hb' ga_0 ha' gf_0 hf' ne_ab)
         exact AllReadyH.nil)
       have KMLZCb : Hid (∀ (y : World) (bm : Nat) (bl : Nat) (Az : Option Addr) (cz : Nat) (A9 : Option Addr) (c9 : Nat) (B9 : Option Addr) (d9 : Nat) (gf : Nat), Below w7.heap.size w7 y → w7.heap.size ≤ gf → y.heap[gf]? = some (.cells #[.bool false, .bool false, .int .i64 0] 30 (0, 0)) → wpAnyH Try.prog .any o0 q0 (fun w' => w'.cell? ⟨gS + 1, k, none⟩ = some (.int .i64 (Kk : Int)) ∧ w'.cell? ⟨gS, k, none⟩ = some (.int .i64 (Nk : Int))) 3 #[true, true, true, true, true, true, true, true, true, true, true, true, true, true, true, true, true, true, false, true, false, false] ({ tmps := (((((((((a0.tmps.setIfInBounds 122 (.slice (some ⟨bm, 0, none⟩) N1 N1)).setIfInBounds 123 (.slice (some ⟨bl, 0, none⟩) 1 1)).setIfInBounds 124 (.slice Az (N1 + 1) cz)).setIfInBounds 125 (.agg #[.int .i64 (Kk : Int), .int .i64 0, .int .i64 sv, .slice Az (N1 + 1) cz])).setIfInBounds 126 (.tuple #[.agg #[.slice A9 D2.length c9, .int .i64 (pad2 : Int), .int .i64 (code2 : Int), .int .i64 (last2 : Int), .int .i64 (step2 : Int), .slice B9 sets2.length d9, .bool e21, .bool e22, .bool e23], .agg #[.bool false, .bool false, .int .i64 ((0 : Nat) : Int)]])).setIfInBounds 111 (.tuple #[.agg #[.slice A9 D2.length c9, .int .i64 (pad2 : Int), .int .i64 (code2 : Int), .int .i64 (last2 : Int), .int .i64 (step2 : Int), .slice B9 sets2.length d9, .bool e21, .bool e22, .bool e23], .agg #[.bool false, .bool false, .int .i64 ((0 : Nat) : Int)]])).setIfInBounds 127 (.agg #[.slice A9 D2.length c9, .int .i64 (pad2 : Int), .int .i64 (code2 : Int), .int .i64 (last2 : Int), .int .i64 (step2 : Int), .slice B9 sets2.length d9, .bool e21, .bool e22, .bool e23])).setIfInBounds 128 (.agg #[.bool false, .bool false, .int .i64 ((0 : Nat) : Int)])).setIfInBounds 14 (.pointer (some ⟨gf, 0, none⟩))), defers := [] } : Act) y) := Lib.hid (by
         intro y bm bl Az cz A9 c9 B9 d9 gf hb gf_0 hf
         rw [ho, hA0]
         simp only [List.setIfInBounds_toArray, List.set_cons_zero, List.set_cons_succ]
         have hq := HKC.out y hb
         refine wpAnyH_ready (rs := [18]) (by kernel_rfl) (by simp) ?_
         refine AllReadyH.cons rfl (fun K hK => ?_) ?_
         · refine step_a rfl rfl (fun ga y' hga hx ha' => ?_)
           have ga_0 : w7.heap.size ≤ ga := by have := hb.size; omega
           have ne_ab : ga ≠ gf := by have := lt_of_heapK hf; omega
           have hb' := hb.trans (hx.mono hb.size)
           have hf' := (hx.block gf (lt_of_heapK hf)).trans hf
           refine hK.out _ _ (HKC.out _ hb') (fun hq => ?_)
           clear hK K
           exact held_as ho (by kernel_rfl) (by rw [hA0]; kernel_rfl) (KMLZCab.out y' bm bl Az cz A9 c9 B9 d9 ga gf hb' ga_0 ha' gf_0 hf' ne_ab)
         exact AllReadyH.nil)
       have KMLZC : Hid (∀ (y : World) (bm : Nat) (bl : Nat) (Az : Option Addr) (cz : Nat) (A9 : Option Addr) (c9 : Nat) (B9 : Option Addr) (d9 : Nat), Below w7.heap.size w7 y → wpAnyH Try.prog .any o0 q0 (fun w' => w'.cell? ⟨gS + 1, k, none⟩ = some (.int .i64 (Kk : Int)) ∧ w'.cell? ⟨gS, k, none⟩ = some (.int .i64 (Nk : Int))) 4 #[true, true, true, true, true, true, true, true, true, true, true, true, true, true, true, true, true, true, false, false, false, false] ({ tmps := ((((((((a0.tmps.setIfInBounds 122 (.slice (some ⟨bm, 0, none⟩) N1 N1)).setIfInBounds 123 (.slice (some ⟨bl, 0, none⟩) 1 1)).setIfInBounds 124 (.slice Az (N1 + 1) cz)).setIfInBounds 125 (.agg #[.int .i64 (Kk : Int), .int .i64 0, .int .i64 sv, .slice Az (N1 + 1) cz])).setIfInBounds 126 (.tuple #[.agg #[.slice A9 D2.length c9, .int .i64 (pad2 : Int), .int .i64 (code2 : Int), .int .i64 (last2 : Int), .int .i64 (step2 : Int), .slice B9 sets2.length d9, .bool e21, .bool e22, .bool e23], .agg #[.bool false, .bool false, .int .i64 ((0 : Nat) : Int)]])).setIfInBounds 111 (.tuple #[.agg #[.slice A9 D2.length c9, .int .i64 (pad2 : Int), .int .i64 (code2 : Int), .int .i64 (last2 : Int), .int .i64 (step2 : Int), .slice B9 sets2.length d9, .bool e21, .bool e22, .bool e23], .agg #[.bool false, .bool false, .int .i64 ((0 : Nat) : Int)]])).setIfInBounds 127 (.agg #[.slice A9 D2.length c9, .int .i64 (pad2 : Int), .int .i64 (code2 : Int), .int .i64 (last2 : Int), .int .i64 (step2 : Int), .slice B9 sets2.length d9, .bool e21, .bool e22, .bool e23])).setIfInBounds 128 (.agg #[.bool false, .bool false, .int .i64 ((0 : Nat) : Int)])), defers := [] } : Act) y) := Lib.hid (by
         intro y bm bl Az cz A9 c9 B9 d9 hb
         rw [ho, hA0]
         simp only [List.setIfInBounds_toArray, List.set_cons_zero, List.set_cons_succ]
         have hq := HKC.out y hb
         refine wpAnyH_ready (rs := [18, 19]) (by kernel_rfl) (by simp) ?_
         refine AllReadyH.cons rfl (fun K hK => ?_) ?_
         · refine step_a rfl rfl (fun ga y' hga hx ha' => ?_)
           have ga_0 : w7.heap.size ≤ ga := by have := hb.size; omega
           have hb' := hb.trans (hx.mono hb.size)
           refine hK.out _ _ (HKC.out _ hb') (fun hq => ?_)
           clear hK K
           exact held_as ho (by kernel_rfl) (by rw [hA0]; kernel_rfl) (KMLZCa.out y' bm bl Az cz A9 c9 B9 d9 ga hb' ga_0 ha')
         refine AllReadyH.cons rfl (fun K hK => ?_) ?_
         · refine step_b rfl rfl (fun gf y' hgf hx hf' => ?_)
           have gf_0 : w7.heap.size ≤ gf := by have := hb.size; omega
           have hb' := hb.trans (hx.mono hb.size)
           refine hK.out _ _ (HKC.out _ hb') (fun hq => ?_)
           clear hK K
           exact held_as ho (by kernel_rfl) (by rw [hA0]; kernel_rfl) (KMLZCb.out y' bm bl Az cz A9 c9 B9 d9 gf hb' gf_0 hf')
         exact AllReadyH.nil)
       have KMLZab : Hid (∀ (y : World) (bm : Nat) (bl : Nat) (Az : Option Addr) (cz : Nat) (ga : Nat) (gf : Nat), Below w7.heap.size w7 y → y.ownsRow bm 5 1 (.slice Az (N1 + 1) cz) (N1 + 1) (cn .u8 (List.replicate N1 0 ++ [1])) → w7.heap.size ≤ ga → y.heap[ga]? = some (.cells #[.slice none 0 0, .int .i64 0, .int .i64 0, .int .i64 0, .int .i64 0, .slice none 0 0, .bool false, .bool false, .bool false] 28 (0, 0)) → w7.heap.size ≤ gf → y.heap[gf]? = some (.cells #[.bool false, .bool false, .int .i64 0] 30 (0, 0)) → ga ≠ gf → wpAnyH Try.prog .any o0 q0 (fun w' => w'.cell? ⟨gS + 1, k, none⟩ = some (.int .i64 (Kk : Int)) ∧ w'.cell? ⟨gS, k, none⟩ = some (.int .i64 (Nk : Int))) 6 #[true, true, true, true, true, true, true, true, true, true, true, true, true, true, false, false, false, false, true, true, false, false] ({ tmps := ((((((a0.tmps.setIfInBounds 122 (.slice (some ⟨bm, 0, none⟩) N1 N1)).setIfInBounds 123 (.slice (some ⟨bl, 0, none⟩) 1 1)).setIfInBounds 124 (.slice Az (N1 + 1) cz)).setIfInBounds 125 (.agg #[.int .i64 (Kk : Int), .int .i64 0, .int .i64 sv, .slice Az (N1 + 1) cz])).setIfInBounds 13 (.pointer (some ⟨ga, 0, none⟩))).setIfInBounds 14 (.pointer (some ⟨gf, 0, none⟩))), defers := [] } : Act) y) := Lib.hid (by
         intro y bm bl Az cz ga gf hb hz ga_0 ha gf_0 hf ne_ab
         rw [ho, hA0]
         simp only [List.setIfInBounds_toArray, List.set_cons_zero, List.set_cons_succ]
         have hq := HKC.out y hb
         refine wpAnyH_ready (rs := [14]) (by kernel_rfl) (by simp) ?_
         refine AllReadyH.cons rfl (fun K hK => ?_) ?_
         · go_simp
           with_reducible refine (HRD2.out y bm Az cz hz).mono ?_
           rintro e y' ⟨A9, c9, B9, d9, rfl, _, _, _, _, _, _, _, _, hx⟩
           simp only [prt, flt, noFlt]
           have hb' := hb.trans (hx.mono hb.size)
           have ha' := (hx.block ga (lt_of_heapK ha)).trans ha
           have hf' := (hx.block gf (lt_of_heapK hf)).trans hf
           refine hK.out _ _ (HKC.out _ hb') (fun hq => ?_)
           clear hK K
           refine wpAnyH_take (i := 15) (v := ?_) rfl (by kernel_rfl) (by kernel_rfl) (by kernel_rfl) (fun _ _ _ h => HQP.out _ _ _ _ _ h) (Or.inl ⟨by rfl, ?_⟩) hq ?_
           rotate_left
           · intro w hs
             try dsimp only at hs
             go_simp
             try with_reducible rfl
           change wpAnyH _ _ _ _ _ _ _ (Act.put _ (some 111) _) _
           simp only [Act.put, List.setIfInBounds_toArray, List.set_cons_zero, List.set_cons_succ]
           refine wpAnyH_take (i := 16) (v := ?_) rfl (by kernel_rfl) (by kernel_rfl) (by kernel_rfl) (fun _ _ _ h => HQP.out _ _ _ _ _ h) (Or.inl ⟨by rfl, ?_⟩) hq ?_
           rotate_left
           · intro w hs
             try dsimp only at hs
             go_simp
             try with_reducible rfl
           change wpAnyH _ _ _ _ _ _ _ (Act.put _ (some 127) _) _
           simp only [Act.put, List.setIfInBounds_toArray, List.set_cons_zero, List.set_cons_succ]
           refine wpAnyH_take (i := 17) (v := ?_) rfl (by kernel_rfl) (by kernel_rfl) (by kernel_rfl) (fun _ _ _ h => HQP.out _ _ _ _ _ h) (Or.inl ⟨by rfl, ?_⟩) hq ?_
           rotate_left
           · intro w hs
             try dsimp only at hs
             go_simp
             try with_reducible rfl
           change wpAnyH _ _ _ _ _ _ _ (Act.put _ (some 128) _) _
           simp only [Act.put, List.setIfInBounds_toArray, List.set_cons_zero, List.set_cons_succ]
           exact held_as ho (by kernel_rfl) (by rw [hA0]; kernel_rfl) (KMLZCab.out y' bm bl Az cz A9 c9 B9 d9 ga gf hb' ga_0 ha' gf_0 hf' ne_ab)
         exact AllReadyH.nil)
       have KMLZa : Hid (∀ (y : World) (bm : Nat) (bl : Nat) (Az : Option Addr) (cz : Nat) (ga : Nat), Below w7.heap.size w7 y → y.ownsRow bm 5 1 (.slice Az (N1 + 1) cz) (N1 + 1) (cn .u8 (List.replicate N1 0 ++ [1])) → w7.heap.size ≤ ga → y.heap[ga]? = some (.cells #[.slice none 0 0, .int .i64 0, .int .i64 0, .int .i64 0, .int .i64 0, .slice none 0 0, .bool false, .bool false, .bool false] 28 (0, 0)) → wpAnyH Try.prog .any o0 q0 (fun w' => w'.cell? ⟨gS + 1, k, none⟩ = some (.int .i64 (Kk : Int)) ∧ w'.cell? ⟨gS, k, none⟩ = some (.int .i64 (Nk : Int))) 7 #[true, true, true, true, true, true, true, true, true, true, true, true, true, true, false, false, false, false, true, false, false, false] ({ tmps := (((((a0.tmps.setIfInBounds 122 (.slice (some ⟨bm, 0, none⟩) N1 N1)).setIfInBounds 123 (.slice (some ⟨bl, 0, none⟩) 1 1)).setIfInBounds 124 (.slice Az (N1 + 1) cz)).setIfInBounds 125 (.agg #[.int .i64 (Kk : Int), .int .i64 0, .int .i64 sv, .slice Az (N1 + 1) cz])).setIfInBounds 13 (.pointer (some ⟨ga, 0, none⟩))), defers := [] } : Act) y) := Lib.hid (by
         intro y bm bl Az cz ga hb hz ga_0 ha
         rw [ho, hA0]
         simp only [List.setIfInBounds_toArray, List.set_cons_zero, List.set_cons_succ]
         have hq := HKC.out y hb
         refine wpAnyH_ready (rs := [14, 19]) (by kernel_rfl) (by simp) ?_
         refine AllReadyH.cons rfl (fun K hK => ?_) ?_
         · go_simp
           with_reducible refine (HRD2.out y bm Az cz hz).mono ?_
           rintro e y' ⟨A9, c9, B9, d9, rfl, _, _, _, _, _, _, _, _, hx⟩
           simp only [prt, flt, noFlt]
           have hb' := hb.trans (hx.mono hb.size)
           have ha' := (hx.block ga (lt_of_heapK ha)).trans ha
           refine hK.out _ _ (HKC.out _ hb') (fun hq => ?_)
           clear hK K
           refine wpAnyH_take (i := 15) (v := ?_) rfl (by kernel_rfl) (by kernel_rfl) (by kernel_rfl) (fun _ _ _ h => HQP.out _ _ _ _ _ h) (Or.inl ⟨by rfl, ?_⟩) hq ?_
           rotate_left
           · intro w hs
             try dsimp only at hs
             go_simp
             try with_reducible rfl
           change wpAnyH _ _ _ _ _ _ _ (Act.put _ (some 111) _) _
           simp only [Act.put, List.setIfInBounds_toArray, List.set_cons_zero, List.set_cons_succ]
           refine wpAnyH_take (i := 16) (v := ?_) rfl (by kernel_rfl) (by kernel_rfl) (by kernel_rfl) (fun _ _ _ h => HQP.out _ _ _ _ _ h) (Or.inl ⟨by rfl, ?_⟩) hq ?_
           rotate_left
           · intro w hs
             try dsimp only at hs
             go_simp
             try with_reducible rfl
           change wpAnyH _ _ _ _ _ _ _ (Act.put _ (some 127) _) _
           simp only [Act.put, List.setIfInBounds_toArray, List.set_cons_zero, List.set_cons_succ]
           refine wpAnyH_take (i := 17) (v := ?_) rfl (by kernel_rfl) (by kernel_rfl) (by kernel_rfl) (fun _ _ _ h => HQP.out _ _ _ _ _ h) (Or.inl ⟨by rfl, ?_⟩) hq ?_
           rotate_left
           · intro w hs
             try dsimp only at hs
             go_simp
             try with_reducible rfl
           change wpAnyH _ _ _ _ _ _ _ (Act.put _ (some 128) _) _
           simp only [Act.put, List.setIfInBounds_toArray, List.set_cons_zero, List.set_cons_succ]
           exact held_as ho (by kernel_rfl) (by rw [hA0]; kernel_rfl) (KMLZCa.out y' bm bl Az cz A9 c9 B9 d9 ga hb' ga_0 ha')
         refine AllReadyH.cons rfl (fun K hK => ?_) ?_
         · refine step_b rfl rfl (fun gf y' hgf hx hf' => ?_)
           have gf_0 : w7.heap.size ≤ gf := by have := hb.size; omega
           have ne_ab : ga ≠ gf := by have := lt_of_heapK ha; omega
           have hb' := hb.trans (hx.mono hb.size)
           have hz' := own_keep hz hx
           have ha' := (hx.block ga (lt_of_heapK ha)).trans ha
           refine hK.out _ _ (HKC.out _ hb') (fun hq => ?_)
           clear hK K
           exact held_as ho (by kernel_rfl) (by rw [hA0]; kernel_rfl) (KMLZab.out y' bm bl Az cz ga gf hb' hz' ga_0 ha' gf_0 hf' ne_ab)
         exact AllReadyH.nil)
       have KMLZb : Hid (∀ (y : World) (bm : Nat) (bl : Nat) (Az : Option Addr) (cz : Nat) (gf : Nat), Below w7.heap.size w7 y → y.ownsRow bm 5 1 (.slice Az (N1 + 1) cz) (N1 + 1) (cn .u8 (List.replicate N1 0 ++ [1])) → w7.heap.size ≤ gf → y.heap[gf]? = some (.cells #[.bool false, .bool false, .int .i64 0] 30 (0, 0)) → wpAnyH Try.prog .any o0 q0 (fun w' => w'.cell? ⟨gS + 1, k, none⟩ = some (.int .i64 (Kk : Int)) ∧ w'.cell? ⟨gS, k, none⟩ = some (.int .i64 (Nk : Int))) 7 #[true, true, true, true, true, true, true, true, true, true, true, true, true, true, false, false, false, false, false, true, false, false] ({ tmps := (((((a0.tmps.setIfInBounds 122 (.slice (some ⟨bm, 0, none⟩) N1 N1)).setIfInBounds 123 (.slice (some ⟨bl, 0, none⟩) 1 1)).setIfInBounds 124 (.slice Az (N1 + 1) cz)).setIfInBounds 125 (.agg #[.int .i64 (Kk : Int), .int .i64 0, .int .i64 sv, .slice Az (N1 + 1) cz])).setIfInBounds 14 (.pointer (some ⟨gf, 0, none⟩))), defers := [] } : Act) y) := Lib.hid (by
         intro y bm bl Az cz gf hb hz gf_0 hf
         rw [ho, hA0]
         simp only [List.setIfInBounds_toArray, List.set_cons_zero, List.set_cons_succ]
         have hq := HKC.out y hb
         refine wpAnyH_ready (rs := [14, 18]) (by kernel_rfl) (by simp) ?_
         refine AllReadyH.cons rfl (fun K hK => ?_) ?_
         · go_simp
           with_reducible refine (HRD2.out y bm Az cz hz).mono ?_
           rintro e y' ⟨A9, c9, B9, d9, rfl, _, _, _, _, _, _, _, _, hx⟩
           simp only [prt, flt, noFlt]
           have hb' := hb.trans (hx.mono hb.size)
           have hf' := (hx.block gf (lt_of_heapK hf)).trans hf
           refine hK.out _ _ (HKC.out _ hb') (fun hq => ?_)
           clear hK K
           refine wpAnyH_take (i := 15) (v := ?_) rfl (by kernel_rfl) (by kernel_rfl) (by kernel_rfl) (fun _ _ _ h => HQP.out _ _ _ _ _ h) (Or.inl ⟨by rfl, ?_⟩) hq ?_
           rotate_left
           · intro w hs
             try dsimp only at hs
             go_simp
             try with_reducible rfl
           change wpAnyH _ _ _ _ _ _ _ (Act.put _ (some 111) _) _
           simp only [Act.put, List.setIfInBounds_toArray, List.set_cons_zero, List.set_cons_succ]
           refine wpAnyH_take (i := 16) (v := ?_) rfl (by kernel_rfl) (by kernel_rfl) (by kernel_rfl) (fun _ _ _ h => HQP.out _ _ _ _ _ h) (Or.inl ⟨by rfl, ?_⟩) hq ?_
           rotate_left
           · intro w hs
             try dsimp only at hs
             go_simp
             try with_reducible rfl
           change wpAnyH _ _ _ _ _ _ _ (Act.put _ (some 127) _) _
           simp only [Act.put, List.setIfInBounds_toArray, List.set_cons_zero, List.set_cons_succ]
           refine wpAnyH_take (i := 17) (v := ?_) rfl (by kernel_rfl) (by kernel_rfl) (by kernel_rfl) (fun _ _ _ h => HQP.out _ _ _ _ _ h) (Or.inl ⟨by rfl, ?_⟩) hq ?_
           rotate_left
           · intro w hs
             try dsimp only at hs
             go_simp
             try with_reducible rfl
           change wpAnyH _ _ _ _ _ _ _ (Act.put _ (some 128) _) _
           simp only [Act.put, List.setIfInBounds_toArray, List.set_cons_zero, List.set_cons_succ]
           exact held_as ho (by kernel_rfl) (by rw [hA0]; kernel_rfl) (KMLZCb.out y' bm bl Az cz A9 c9 B9 d9 gf hb' gf_0 hf')
         refine AllReadyH.cons rfl (fun K hK => ?_) ?_
         · refine step_a rfl rfl (fun ga y' hga hx ha' => ?_)
           have ga_0 : w7.heap.size ≤ ga := by have := hb.size; omega
           have ne_ab : ga ≠ gf := by have := lt_of_heapK hf; omega
           have hb' := hb.trans (hx.mono hb.size)
           have hz' := own_keep hz hx
           have hf' := (hx.block gf (lt_of_heapK hf)).trans hf
           refine hK.out _ _ (HKC.out _ hb') (fun hq => ?_)
           clear hK K
           exact held_as ho (by kernel_rfl) (by rw [hA0]; kernel_rfl) (KMLZab.out y' bm bl Az cz ga gf hb' hz' ga_0 ha' gf_0 hf' ne_ab)
         exact AllReadyH.nil)
       have KMLZ : Hid (∀ (y : World) (bm : Nat) (bl : Nat) (Az : Option Addr) (cz : Nat), Below w7.heap.size w7 y → y.ownsRow bm 5 1 (.slice Az (N1 + 1) cz) (N1 + 1) (cn .u8 (List.replicate N1 0 ++ [1])) → wpAnyH Try.prog .any o0 q0 (fun w' => w'.cell? ⟨gS + 1, k, none⟩ = some (.int .i64 (Kk : Int)) ∧ w'.cell? ⟨gS, k, none⟩ = some (.int .i64 (Nk : Int))) 8 #[true, true, true, true, true, true, true, true, true, true, true, true, true, true, false, false, false, false, false, false, false, false] ({ tmps := ((((a0.tmps.setIfInBounds 122 (.slice (some ⟨bm, 0, none⟩) N1 N1)).setIfInBounds 123 (.slice (some ⟨bl, 0, none⟩) 1 1)).setIfInBounds 124 (.slice Az (N1 + 1) cz)).setIfInBounds 125 (.agg #[.int .i64 (Kk : Int), .int .i64 0, .int .i64 sv, .slice Az (N1 + 1) cz])), defers := [] } : Act) y) := Lib.hid (by
         intro y bm bl Az cz hb hz
         rw [ho, hA0]
         simp only [List.setIfInBounds_toArray, List.set_cons_zero, List.set_cons_succ]
         have hq := HKC.out y hb
         refine wpAnyH_ready (rs := [14, 18, 19]) (by kernel_rfl) (by simp) ?_
         refine AllReadyH.cons rfl (fun K hK => ?_) ?_
         · go_simp
           with_reducible refine (HRD2.out y bm Az cz hz).mono ?_
           rintro e y' ⟨A9, c9, B9, d9, rfl, _, _, _, _, _, _, _, _, hx⟩
           simp only [prt, flt, noFlt]
           have hb' := hb.trans (hx.mono hb.size)
           refine hK.out _ _ (HKC.out _ hb') (fun hq => ?_)
           clear hK K
           refine wpAnyH_take (i := 15) (v := ?_) rfl (by kernel_rfl) (by kernel_rfl) (by kernel_rfl) (fun _ _ _ h => HQP.out _ _ _ _ _ h) (Or.inl ⟨by rfl, ?_⟩) hq ?_
           rotate_left
           · intro w hs
             try dsimp only at hs
             go_simp
             try with_reducible rfl
           change wpAnyH _ _ _ _ _ _ _ (Act.put _ (some 111) _) _
           simp only [Act.put, List.setIfInBounds_toArray, List.set_cons_zero, List.set_cons_succ]
           refine wpAnyH_take (i := 16) (v := ?_) rfl (by kernel_rfl) (by kernel_rfl) (by kernel_rfl) (fun _ _ _ h => HQP.out _ _ _ _ _ h) (Or.inl ⟨by rfl, ?_⟩) hq ?_
           rotate_left
           · intro w hs
             try dsimp only at hs
             go_simp
             try with_reducible rfl
           change wpAnyH _ _ _ _ _ _ _ (Act.put _ (some 127) _) _
           simp only [Act.put, List.setIfInBounds_toArray, List.set_cons_zero, List.set_cons_succ]
           refine wpAnyH_take (i := 17) (v := ?_) rfl (by kernel_rfl) (by kernel_rfl) (by kernel_rfl) (fun _ _ _ h => HQP.out _ _ _ _ _ h) (Or.inl ⟨by rfl, ?_⟩) hq ?_
           rotate_left
           · intro w hs
             try dsimp only at hs
             go_simp
             try with_reducible rfl
           change wpAnyH _ _ _ _ _ _ _ (Act.put _ (some 128) _) _
           simp only [Act.put, List.setIfInBounds_toArray, List.set_cons_zero, List.set_cons_succ]
           exact held_as ho (by kernel_rfl) (by rw [hA0]; kernel_rfl) (KMLZC.out y' bm bl Az cz A9 c9 B9 d9 hb')
         refine AllReadyH.cons rfl (fun K hK => ?_) ?_
         · refine step_a rfl rfl (fun ga y' hga hx ha' => ?_)
           have ga_0 : w7.heap.size ≤ ga := by have := hb.size; omega
           have hb' := hb.trans (hx.mono hb.size)
           have hz' := own_keep hz hx
           refine hK.out _ _ (HKC.out _ hb') (fun hq => ?_)
           clear hK K
           exact held_as ho (by kernel_rfl) (by rw [hA0]; kernel_rfl) (KMLZa.out y' bm bl Az cz ga hb' hz' ga_0 ha')
         refine AllReadyH.cons rfl (fun K hK => ?_) ?_
         · refine step_b rfl rfl (fun gf y' hgf hx hf' => ?_)
           have gf_0 : w7.heap.size ≤ gf := by have := hb.size; omega
           have hb' := hb.trans (hx.mono hb.size)
           have hz' := own_keep hz hx
           refine hK.out _ _ (HKC.out _ hb') (fun hq => ?_)
           clear hK K
           exact held_as ho (by kernel_rfl) (by rw [hA0]; kernel_rfl) (KMLZb.out y' bm bl Az cz gf hb' hz' gf_0 hf')
         exact AllReadyH.nil)
       have KMLab : Hid (∀ (y : World) (bm : Nat) (bl : Nat) (ga : Nat) (gf : Nat), Below w7.heap.size w7 y → w7.heap.size ≤ bm → y.ownsRow bm 5 1 (.slice (some ⟨bm, 0, none⟩) N1 N1) N1 (cn .u8 (List.replicate N1 0)) → y.heap[bl]? = some (.cells #[.int .u8 1] 5 (0, 0)) → w7.heap.size ≤ ga → y.heap[ga]? = some (.cells #[.slice none 0 0, .int .i64 0, .int .i64 0, .int .i64 0, .int .i64 0, .slice none 0 0, .bool false, .bool false, .bool false] 28 (0, 0)) → bm ≠ ga → w7.heap.size ≤ gf → y.heap[gf]? = some (.cells #[.bool false, .bool false, .int .i64 0] 30 (0, 0)) → bm ≠ gf → ga ≠ gf → wpAnyH Try.prog .any o0 q0 (fun w' => w'.cell? ⟨gS + 1, k, none⟩ = some (.int .i64 (Kk : Int)) ∧ w'.cell? ⟨gS, k, none⟩ = some (.int .i64 (Nk : Int))) 8 #[true, true, true, true, true, true, true, true, true, true, true, true, false, false, false, false, false, false, true, true, false, false] ({ tmps := ((((a0.tmps.setIfInBounds 122 (.slice (some ⟨bm, 0, none⟩) N1 N1)).setIfInBounds 123 (.slice (some ⟨bl, 0, none⟩) 1 1)).setIfInBounds 13 (.pointer (some ⟨ga, 0, none⟩))).setIfInBounds 14 (.pointer (some ⟨gf, 0, none⟩))), defers := [] } : Act) y) := Lib.hid (by
         intro y bm bl ga gf hb bm_0 hm hl ga_0 ha ne_a gf_0 hf ne_b ne_ab
         rw [ho, hA0]
         simp only [List.setIfInBounds_toArray, List.set_cons_zero, List.set_cons_succ]
         have hq := HKC.out y hb
         refine wpAnyH_ready (rs := [12]) (by kernel_rfl) (by simp) ?_
         refine AllReadyH.cons rfl (fun K hK => ?_) ?_
         · have hat : At .u8 y (bl + 1) (some ⟨bl, 0, none⟩) [1] := at_one hl
           refine step_appA rfl (.tmp 122) (.tmp 123) rfl bm _ N1 (List.replicate N1 0) rfl hm (some ⟨bl, 0, none⟩) [1] 1 1 rfl rfl (fun h => by cases h) _ hat (by have := HN1.out; simp; omega) (Nat.le_of_lt (hm.lt bm rfl).2) ?_
           intro z y' hv hg
           obtain ⟨Az, cz, rfl, hz'⟩ := own_one (n := N1) hv rfl
           clear hv
           have hk : Keeps (fun x => x = bm) y y' := ⟨hg.os, hg.tape, hg.output, hg.size, fun k hk hn => hg.block k hk (fun e => hn (Option.some.inj e))⟩
           have hb' := hb.trans (hk.below (fun k e => by omega) hb.size)
           have ha' := (hk.block ga (lt_of_heapK ha) (fun e => ne_a e.symm)).trans ha
           have hf' := (hk.block gf (lt_of_heapK hf) (fun e => ne_b e.symm)).trans hf
           refine hK.out _ _ (HKC.out _ hb') (fun hq => ?_)
           clear hK K
           refine wpAnyH_take (i := 13) (v := ?_) rfl (by kernel_rfl) (by kernel_rfl) (by kernel_rfl) (fun _ _ _ h => HQP.out _ _ _ _ _ h) (Or.inl ⟨by rfl, ?_⟩) hq ?_
           rotate_left
           · intro w hs
             try dsimp only at hs
             go_simp
             try with_reducible rfl
           change wpAnyH _ _ _ _ _ _ _ (Act.put _ (some 125) _) _
           simp only [Act.put, List.setIfInBounds_toArray]
           exact held_as ho (by kernel_rfl) (by rw [hA0]; kernel_rfl) (KMLZab.out y' bm bl Az cz ga gf hb' hz' ga_0 ha' gf_0 hf' ne_ab)
         exact AllReadyH.nil)
       have KMLa : Hid (∀ (y : World) (bm : Nat) (bl : Nat) (ga : Nat), Below w7.heap.size w7 y → w7.heap.size ≤ bm → y.ownsRow bm 5 1 (.slice (some ⟨bm, 0, none⟩) N1 N1) N1 (cn .u8 (List.replicate N1 0)) → y.heap[bl]? = some (.cells #[.int .u8 1] 5 (0, 0)) → w7.heap.size ≤ ga → y.heap[ga]? = some (.cells #[.slice none 0 0, .int .i64 0, .int .i64 0, .int .i64 0, .int .i64 0, .slice none 0 0, .bool false, .bool false, .bool false] 28 (0, 0)) → bm ≠ ga → wpAnyH Try.prog .any o0 q0 (fun w' => w'.cell? ⟨gS + 1, k, none⟩ = some (.int .i64 (Kk : Int)) ∧ w'.cell? ⟨gS, k, none⟩ = some (.int .i64 (Nk : Int))) 9 #[true, true, true, true, true, true, true, true, true, true, true, true, false, false, false, false, false, false, true, false, false, false] ({ tmps := (((a0.tmps.setIfInBounds 122 (.slice (some ⟨bm, 0, none⟩) N1 N1)).setIfInBounds 123 (.slice (some ⟨bl, 0, none⟩) 1 1)).setIfInBounds 13 (.pointer (some ⟨ga, 0, none⟩))), defers := [] } : Act) y) := Lib.hid (by
         intro y bm bl ga hb bm_0 hm hl ga_0 ha ne_a
         rw [ho, hA0]
         simp only [List.setIfInBounds_toArray, List.set_cons_zero, List.set_cons_succ]
         have hq := HKC.out y hb
         refine wpAnyH_ready (rs := [12, 19]) (by kernel_rfl) (by simp) ?_
         refine AllReadyH.cons rfl (fun K hK => ?_) ?_
         · have hat : At .u8 y (bl + 1) (some ⟨bl, 0, none⟩) [1] := at_one hl
           refine step_appA rfl (.tmp 122) (.tmp 123) rfl bm _ N1 (List.replicate N1 0) rfl hm (some ⟨bl, 0, none⟩) [1] 1 1 rfl rfl (fun h => by cases h) _ hat (by have := HN1.out; simp; omega) (Nat.le_of_lt (hm.lt bm rfl).2) ?_
           intro z y' hv hg
           obtain ⟨Az, cz, rfl, hz'⟩ := own_one (n := N1) hv rfl
           clear hv
           have hk : Keeps (fun x => x = bm) y y' := ⟨hg.os, hg.tape, hg.output, hg.size, fun k hk hn => hg.block k hk (fun e => hn (Option.some.inj e))⟩
           have hb' := hb.trans (hk.below (fun k e => by omega) hb.size)
           have ha' := (hk.block ga (lt_of_heapK ha) (fun e => ne_a e.symm)).trans ha
           refine hK.out _ _ (HKC.out _ hb') (fun hq => ?_)
           clear hK K
           refine wpAnyH_take (i := 13) (v := ?_) rfl (by kernel_rfl) (by kernel_rfl) (by kernel_rfl) (fun _ _ _ h => HQP.out _ _ _ _ _ h) (Or.inl ⟨by rfl, ?_⟩) hq ?_
           rotate_left
           · intro w hs
             try dsimp only at hs
             go_simp
             try with_reducible rfl
           change wpAnyH _ _ _ _ _ _ _ (Act.put _ (some 125) _) _
           simp only [Act.put, List.setIfInBounds_toArray]
           exact held_as ho (by kernel_rfl) (by rw [hA0]; kernel_rfl) (KMLZa.out y' bm bl Az cz ga hb' hz' ga_0 ha')
         refine AllReadyH.cons rfl (fun K hK => ?_) ?_
         · refine step_b rfl rfl (fun gf y' hgf hx hf' => ?_)
           have gf_0 : w7.heap.size ≤ gf := by have := hb.size; omega
           have ne_b : bm ≠ gf := by have := (hm.lt bm rfl).2; omega
           have ne_ab : ga ≠ gf := by have := lt_of_heapK ha; omega
           have hb' := hb.trans (hx.mono hb.size)
           have hm' := own_keep hm hx
           have hl' := (hx.block bl (lt_of_heapK hl)).trans hl
           have ha' := (hx.block ga (lt_of_heapK ha)).trans ha
           refine hK.out _ _ (HKC.out _ hb') (fun hq => ?_)
           clear hK K
           exact held_as ho (by kernel_rfl) (by rw [hA0]; kernel_rfl) (KMLab.out y' bm bl ga gf hb' bm_0 hm' hl' ga_0 ha' ne_a gf_0 hf' ne_b ne_ab)
         exact AllReadyH.nil)
       have KMLb : Hid (∀ (y : World) (bm : Nat) (bl : Nat) (gf : Nat), Below w7.heap.size w7 y → w7.heap.size ≤ bm → y.ownsRow bm 5 1 (.slice (some ⟨bm, 0, none⟩) N1 N1) N1 (cn .u8 (List.replicate N1 0)) → y.heap[bl]? = some (.cells #[.int .u8 1] 5 (0, 0)) → w7.heap.size ≤ gf → y.heap[gf]? = some (.cells #[.bool false, .bool false, .int .i64 0] 30 (0, 0)) → bm ≠ gf → wpAnyH Try.prog .any o0 q0 (fun w' => w'.cell? ⟨gS + 1, k, none⟩ = some (.int .i64 (Kk : Int)) ∧ w'.cell? ⟨gS, k, none⟩ = some (.int .i64 (Nk : Int))) 9 #[true, true, true, true, true, true, true, true, true, true, true, true, false, false, false, false, false, false, false, true, false, false] ({ tmps := (((a0.tmps.setIfInBounds 122 (.slice (some ⟨bm, 0, none⟩) N1 N1)).setIfInBounds 123 (.slice (some ⟨bl, 0, none⟩) 1 1)).setIfInBounds 14 (.pointer (some ⟨gf, 0, none⟩))), defers := [] } : Act) y) := Lib.hid (by
         intro y bm bl gf hb bm_0 hm hl gf_0 hf ne_b
         rw [ho, hA0]
         simp only [List.setIfInBounds_toArray, List.set_cons_zero, List.set_cons_succ]
         have hq := HKC.out y hb
         refine wpAnyH_ready (rs := [12, 18]) (by kernel_rfl) (by simp) ?_
         refine AllReadyH.cons rfl (fun K hK => ?_) ?_
         · have hat : At .u8 y (bl + 1) (some ⟨bl, 0, none⟩) [1] := at_one hl
           refine step_appA rfl (.tmp 122) (.tmp 123) rfl bm _ N1 (List.replicate N1 0) rfl hm (some ⟨bl, 0, none⟩) [1] 1 1 rfl rfl (fun h => by cases h) _ hat (by have := HN1.out; simp; omega) (Nat.le_of_lt (hm.lt bm rfl).2) ?_
           intro z y' hv hg
           obtain ⟨Az, cz, rfl, hz'⟩ := own_one (n := N1) hv rfl
           clear hv
           have hk : Keeps (fun x => x = bm) y y' := ⟨hg.os, hg.tape, hg.output, hg.size, fun k hk hn => hg.block k hk (fun e => hn (Option.some.inj e))⟩
           have hb' := hb.trans (hk.below (fun k e => by omega) hb.size)
           have hf' := (hk.block gf (lt_of_heapK hf) (fun e => ne_b e.symm)).trans hf
           refine hK.out _ _ (HKC.out _ hb') (fun hq => ?_)
           clear hK K
           refine wpAnyH_take (i := 13) (v := ?_) rfl (by kernel_rfl) (by kernel_rfl) (by kernel_rfl) (fun _ _ _ h => HQP.out _ _ _ _ _ h) (Or.inl ⟨by rfl, ?_⟩) hq ?_
           rotate_left
           · intro w hs
             try dsimp only at hs
             go_simp
             try with_reducible rfl
           change wpAnyH _ _ _ _ _ _ _ (Act.put _ (some 125) _) _
           simp only [Act.put, List.setIfInBounds_toArray]
           exact held_as ho (by kernel_rfl) (by rw [hA0]; kernel_rfl) (KMLZb.out y' bm bl Az cz gf hb' hz' gf_0 hf')
         refine AllReadyH.cons rfl (fun K hK => ?_) ?_
         · refine step_a rfl rfl (fun ga y' hga hx ha' => ?_)
           have ga_0 : w7.heap.size ≤ ga := by have := hb.size; omega
           have ne_a : bm ≠ ga := by have := (hm.lt bm rfl).2; omega
           have ne_ab : ga ≠ gf := by have := lt_of_heapK hf; omega
           have hb' := hb.trans (hx.mono hb.size)
           have hm' := own_keep hm hx
           have hl' := (hx.block bl (lt_of_heapK hl)).trans hl
           have hf' := (hx.block gf (lt_of_heapK hf)).trans hf
           refine hK.out _ _ (HKC.out _ hb') (fun hq => ?_)
           clear hK K
           exact held_as ho (by kernel_rfl) (by rw [hA0]; kernel_rfl) (KMLab.out y' bm bl ga gf hb' bm_0 hm' hl' ga_0 ha' ne_a gf_0 hf' ne_b ne_ab)
         exact AllReadyH.nil)
       have KML : Hid (∀ (y : World) (bm : Nat) (bl : Nat), Below w7.heap.size w7 y → w7.heap.size ≤ bm → y.ownsRow bm 5 1 (.slice (some ⟨bm, 0, none⟩) N1 N1) N1 (cn .u8 (List.replicate N1 0)) → y.heap[bl]? = some (.cells #[.int .u8 1] 5 (0, 0)) → wpAnyH Try.prog .any o0 q0 (fun w' => w'.cell? ⟨gS + 1, k, none⟩ = some (.int .i64 (Kk : Int)) ∧ w'.cell? ⟨gS, k, none⟩ = some (.int .i64 (Nk : Int))) 10 #[true, true, true, true, true, true, true, true, true, true, true, true, false, false, false, false, false, false, false, false, false, false] ({ tmps := ((a0.tmps.setIfInBounds 122 (.slice (some ⟨bm, 0, none⟩) N1 N1)).setIfInBounds 123 (.slice (some ⟨bl, 0, none⟩) 1 1)), defers := [] } : Act) y) := Lib.hid (by
         intro y bm bl hb bm_0 hm hl
         rw [ho, hA0]
         simp only [List.setIfInBounds_toArray, List.set_cons_zero, List.set_cons_succ]
         have hq := HKC.out y hb
         refine wpAnyH_ready (rs := [12, 18, 19]) (by kernel_rfl) (by simp) ?_
         refine AllReadyH.cons rfl (fun K hK => ?_) ?_
         · have hat : At .u8 y (bl + 1) (some ⟨bl, 0, none⟩) [1] := at_one hl
           refine step_appA rfl (.tmp 122) (.tmp 123) rfl bm _ N1 (List.replicate N1 0) rfl hm (some ⟨bl, 0, none⟩) [1] 1 1 rfl rfl (fun h => by cases h) _ hat (by have := HN1.out; simp; omega) (Nat.le_of_lt (hm.lt bm rfl).2) ?_
           intro z y' hv hg
           obtain ⟨Az, cz, rfl, hz'⟩ := own_one (n := N1) hv rfl
           clear hv
           have hk : Keeps (fun x => x = bm) y y' := ⟨hg.os, hg.tape, hg.output, hg.size, fun k hk hn => hg.block k hk (fun e => hn (Option.some.inj e))⟩
           have hb' := hb.trans (hk.below (fun k e => by omega) hb.size)
           refine hK.out _ _ (HKC.out _ hb') (fun hq => ?_)
           clear hK K
           refine wpAnyH_take (i := 13) (v := ?_) rfl (by kernel_rfl) (by kernel_rfl) (by kernel_rfl) (fun _ _ _ h => HQP.out _ _ _ _ _ h) (Or.inl ⟨by rfl, ?_⟩) hq ?_
           rotate_left
           · intro w hs
             try dsimp only at hs
             go_simp
             try with_reducible rfl
           change wpAnyH _ _ _ _ _ _ _ (Act.put _ (some 125) _) _
           simp only [Act.put, List.setIfInBounds_toArray]
           exact held_as ho (by kernel_rfl) (by rw [hA0]; kernel_rfl) (KMLZ.out y' bm bl Az cz hb' hz')
         refine AllReadyH.cons rfl (fun K hK => ?_) ?_
         · refine step_a rfl rfl (fun ga y' hga hx ha' => ?_)
           have ga_0 : w7.heap.size ≤ ga := by have := hb.size; omega
           have ne_a : bm ≠ ga := by have := (hm.lt bm rfl).2; omega
           have hb' := hb.trans (hx.mono hb.size)
           have hm' := own_keep hm hx
           have hl' := (hx.block bl (lt_of_heapK hl)).trans hl
           refine hK.out _ _ (HKC.out _ hb') (fun hq => ?_)
           clear hK K
           exact held_as ho (by kernel_rfl) (by rw [hA0]; kernel_rfl) (KMLa.out y' bm bl ga hb' bm_0 hm' hl' ga_0 ha' ne_a)
         refine AllReadyH.cons rfl (fun K hK => ?_) ?_
         · refine step_b rfl rfl (fun gf y' hgf hx hf' => ?_)
           have gf_0 : w7.heap.size ≤ gf := by have := hb.size; omega
           have ne_b : bm ≠ gf := by have := (hm.lt bm rfl).2; omega
           have hb' := hb.trans (hx.mono hb.size)
           have hm' := own_keep hm hx
           have hl' := (hx.block bl (lt_of_heapK hl)).trans hl
           refine hK.out _ _ (HKC.out _ hb') (fun hq => ?_)
           clear hK K
           exact held_as ho (by kernel_rfl) (by rw [hA0]; kernel_rfl) (KMLb.out y' bm bl gf hb' bm_0 hm' hl' gf_0 hf' ne_b)
         exact AllReadyH.nil)
       have KMab : Hid (∀ (y : World) (bm : Nat) (ga : Nat) (gf : Nat), Below w7.heap.size w7 y → w7.heap.size ≤ bm → y.ownsRow bm 5 1 (.slice (some ⟨bm, 0, none⟩) N1 N1) N1 (cn .u8 (List.replicate N1 0)) → w7.heap.size ≤ ga → y.heap[ga]? = some (.cells #[.slice none 0 0, .int .i64 0, .int .i64 0, .int .i64 0, .int .i64 0, .slice none 0 0, .bool false, .bool false, .bool false] 28 (0, 0)) → bm ≠ ga → w7.heap.size ≤ gf → y.heap[gf]? = some (.cells #[.bool false, .bool false, .int .i64 0] 30 (0, 0)) → bm ≠ gf → ga ≠ gf → wpAnyH Try.prog .any o0 q0 (fun w' => w'.cell? ⟨gS + 1, k, none⟩ = some (.int .i64 (Kk : Int)) ∧ w'.cell? ⟨gS, k, none⟩ = some (.int .i64 (Nk : Int))) 9 #[true, true, true, true, true, true, true, true, true, true, true, false, false, false, false, false, false, false, true, true, false, false] ({ tmps := (((a0.tmps.setIfInBounds 122 (.slice (some ⟨bm, 0, none⟩) N1 N1)).setIfInBounds 13 (.pointer (some ⟨ga, 0, none⟩))).setIfInBounds 14 (.pointer (some ⟨gf, 0, none⟩))), defers := [] } : Act) y) := Lib.hid (by
         intro y bm ga gf hb bm_0 hm ga_0 ha ne_a gf_0 hf ne_b ne_ab
         rw [ho, hA0]
         simp only [List.setIfInBounds_toArray, List.set_cons_zero, List.set_cons_succ]
         have hq := HKC.out y hb
         refine wpAnyH_ready (rs := [11]) (by kernel_rfl) (by simp) ?_
         refine AllReadyH.cons rfl (fun K hK => ?_) ?_
         · refine step_l rfl rfl (fun bl y' hbl hx hl' => ?_)
           have hb' := hb.trans (hx.mono hb.size)
           have hm' := own_keep hm hx
           have ha' := (hx.block ga (lt_of_heapK ha)).trans ha
           have hf' := (hx.block gf (lt_of_heapK hf)).trans hf
           refine hK.out _ _ (HKC.out _ hb') (fun hq => ?_)
           clear hK K
           exact held_as ho (by kernel_rfl) (by rw [hA0]; kernel_rfl) (KMLab.out y' bm bl ga gf hb' bm_0 hm' hl' ga_0 ha' ne_a gf_0 hf' ne_b ne_ab)
         exact AllReadyH.nil)
       have KMa : Hid (∀ (y : World) (bm : Nat) (ga : Nat), Below w7.heap.size w7 y → w7.heap.size ≤ bm → y.ownsRow bm 5 1 (.slice (some ⟨bm, 0, none⟩) N1 N1) N1 (cn .u8 (List.replicate N1 0)) → w7.heap.size ≤ ga → y.heap[ga]? = some (.cells #[.slice none 0 0, .int .i64 0, .int .i64 0, .int .i64 0, .int .i64 0, .slice none 0 0, .bool false, .bool false, .bool false] 28 (0, 0)) → bm ≠ ga → wpAnyH Try.prog .any o0 q0 (fun w' => w'.cell? ⟨gS + 1, k, none⟩ = some (.int .i64 (Kk : Int)) ∧ w'.cell? ⟨gS, k, none⟩ = some (.int .i64 (Nk : Int))) 10 #[true, true, true, true, true, true, true, true, true, true, true, false, false, false, false, false, false, false, true, false, false, false] ({ tmps := ((a0.tmps.setIfInBounds 122 (.slice (some ⟨bm, 0, none⟩) N1 N1)).setIfInBounds 13 (.pointer (some ⟨ga, 0, none⟩))), defers := [] } : Act) y) := Lib.hid (by
         intro y bm ga hb bm_0 hm ga_0 ha ne_a
         rw [ho, hA0]
         simp only [List.setIfInBounds_toArray, List.set_cons_zero, List.set_cons_succ]
         have hq := HKC.out y hb
         refine wpAnyH_ready (rs := [11, 19]) (by kernel_rfl) (by simp) ?_
         refine AllReadyH.cons rfl (fun K hK => ?_) ?_
         · refine step_l rfl rfl (fun bl y' hbl hx hl' => ?_)
           have hb' := hb.trans (hx.mono hb.size)
           have hm' := own_keep hm hx
           have ha' := (hx.block ga (lt_of_heapK ha)).trans ha
           refine hK.out _ _ (HKC.out _ hb') (fun hq => ?_)
           clear hK K
           exact held_as ho (by kernel_rfl) (by rw [hA0]; kernel_rfl) (KMLa.out y' bm bl ga hb' bm_0 hm' hl' ga_0 ha' ne_a)
         refine AllReadyH.cons rfl (fun K hK => ?_) ?_
         · refine step_b rfl rfl (fun gf y' hgf hx hf' => ?_)
           have gf_0 : w7.heap.size ≤ gf := by have := hb.size; omega
           have ne_b : bm ≠ gf := by have := (hm.lt bm rfl).2; omega
           have ne_ab : ga ≠ gf := by have := lt_of_heapK ha; omega
           have hb' := hb.trans (hx.mono hb.size)
           have hm' := own_keep hm hx
           have ha' := (hx.block ga (lt_of_heapK ha)).trans ha
           refine hK.out _ _ (HKC.out _ hb') (fun hq => ?_)
           clear hK K
           exact held_as ho (by kernel_rfl) (by rw [hA0]; kernel_rfl) (KMab.out y' bm ga gf hb' bm_0 hm' ga_0 ha' ne_a gf_0 hf' ne_b ne_ab)
         exact AllReadyH.nil)
       have KMb : Hid (∀ (y : World) (bm : Nat) (gf : Nat), Below w7.heap.size w7 y → w7.heap.size ≤ bm → y.ownsRow bm 5 1 (.slice (some ⟨bm, 0, none⟩) N1 N1) N1 (cn .u8 (List.replicate N1 0)) → w7.heap.size ≤ gf → y.heap[gf]? = some (.cells #[.bool false, .bool false, .int .i64 0] 30 (0, 0)) → bm ≠ gf → wpAnyH Try.prog .any o0 q0 (fun w' => w'.cell? ⟨gS + 1, k, none⟩ = some (.int .i64 (Kk : Int)) ∧ w'.cell? ⟨gS, k, none⟩ = some (.int .i64 (Nk : Int))) 10 #[true, true, true, true, true, true, true, true, true, true, true, false, false, false, false, false, false, false, false, true, false, false] ({ tmps := ((a0.tmps.setIfInBounds 122 (.slice (some ⟨bm, 0, none⟩) N1 N1)).setIfInBounds 14 (.pointer (some ⟨gf, 0, none⟩))), defers := [] } : Act) y) := Lib.hid (by
         intro y bm gf hb bm_0 hm gf_0 hf ne_b
         rw [ho, hA0]
         simp only [List.setIfInBounds_toArray, List.set_cons_zero, List.set_cons_succ]
         have hq := HKC.out y hb
         refine wpAnyH_ready (rs := [11, 18]) (by kernel_rfl) (by simp) ?_
         refine AllReadyH.cons rfl (fun K hK => ?_) ?_
         · refine step_l rfl rfl (fun bl y' hbl hx hl' => ?_)
           have hb' := hb.trans (hx.mono hb.size)
           have hm' := own_keep hm hx
           have hf' := (hx.block gf (lt_of_heapK hf)).trans hf
           refine hK.out _ _ (HKC.out _ hb') (fun hq => ?_)
           clear hK K
           exact held_as ho (by kernel_rfl) (by rw [hA0]; kernel_rfl) (KMLb.out y' bm bl gf hb' bm_0 hm' hl' gf_0 hf' ne_b)
         refine AllReadyH.cons rfl (fun K hK => ?_) ?_
         · refine step_a rfl rfl (fun ga y' hga hx ha' => ?_)
           have ga_0 : w7.heap.size ≤ ga := by have := hb.size; omega
           have ne_a : bm ≠ ga := by have := (hm.lt bm rfl).2; omega
           have ne_ab : ga ≠ gf := by have := lt_of_heapK hf; omega
           have hb' := hb.trans (hx.mono hb.size)
           have hm' := own_keep hm hx
           have hf' := (hx.block gf (lt_of_heapK hf)).trans hf
           refine hK.out _ _ (HKC.out _ hb') (fun hq => ?_)
           clear hK K
           exact held_as ho (by kernel_rfl) (by rw [hA0]; kernel_rfl) (KMab.out y' bm ga gf hb' bm_0 hm' ga_0 ha' ne_a gf_0 hf' ne_b ne_ab)
         exact AllReadyH.nil)
       have KM : Hid (∀ (y : World) (bm : Nat), Below w7.heap.size w7 y → w7.heap.size ≤ bm → y.ownsRow bm 5 1 (.slice (some ⟨bm, 0, none⟩) N1 N1) N1 (cn .u8 (List.replicate N1 0)) → wpAnyH Try.prog .any o0 q0 (fun w' => w'.cell? ⟨gS + 1, k, none⟩ = some (.int .i64 (Kk : Int)) ∧ w'.cell? ⟨gS, k, none⟩ = some (.int .i64 (Nk : Int))) 11 #[true, true, true, true, true, true, true, true, true, true, true, false, false, false, false, false, false, false, false, false, false, false] ({ tmps := (a0.tmps.setIfInBounds 122 (.slice (some ⟨bm, 0, none⟩) N1 N1)), defers := [] } : Act) y) := Lib.hid (by
         intro y bm hb bm_0 hm
         rw [ho, hA0]
         simp only [List.setIfInBounds_toArray, List.set_cons_zero, List.set_cons_succ]
         have hq := HKC.out y hb
         refine wpAnyH_ready (rs := [11, 18, 19]) (by kernel_rfl) (by simp) ?_
         refine AllReadyH.cons rfl (fun K hK => ?_) ?_
         · refine step_l rfl rfl (fun bl y' hbl hx hl' => ?_)
           have hb' := hb.trans (hx.mono hb.size)
           have hm' := own_keep hm hx
           refine hK.out _ _ (HKC.out _ hb') (fun hq => ?_)
           clear hK K
           exact held_as ho (by kernel_rfl) (by rw [hA0]; kernel_rfl) (KML.out y' bm bl hb' bm_0 hm' hl')
         refine AllReadyH.cons rfl (fun K hK => ?_) ?_
         · refine step_a rfl rfl (fun ga y' hga hx ha' => ?_)
           have ga_0 : w7.heap.size ≤ ga := by have := hb.size; omega
           have ne_a : bm ≠ ga := by have := (hm.lt bm rfl).2; omega
           have hb' := hb.trans (hx.mono hb.size)
           have hm' := own_keep hm hx
           refine hK.out _ _ (HKC.out _ hb') (fun hq => ?_)
           clear hK K
           exact held_as ho (by kernel_rfl) (by rw [hA0]; kernel_rfl) (KMa.out y' bm ga hb' bm_0 hm' ga_0 ha' ne_a)
         refine AllReadyH.cons rfl (fun K hK => ?_) ?_
         · refine step_b rfl rfl (fun gf y' hgf hx hf' => ?_)
           have gf_0 : w7.heap.size ≤ gf := by have := hb.size; omega
           have ne_b : bm ≠ gf := by have := (hm.lt bm rfl).2; omega
           have hb' := hb.trans (hx.mono hb.size)
           have hm' := own_keep hm hx
           refine hK.out _ _ (HKC.out _ hb') (fun hq => ?_)
           clear hK K
           exact held_as ho (by kernel_rfl) (by rw [hA0]; kernel_rfl) (KMb.out y' bm gf hb' bm_0 hm' gf_0 hf' ne_b)
         exact AllReadyH.nil)
       have KLab : Hid (∀ (y : World) (bl : Nat) (ga : Nat) (gf : Nat), Below w7.heap.size w7 y → y.heap[bl]? = some (.cells #[.int .u8 1] 5 (0, 0)) → w7.heap.size ≤ ga → y.heap[ga]? = some (.cells #[.slice none 0 0, .int .i64 0, .int .i64 0, .int .i64 0, .int .i64 0, .slice none 0 0, .bool false, .bool false, .bool false] 28 (0, 0)) → w7.heap.size ≤ gf → y.heap[gf]? = some (.cells #[.bool false, .bool false, .int .i64 0] 30 (0, 0)) → ga ≠ gf → wpAnyH Try.prog .any o0 q0 (fun w' => w'.cell? ⟨gS + 1, k, none⟩ = some (.int .i64 (Kk : Int)) ∧ w'.cell? ⟨gS, k, none⟩ = some (.int .i64 (Nk : Int))) 9 #[true, true, true, true, true, true, true, true, true, true, false, true, false, false, false, false, false, false, true, true, false, false] ({ tmps := (((a0.tmps.setIfInBounds 123 (.slice (some ⟨bl, 0, none⟩) 1 1)).setIfInBounds 13 (.pointer (some ⟨ga, 0, none⟩))).setIfInBounds 14 (.pointer (some ⟨gf, 0, none⟩))), defers := [] } : Act) y) := Lib.hid (by
         intro y bl ga gf hb hl ga_0 ha gf_0 hf ne_ab
         rw [ho, hA0]
         simp only [List.setIfInBounds_toArray, List.set_cons_zero, List.set_cons_succ]
         have hq := HKC.out y hb
         refine wpAnyH_ready (rs := [10]) (by kernel_rfl) (by simp) ?_
         refine AllReadyH.cons rfl (fun K hK => ?_) ?_
         · refine step_m rfl (.tmp 121) (.tmp 121) rfl N1 rfl rfl HN1.out (fun bm y' hbm hx hm' => ?_)
           have bm_0 : w7.heap.size ≤ bm := by have := hb.size; omega
           have ne_a : bm ≠ ga := by have := lt_of_heapK ha; omega
           have ne_b : bm ≠ gf := by have := lt_of_heapK hf; omega
           have hb' := hb.trans (hx.mono hb.size)
           have hl' := (hx.block bl (lt_of_heapK hl)).trans hl
           have ha' := (hx.block ga (lt_of_heapK ha)).trans ha
           have hf' := (hx.block gf (lt_of_heapK hf)).trans hf
           refine hK.out _ _ (HKC.out _ hb') (fun hq => ?_)
           clear hK K
           exact held_as ho (by kernel_rfl) (by rw [hA0]; kernel_rfl) (KMLab.out y' bm bl ga gf hb' bm_0 hm' hl' ga_0 ha' ne_a gf_0 hf' ne_b ne_ab)
         exact AllReadyH.nil)
       have KLa : Hid (∀ (y : World) (bl : Nat) (ga : Nat), Below w7.heap.size w7 y → y.heap[bl]? = some (.cells #[.int .u8 1] 5 (0, 0)) → w7.heap.size ≤ ga → y.heap[ga]? = some (.cells #[.slice none 0 0, .int .i64 0, .int .i64 0, .int .i64 0, .int .i64 0, .slice none 0 0, .bool false, .bool false, .bool false] 28 (0, 0)) → wpAnyH Try.prog .any o0 q0 (fun w' => w'.cell? ⟨gS + 1, k, none⟩ = some (.int .i64 (Kk : Int)) ∧ w'.cell? ⟨gS, k, none⟩ = some (.int .i64 (Nk : Int))) 10 #[true, true, true, true, true, true, true, true, true, true, false, true, false, false, false, false, false, false, true, false, false, false] ({ tmps := ((a0.tmps.setIfInBounds 123 (.slice (some ⟨bl, 0, none⟩) 1 1)).setIfInBounds 13 (.pointer (some ⟨ga, 0, none⟩))), defers := [] } : Act) y) := Lib.hid (by
         intro y bl ga hb hl ga_0 ha
         rw [ho, hA0]
         simp only [List.setIfInBounds_toArray, List.set_cons_zero, List.set_cons_succ]
         have hq := HKC.out y hb
         refine wpAnyH_ready (rs := [10, 19]) (by kernel_rfl) (by simp) ?_
         refine AllReadyH.cons rfl (fun K hK => ?_) ?_
         · refine step_m rfl (.tmp 121) (.tmp 121) rfl N1 rfl rfl HN1.out (fun bm y' hbm hx hm' => ?_)
           have bm_0 : w7.heap.size ≤ bm := by have := hb.size; omega
           have ne_a : bm ≠ ga := by have := lt_of_heapK ha; omega
           have hb' := hb.trans (hx.mono hb.size)
           have hl' := (hx.block bl (lt_of_heapK hl)).trans hl
           have ha' := (hx.block ga (lt_of_heapK ha)).trans ha
           refine hK.out _ _ (HKC.out _ hb') (fun hq => ?_)
           clear hK K
           exact held_as ho (by kernel_rfl) (by rw [hA0]; kernel_rfl) (KMLa.out y' bm bl ga hb' bm_0 hm' hl' ga_0 ha' ne_a)
         refine AllReadyH.cons rfl (fun K hK => ?_) ?_
         · refine step_b rfl rfl (fun gf y' hgf hx hf' => ?_)
           have gf_0 : w7.heap.size ≤ gf := by have := hb.size; omega
           have ne_ab : ga ≠ gf := by have := lt_of_heapK ha; omega
           have hb' := hb.trans (hx.mono hb.size)
           have hl' := (hx.block bl (lt_of_heapK hl)).trans hl
           have ha' := (hx.block ga (lt_of_heapK ha)).trans ha
           refine hK.out _ _ (HKC.out _ hb') (fun hq => ?_)
           clear hK K
           exact held_as ho (by kernel_rfl) (by rw [hA0]; kernel_rfl) (KLab.out y' bl ga gf hb' hl' ga_0 ha' gf_0 hf' ne_ab)
         exact AllReadyH.nil)
       have KLb : Hid (∀ (y : World) (bl : Nat) (gf : Nat), Below w7.heap.size w7 y → y.heap[bl]? = some (.cells #[.int .u8 1] 5 (0, 0)) → w7.heap.size ≤ gf → y.heap[gf]? = some (.cells #[.bool false, .bool false, .int .i64 0] 30 (0, 0)) → wpAnyH Try.prog .any o0 q0 (fun w' => w'.cell? ⟨gS + 1, k, none⟩ = some (.int .i64 (Kk : Int)) ∧ w'.cell? ⟨gS, k, none⟩ = some (.int .i64 (Nk : Int))) 10 #[true, true, true, true, true, true, true, true, true, true, false, true, false, false, false, false, false, false, false, true, false, false] ({ tmps := ((a0.tmps.setIfInBounds 123 (.slice (some ⟨bl, 0, none⟩) 1 1)).setIfInBounds 14 (.pointer (some ⟨gf, 0, none⟩))), defers := [] } : Act) y) := Lib.hid (by
         intro y bl gf hb hl gf_0 hf
         rw [ho, hA0]
         simp only [List.setIfInBounds_toArray, List.set_cons_zero, List.set_cons_succ]
         have hq := HKC.out y hb
         refine wpAnyH_ready (rs := [10, 18]) (by kernel_rfl) (by simp) ?_
         refine AllReadyH.cons rfl (fun K hK => ?_) ?_
         · refine step_m rfl (.tmp 121) (.tmp 121) rfl N1 rfl rfl HN1.out (fun bm y' hbm hx hm' => ?_)
           have bm_0 : w7.heap.size ≤ bm := by have := hb.size; omega
           have ne_b : bm ≠ gf := by have := lt_of_heapK hf; omega
           have hb' := hb.trans (hx.mono hb.size)
           have hl' := (hx.block bl (lt_of_heapK hl)).trans hl
           have hf' := (hx.block gf (lt_of_heapK hf)).trans hf
           refine hK.out _ _ (HKC.out _ hb') (fun hq => ?_)
           clear hK K
           exact held_as ho (by kernel_rfl) (by rw [hA0]; kernel_rfl) (KMLb.out y' bm bl gf hb' bm_0 hm' hl' gf_0 hf' ne_b)
         refine AllReadyH.cons rfl (fun K hK => ?_) ?_
         · refine step_a rfl rfl (fun ga y' hga hx ha' => ?_)
           have ga_0 : w7.heap.size ≤ ga := by have := hb.size; omega
           have ne_ab : ga ≠ gf := by have := lt_of_heapK hf; omega
           have hb' := hb.trans (hx.mono hb.size)
           have hl' := (hx.block bl (lt_of_heapK hl)).trans hl
           have hf' := (hx.block gf (lt_of_heapK hf)).trans hf
           refine hK.out _ _ (HKC.out _ hb') (fun hq => ?_)
           clear hK K
           exact held_as ho (by kernel_rfl) (by rw [hA0]; kernel_rfl) (KLab.out y' bl ga gf hb' hl' ga_0 ha' gf_0 hf' ne_ab)
         exact AllReadyH.nil)
       have KL : Hid (∀ (y : World) (bl : Nat), Below w7.heap.size w7 y → y.heap[bl]? = some (.cells #[.int .u8 1] 5 (0, 0)) → wpAnyH Try.prog .any o0 q0 (fun w' => w'.cell? ⟨gS + 1, k, none⟩ = some (.int .i64 (Kk : Int)) ∧ w'.cell? ⟨gS, k, none⟩ = some (.int .i64 (Nk : Int))) 11 #[true, true, true, true, true, true, true, true, true, true, false, true, false, false, false, false, false, false, false, false, false, false] ({ tmps := (a0.tmps.setIfInBounds 123 (.slice (some ⟨bl, 0, none⟩) 1 1)), defers := [] } : Act) y) := Lib.hid (by
         intro y bl hb hl
         rw [ho, hA0]
         simp only [List.setIfInBounds_toArray, List.set_cons_zero, List.set_cons_succ]
         have hq := HKC.out y hb
         refine wpAnyH_ready (rs := [10, 18, 19]) (by kernel_rfl) (by simp) ?_
         refine AllReadyH.cons rfl (fun K hK => ?_) ?_
         · refine step_m rfl (.tmp 121) (.tmp 121) rfl N1 rfl rfl HN1.out (fun bm y' hbm hx hm' => ?_)
           have bm_0 : w7.heap.size ≤ bm := by have := hb.size; omega
           have hb' := hb.trans (hx.mono hb.size)
           have hl' := (hx.block bl (lt_of_heapK hl)).trans hl
           refine hK.out _ _ (HKC.out _ hb') (fun hq => ?_)
           clear hK K
           exact held_as ho (by kernel_rfl) (by rw [hA0]; kernel_rfl) (KML.out y' bm bl hb' bm_0 hm' hl')
         refine AllReadyH.cons rfl (fun K hK => ?_) ?_
         · refine step_a rfl rfl (fun ga y' hga hx ha' => ?_)
           have ga_0 : w7.heap.size ≤ ga := by have := hb.size; omega
           have hb' := hb.trans (hx.mono hb.size)
           have hl' := (hx.block bl (lt_of_heapK hl)).trans hl
           refine hK.out _ _ (HKC.out _ hb') (fun hq => ?_)
           clear hK K
           exact held_as ho (by kernel_rfl) (by rw [hA0]; kernel_rfl) (KLa.out y' bl ga hb' hl' ga_0 ha')
         refine AllReadyH.cons rfl (fun K hK => ?_) ?_
         · refine step_b rfl rfl (fun gf y' hgf hx hf' => ?_)
           have gf_0 : w7.heap.size ≤ gf := by have := hb.size; omega
           have hb' := hb.trans (hx.mono hb.size)
           have hl' := (hx.block bl (lt_of_heapK hl)).trans hl
           refine hK.out _ _ (HKC.out _ hb') (fun hq => ?_)
           clear hK K
           exact held_as ho (by kernel_rfl) (by rw [hA0]; kernel_rfl) (KLb.out y' bl gf hb' hl' gf_0 hf')
         exact AllReadyH.nil)
       have Kab : Hid (∀ (y : World) (ga : Nat) (gf : Nat), Below w7.heap.size w7 y → w7.heap.size ≤ ga → y.heap[ga]? = some (.cells #[.slice none 0 0, .int .i64 0, .int .i64 0, .int .i64 0, .int .i64 0, .slice none 0 0, .bool false, .bool false, .bool false] 28 (0, 0)) → w7.heap.size ≤ gf → y.heap[gf]? = some (.cells #[.bool false, .bool false, .int .i64 0] 30 (0, 0)) → ga ≠ gf → wpAnyH Try.prog .any o0 q0 (fun w' => w'.cell? ⟨gS + 1, k, none⟩ = some (.int .i64 (Kk : Int)) ∧ w'.cell? ⟨gS, k, none⟩ = some (.int .i64 (Nk : Int))) 10 #[true, true, true, true, true, true, true, true, true, true, false, false, false, false, false, false, false, false, true, true, false, false] ({ tmps := ((a0.tmps.setIfInBounds 13 (.pointer (some ⟨ga, 0, none⟩))).setIfInBounds 14 (.pointer (some ⟨gf, 0, none⟩))), defers := [] } : Act) y) := Lib.hid (by
         intro y ga gf hb ga_0 ha gf_0 hf ne_ab
         rw [ho, hA0]
         simp only [List.setIfInBounds_toArray, List.set_cons_zero, List.set_cons_succ]
         have hq := HKC.out y hb
         refine wpAnyH_ready (rs := [10, 11]) (by kernel_rfl) (by simp) ?_
         refine AllReadyH.cons rfl (fun K hK => ?_) ?_
         · refine step_m rfl (.tmp 121) (.tmp 121) rfl N1 rfl rfl HN1.out (fun bm y' hbm hx hm' => ?_)
           have bm_0 : w7.heap.size ≤ bm := by have := hb.size; omega
           have ne_a : bm ≠ ga := by have := lt_of_heapK ha; omega
           have ne_b : bm ≠ gf := by have := lt_of_heapK hf; omega
           have hb' := hb.trans (hx.mono hb.size)
           have ha' := (hx.block ga (lt_of_heapK ha)).trans ha
           have hf' := (hx.block gf (lt_of_heapK hf)).trans hf
           refine hK.out _ _ (HKC.out _ hb') (fun hq => ?_)
           clear hK K
           exact held_as ho (by kernel_rfl) (by rw [hA0]; kernel_rfl) (KMab.out y' bm ga gf hb' bm_0 hm' ga_0 ha' ne_a gf_0 hf' ne_b ne_ab)
         refine AllReadyH.cons rfl (fun K hK => ?_) ?_
         · refine step_l rfl rfl (fun bl y' hbl hx hl' => ?_)
           have hb' := hb.trans (hx.mono hb.size)
           have ha' := (hx.block ga (lt_of_heapK ha)).trans ha
           have hf' := (hx.block gf (lt_of_heapK hf)).trans hf
           refine hK.out _ _ (HKC.out _ hb') (fun hq => ?_)
           clear hK K
           exact held_as ho (by kernel_rfl) (by rw [hA0]; kernel_rfl) (KLab.out y' bl ga gf hb' hl' ga_0 ha' gf_0 hf' ne_ab)
         exact AllReadyH.nil)
       have Ka : Hid (∀ (y : World) (ga : Nat), Below w7.heap.size w7 y → w7.heap.size ≤ ga → y.heap[ga]? = some (.cells #[.slice none 0 0, .int .i64 0, .int .i64 0, .int .i64 0, .int .i64 0, .slice none 0 0, .bool false, .bool false, .bool false] 28 (0, 0)) → wpAnyH Try.prog .any o0 q0 (fun w' => w'.cell? ⟨gS + 1, k, none⟩ = some (.int .i64 (Kk : Int)) ∧ w'.cell? ⟨gS, k, none⟩ = some (.int .i64 (Nk : Int))) 11 #[true, true, true, true, true, true, true, true, true, true, false, false, false, false, false, false, false, false, true, false, false, false] ({ tmps := (a0.tmps.setIfInBounds 13 (.pointer (some ⟨ga, 0, none⟩))), defers := [] } : Act) y) := Lib.hid (by
         intro y ga hb ga_0 ha
         rw [ho, hA0]
         simp only [List.setIfInBounds_toArray, List.set_cons_zero, List.set_cons_succ]
         have hq := HKC.out y hb
         refine wpAnyH_ready (rs := [10, 11, 19]) (by kernel_rfl) (by simp) ?_
         refine AllReadyH.cons rfl (fun K hK => ?_) ?_
         · refine step_m rfl (.tmp 121) (.tmp 121) rfl N1 rfl rfl HN1.out (fun bm y' hbm hx hm' => ?_)
           have bm_0 : w7.heap.size ≤ bm := by have := hb.size; omega
           have ne_a : bm ≠ ga := by have := lt_of_heapK ha; omega
           have hb' := hb.trans (hx.mono hb.size)
           have ha' := (hx.block ga (lt_of_heapK ha)).trans ha
           refine hK.out _ _ (HKC.out _ hb') (fun hq => ?_)
           clear hK K
           exact held_as ho (by kernel_rfl) (by rw [hA0]; kernel_rfl) (KMa.out y' bm ga hb' bm_0 hm' ga_0 ha' ne_a)
         refine AllReadyH.cons rfl (fun K hK => ?_) ?_
         · refine step_l rfl rfl (fun bl y' hbl hx hl' => ?_)
           have hb' := hb.trans (hx.mono hb.size)
           have ha' := (hx.block ga (lt_of_heapK ha)).trans ha
           refine hK.out _ _ (HKC.out _ hb') (fun hq => ?_)
           clear hK K
           exact held_as ho (by kernel_rfl) (by rw [hA0]; kernel_rfl) (KLa.out y' bl ga hb' hl' ga_0 ha')
         refine AllReadyH.cons rfl (fun K hK => ?_) ?_
         · refine step_b rfl rfl (fun gf y' hgf hx hf' => ?_)
           have gf_0 : w7.heap.size ≤ gf := by have := hb.size; omega
           have ne_ab : ga ≠ gf := by have := lt_of_heapK ha; omega
           have hb' := hb.trans (hx.mono hb.size)
           have ha' := (hx.block ga (lt_of_heapK ha)).trans ha
           refine hK.out _ _ (HKC.out _ hb') (fun hq => ?_)
           clear hK K
           exact held_as ho (by kernel_rfl) (by rw [hA0]; kernel_rfl) (Kab.out y' ga gf hb' ga_0 ha' gf_0 hf' ne_ab)
         exact AllReadyH.nil)
       have Kb : Hid (∀ (y : World) (gf : Nat), Below w7.heap.size w7 y → w7.heap.size ≤ gf → y.heap[gf]? = some (.cells #[.bool false, .bool false, .int .i64 0] 30 (0, 0)) → wpAnyH Try.prog .any o0 q0 (fun w' => w'.cell? ⟨gS + 1, k, none⟩ = some (.int .i64 (Kk : Int)) ∧ w'.cell? ⟨gS, k, none⟩ = some (.int .i64 (Nk : Int))) 11 #[true, true, true, true, true, true, true, true, true, true, false, false, false, false, false, false, false, false, false, true, false, false] ({ tmps := (a0.tmps.setIfInBounds 14 (.pointer (some ⟨gf, 0, none⟩))), defers := [] } : Act) y) := Lib.hid (by
         intro y gf hb gf_0 hf
         rw [ho, hA0]
         simp only [List.setIfInBounds_toArray, List.set_cons_zero, List.set_cons_succ]
         have hq := HKC.out y hb
         refine wpAnyH_ready (rs := [10, 11, 18]) (by kernel_rfl) (by simp) ?_
         refine AllReadyH.cons rfl (fun K hK => ?_) ?_
         · refine step_m rfl (.tmp 121) (.tmp 121) rfl N1 rfl rfl HN1.out (fun bm y' hbm hx hm' => ?_)
           have bm_0 : w7.heap.size ≤ bm := by have := hb.size; omega
           have ne_b : bm ≠ gf := by have := lt_of_heapK hf; omega
           have hb' := hb.trans (hx.mono hb.size)
           have hf' := (hx.block gf (lt_of_heapK hf)).trans hf
           refine hK.out _ _ (HKC.out _ hb') (fun hq => ?_)
           clear hK K
           exact held_as ho (by kernel_rfl) (by rw [hA0]; kernel_rfl) (KMb.out y' bm gf hb' bm_0 hm' gf_0 hf' ne_b)
         refine AllReadyH.cons rfl (fun K hK => ?_) ?_
         · refine step_l rfl rfl (fun bl y' hbl hx hl' => ?_)
           have hb' := hb.trans (hx.mono hb.size)
           have hf' := (hx.block gf (lt_of_heapK hf)).trans hf
           refine hK.out _ _ (HKC.out _ hb') (fun hq => ?_)
           clear hK K
           exact held_as ho (by kernel_rfl) (by rw [hA0]; kernel_rfl) (KLb.out y' bl gf hb' hl' gf_0 hf')
         refine AllReadyH.cons rfl (fun K hK => ?_) ?_
         · refine step_a rfl rfl (fun ga y' hga hx ha' => ?_)
           have ga_0 : w7.heap.size ≤ ga := by have := hb.size; omega
           have ne_ab : ga ≠ gf := by have := lt_of_heapK hf; omega
           have hb' := hb.trans (hx.mono hb.size)
           have hf' := (hx.block gf (lt_of_heapK hf)).trans hf
           refine hK.out _ _ (HKC.out _ hb') (fun hq => ?_)
           clear hK K
           exact held_as ho (by kernel_rfl) (by rw [hA0]; kernel_rfl) (Kab.out y' ga gf hb' ga_0 ha' gf_0 hf' ne_ab)
         exact AllReadyH.nil)
       have K : Hid (∀ (y : World), Below w7.heap.size w7 y → wpAnyH Try.prog .any o0 q0 (fun w' => w'.cell? ⟨gS + 1, k, none⟩ = some (.int .i64 (Kk : Int)) ∧ w'.cell? ⟨gS, k, none⟩ = some (.int .i64 (Nk : Int))) 12 #[true, true, true, true, true, true, true, true, true, true, false, false, false, false, false, false, false, false, false, false, false, false] (a0 : Act) y) := Lib.hid (by
         intro y  hb
         rw [ho, hA0]
         have hq := HKC.out y hb
         refine wpAnyH_ready (rs := [10, 11, 18, 19]) (by kernel_rfl) (by simp) ?_
         refine AllReadyH.cons rfl (fun K hK => ?_) ?_
         · refine step_m rfl (.tmp 121) (.tmp 121) rfl N1 rfl rfl HN1.out (fun bm y' hbm hx hm' => ?_)
           have bm_0 : w7.heap.size ≤ bm := by have := hb.size; omega
           have hb' := hb.trans (hx.mono hb.size)
           refine hK.out _ _ (HKC.out _ hb') (fun hq => ?_)
           clear hK K
           exact held_as ho (by kernel_rfl) (by rw [hA0]; kernel_rfl) (KM.out y' bm hb' bm_0 hm')
         refine AllReadyH.cons rfl (fun K hK => ?_) ?_
         · refine step_l rfl rfl (fun bl y' hbl hx hl' => ?_)
           have hb' := hb.trans (hx.mono hb.size)
           refine hK.out _ _ (HKC.out _ hb') (fun hq => ?_)
           clear hK K
           exact held_as ho (by kernel_rfl) (by rw [hA0]; kernel_rfl) (KL.out y' bl hb' hl')
         refine AllReadyH.cons rfl (fun K hK => ?_) ?_
         · refine step_a rfl rfl (fun ga y' hga hx ha' => ?_)
           have ga_0 : w7.heap.size ≤ ga := by have := hb.size; omega
           have hb' := hb.trans (hx.mono hb.size)
           refine hK.out _ _ (HKC.out _ hb') (fun hq => ?_)
           clear hK K
           exact held_as ho (by kernel_rfl) (by rw [hA0]; kernel_rfl) (Ka.out y' ga hb' ga_0 ha')
         refine AllReadyH.cons rfl (fun K hK => ?_) ?_
         · refine step_b rfl rfl (fun gf y' hgf hx hf' => ?_)
           have gf_0 : w7.heap.size ≤ gf := by have := hb.size; omega
           have hb' := hb.trans (hx.mono hb.size)
           refine hK.out _ _ (HKC.out _ hb') (fun hq => ?_)
           clear hK K
           exact held_as ho (by kernel_rfl) (by rw [hA0]; kernel_rfl) (Kb.out y' gf hb' gf_0 hf')
         exact AllReadyH.nil)
       exact held_as rfl (by kernel_rfl) rfl (K.out y0 hb0)
      case rest =>
      obtain ⟨gq, rfl, hf8, hb8⟩ := hcut
      rename_i hKK
      refine hKK _ _ ?_
      clear hKK
      have r0 : wc.cell? ⟨gq, 0, none⟩ = some (.bool false) := cell_of_row _ _ 0 _ 30 _ hf8
      have HT8 := Lib.hid (HTB7.out wc hb8)
      obtain ⟨k2, hk2⟩ : ∃ k2, k2 = k + 1 := ⟨_, rfl⟩
      have e1' : (k : Int) + 1 = (k2 : Int) := by omega
      have w1' : IntKind.i64.wrap (k2 : Int) = (k2 : Int) := IntWalk.i64_in _ (by have := HKL.out; omega)
      have HK2 : Hid (k2 = k + 1 ∧ k < 6) := Lib.hid ⟨hk2, HKL.out⟩
      clear hf8 hb8 hk2
      go_wp2
      go_roundw
      case rel => exact ⟨k2, by have := HK2.out; omega, by go_num, HT8.out⟩
      case measure => (have := HK2.out; simp [intOf]; omega)
    · obtain rfl : k = 6 := by omega
      have HF9 := Lib.hid (HFST.out wr)
      clear hS hK hbw hlt hk
      go_wp2_with fail
      with_reducible refine (HF9.out).mono ?_
      rintro e w9 ⟨rfl, hb9⟩
      have HZ := Lib.hid (HBW.out.trans (hb9.mono HBW.out.size))
      clear hb9 HF9
      go_wp2
      go_ret
      exact ⟨rfl, HZ.out⟩
theorem walk_any (stream more : Int) (w : World) : Calls Try.prog 6 #[.int .i64 stream, .int .i64 more] w (YesP w) := by
  by_cases h : stream < 1 ∨ 2147483647 < stream ∨ more < 0 ∨ 1 < more
  · exact walk_out stream more w h
  · obtain ⟨m, rfl⟩ : ∃ m : Nat, more = (m : Int) := ⟨more.toNat, by omega⟩
    exact walk_in stream m w (by omega) (by omega) (by omega)
end partCuts
end Go.Proofs.Ytelbldhnlmggiaa
