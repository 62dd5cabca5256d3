/- The landed part's sets: settings out of a body. -/
import Derived.Test.YtelbldhnlmggiaaPLNum
import Derived.Test.YtelbldhnlmggiaaPtSets
import Derived.Test.YtelbldhnlmggiaaLCut
namespace Go.Proofs.Ytelbldhnlmggiaa
open Go.RowKit Fr

theorem sixP (L : List Nat) (h : 6 ≤ L.length) : ∃ a0 a1 a2 a3 a4 a5 r, L = a0 :: a1 :: a2 :: a3 :: a4 :: a5 :: r := by
  match L, h with
  | a0 :: a1 :: a2 :: a3 :: a4 :: a5 :: r, _ => exact ⟨a0, a1, a2, a3, a4, a5, r, rfl⟩
theorem val2P (a b : Nat) : val [a, b] = a * 256 + b := by simp [val, vals]
def slen : Value → Nat
  | .slice _ n _ => n
  | _ => 0
/-- Behind j settings: what is left of the body, what is read. -/
def SlR (w : World) (l : List Nat) (m : Nat) (t v : Value) (wr : World) : Prop :=
  ∃ j A n c, j ≤ m ∧ t = .slice A n c ∧ n = 6 * (m - j) ∧ n ≤ c ∧ At .u8 w w.heap.size A (l.drop (6 * j)) ∧ wr.ownsRow w.heap.size 37 2 v j (cS ((sixes l).take j)) ∧ Below w.heap.size w wr
set_option maxRecDepth 100000 in
set_option maxHeartbeats 8000000 in
theorem psets_any (A : Option Addr) (l : List Nat) (m n c : Nat) (w : World) (hA : At .u8 w w.heap.size A l) (hb : ∀ x ∈ l, x < 256) (hl : l.length = n) (hm : n = 6 * m) (hcl : n ≤ c) (hn : n ≤ 100000) : Calls Try.prog 30 #[.slice A n c] w fun e w' => ∃ A' c', e = .returned (.slice A' m c') ∧ w'.ownsRow w.heap.size 37 2 (.slice A' m c') m (cS (sixes l)) ∧ Below w.heap.size w w' := by
  have HL := Lib.hid hl
  have HM := Lib.hid hm
  have HB := Lib.hid hb
  have HN := Lib.hid hn
  have HSL : Hid ((sixes l).length = m) := Lib.hid (sixes_len m l (by omega))
  have dv : Int.tdiv (n : Int) 6 = (m : Int) := by rw [hm]; rw [show ((6 * m : Nat) : Int) = 6 * (m : Int) by omega]; exact Int.mul_tdiv_cancel_left _ (by decide)
  have dv' : (n : Int) / 6 = (m : Int) := by omega
  have wm : IntKind.i64.wrap (m : Int) = (m : Int) := i64_ofNat m (by omega)
  have HST : Hid (∀ v wr, wr.ownsRow w.heap.size 37 2 v 0 [] → Below w.heap.size w wr → SlR w l m (.slice A n c) v wr) := Lib.hid (fun v wr h1 h2 => ⟨0, A, n, c, Nat.zero_le _, rfl, by omega, hcl, by simpa using hA, by simpa [cS] using h1, h2⟩)
  obtain ⟨i0, hi0, hz0, hz1, hz2⟩ := info_parts infoPS
  have HI := Lib.hid (And.intro hi0 (And.intro hz0 (And.intro hz1 hz2)))
  clear hA hb hl hm hcl hn hi0 hz0 hz1 hz2
  go_enter Try.func30, Try.ntmps30
  go_wp2_with (first
    | (at_make; refine wpList_make_own _ rfl _ _ 26 rfl w.heap.size 37 i0 _ 2 Try.underlying26 HI.out.1 HI.out.2.1 HI.out.2.2.1 _ _ _ m rfl rfl rfl (by have := HM.out; have := HN.out; rw [HI.out.2.2.2]; omega) (by have := HM.out; have := HN.out; unfold maxLen; omega) (Nat.le_refl _) ?_
       intro w2 hown2 hg2
       have hb2 : Below w.heap.size w w2 := (Below.refl _ _).grown hg2 (Nat.le_refl _) (by simp)))
  go_loopw [0, 3] (fun t v wr => SlR w l m t v wr) (fun t _ _ => slen t)
  case atStart => exact HST.out _ _ hown2 hb2
  case round =>
    clear hown2 hg2 hb2
    obtain ⟨j, Aj, nj, cj, hj, rfl, hnj, hncj, hAj, hrow, hbw⟩ := hrel
    obtain ⟨Av, cv, rfl, hjc, hAv⟩ := rowS_shape hrow
    by_cases hlt : j < m
    · have hdl : (l.drop (6 * j)).length = nj := by rw [List.length_drop]; have := HL.out; have := HM.out; omega
      obtain ⟨b, o, rfl, hbB, hcs⟩ := hAj.pos (by omega)
      obtain ⟨x0, x1, x2, x3, x4, x5, r, hD⟩ := sixP (l.drop (6 * j)) (by omega)
      have hby : ∀ x ∈ l.drop (6 * j), x < 256 := fun x hx => HB.out x (List.mem_of_mem_drop hx)
      have q0 : x0 < 256 := hby x0 (by rw [hD]; simp)
      have q1 : x1 < 256 := hby x1 (by rw [hD]; simp)
      have y0 : wr.cell? ⟨b, o, none⟩ = some (.int .u8 (x0 : Int)) := by have := (hbw.cell (p := ⟨b, o + 0, none⟩) hbB).trans (hcs 0 (by omega)); simpa [hD] using this
      have y1 : wr.cell? ⟨b, o + 1, none⟩ = some (.int .u8 (x1 : Int)) := by have := (hbw.cell (p := ⟨b, o + 1, none⟩) hbB).trans (hcs 1 (by omega)); simpa [hD] using this
      have HY : Hid (∀ W, Below wr.heap.size wr W → W.cell? ⟨b, o, none⟩ = some (.int .u8 (x0 : Int)) ∧ W.cell? ⟨b, o + 1, none⟩ = some (.int .u8 (x1 : Int))) := Lib.hid (fun W h => ⟨(h.cell (p := ⟨b, o, none⟩) (Nat.lt_of_lt_of_le hbB hbw.size)).trans y0, (h.cell (p := ⟨b, o + 1, none⟩) (Nat.lt_of_lt_of_le hbB hbw.size)).trans y1⟩)
      obtain ⟨a0, ha0⟩ : ∃ a0, a0 = x0 * 256 := ⟨_, rfl⟩
      obtain ⟨X, hX⟩ : ∃ X, X = a0 + x1 := ⟨_, rfl⟩
      have s0 : (x0 : Int) * 2 ^ 8 = (a0 : Int) := by rw [ha0]; simp
      have s0' : (x0 : Int) * 256 = (a0 : Int) := by rw [ha0]; simp
      have o1 : bits BinOp.or IntKind.i64 (a0 : Int) (x1 : Int) = (X : Int) := by
        have := i64_or_nat a0 x1 (by omega) (by omega)
        rw [nat_join 8 a0 x1 (by omega) (by omega)] at this
        rw [hX]
        exact this
      have wx0 : IntKind.i64.wrap (x0 : Int) = (x0 : Int) := i64_ofNat x0 (by omega)
      have wx1 : IntKind.i64.wrap (x1 : Int) = (x1 : Int) := i64_ofNat x1 (by omega)
      have wa0 : IntKind.i64.wrap (a0 : Int) = (a0 : Int) := i64_ofNat a0 (by omega)
      obtain ⟨A2, hA2⟩ : ∃ A2, A2 = cutAt (some ⟨b, o, none⟩) cj 2 := ⟨_, rfl⟩
      obtain ⟨n2, hn2⟩ : ∃ n2, n2 = nj - 2 := ⟨_, rfl⟩
      obtain ⟨c2, hc2⟩ : ∃ c2, c2 = cj - 2 := ⟨_, rfl⟩
      obtain ⟨A6, hA6⟩ : ∃ A6, A6 = cutAt (some ⟨b, o, none⟩) cj 6 := ⟨_, rfl⟩
      obtain ⟨n6, hn6⟩ : ∃ n6, n6 = nj - 6 := ⟨_, rfl⟩
      obtain ⟨c6, hc6⟩ : ∃ c6, c6 = cj - 6 := ⟨_, rfl⟩
      have hs2 := fun (W : World) => slice_l (some ⟨b, o, none⟩) nj cj 2 n2 W (by omega) hn2.symm
      rw [← hA2, ← hc2, show ((2 : Nat) : Int) = 2 from rfl] at hs2
      have hs6 := fun (W : World) => slice_l (some ⟨b, o, none⟩) nj cj 6 n6 W (by omega) hn6.symm
      rw [← hA6, ← hc6, show ((6 : Nat) : Int) = 6 from rfl] at hs6
      obtain ⟨Y, hY⟩ : ∃ Y, Y = val (((l.drop (6 * j)).drop 2).take 4) := ⟨_, rfl⟩
      have HNUM : Hid (∀ W, Below wr.heap.size wr W → Calls Try.prog 29 #[.slice A2 n2 c2] W fun e w' => e = .returned (.int .i64 (Y : Int)) ∧ Below W.heap.size W w') := Lib.hid (fun W h => by
        rw [hY, hA2, hc2]
        have hbW := hbw.trans (h.mono hbw.size)
        refine (pnumber_any _ ((l.drop (6 * j)).drop 2) n2 (cj - 2) W ((hAj.up hbW).drop (by omega)) (fun x hx => hby x (List.mem_of_mem_drop hx)) (by rw [List.length_drop]; omega) (by omega)).mono ?_
        rintro e w' ⟨rfl, k, rfl⟩
        exact ⟨rfl, below_drewN (Below.refl _ _) _⟩)
      have hnext : (sixes l).take (j + 1) = (sixes l).take j ++ [((X : Int), (Y : Int))] := by
        have hjl : j < (sixes l).length := by rw [HSL.out]; exact hlt
        rw [take_succ _ j hjl, sixes_at m l (by have := HL.out; have := HM.out; omega) j hjl, hX, ha0, hY, List.drop_drop, hD, show List.take 2 (x0 :: x1 :: x2 :: x3 :: x4 :: x5 :: r) = [x0, x1] from rfl, val2P]
      have HNEXT := Lib.hid hnext
      have HA6 : Hid (At .u8 w w.heap.size A6 (l.drop (6 * (j + 1)))) := Lib.hid (by
        rw [hA6, show 6 * (j + 1) = 6 * j + 6 by omega, ← List.drop_drop]
        exact hAj.drop (by omega))
      have HROW := Lib.hid hrow
      have HBW := Lib.hid hbw
      have HNN : Hid (6 ≤ nj ∧ nj = 6 * (m - j) ∧ n6 = 6 * (m - (j + 1)) ∧ n6 ≤ c6 ∧ j < m) := Lib.hid (by omega)
      have ki : (0 : Int) < (nj : Int) := by omega
      have k1 : (1 : Int) < (nj : Int) := by omega
      have k2 : (2 : Int) ≤ (nj : Int) := by omega
      have k6 : (6 : Int) ≤ (nj : Int) := by omega
      clear hX ha0 hY hA2 hn2 hc2 hA6 hn6 hc6 hnext hD hcs hby hdl hAj hrow hbw hnj hncj hj hlt hjc hAv q0 q1
      go_wp2
      refine wp_region_held_drew (S := fun w' => w'.cell? ⟨b, o, none⟩ = some (.int .u8 (x0 : Int)) ∧ w'.cell? ⟨b, o + 1, none⟩ = some (.int .u8 (x1 : Int))) (by kernel_rfl) (HY.out _ ((Below.refl _ _).drew)) (fun hHeld => ?_)
      refine wpAnyH_take (i := 0) (v := ?_) rfl (by kernel_rfl) (by kernel_rfl) (by kernel_rfl) (fun _ _ _ h => h) (Or.inl ⟨by rfl, ?_⟩) hHeld ?_
      rotate_left
      · intro w hSw
        obtain ⟨hSa, hSb⟩ := hSw
        try dsimp only at hSa hSb
        go_simp
        try with_reducible rfl
      change wpAnyH _ _ _ _ _ _ _ (Act.put _ (some 13) _) _
      simp only [Act.put, List.setIfInBounds_toArray, List.set_cons_zero, List.set_cons_succ]
      refine wpAnyH_take (i := 1) (v := ?_) rfl (by kernel_rfl) (by kernel_rfl) (by kernel_rfl) (fun _ _ _ h => h) (Or.inl ⟨by rfl, ?_⟩) hHeld ?_
      rotate_left
      · intro w hSw
        obtain ⟨hSa, hSb⟩ := hSw
        try dsimp only at hSa hSb
        go_simp
        try with_reducible rfl
      change wpAnyH _ _ _ _ _ _ _ (Act.put _ (some 14) _) _
      simp only [Act.put, List.setIfInBounds_toArray, List.set_cons_zero, List.set_cons_succ]
      refine wpAnyH_take (i := 2) (v := ?_) rfl (by kernel_rfl) (by kernel_rfl) (by kernel_rfl) (fun _ _ _ h => h) (Or.inl ⟨by rfl, ?_⟩) hHeld ?_
      rotate_left
      · intro w hSw
        obtain ⟨hSa, hSb⟩ := hSw
        try dsimp only at hSa hSb
        go_simp
        try with_reducible rfl
      change wpAnyH _ _ _ _ _ _ _ (Act.put _ (some 15) _) _
      simp only [Act.put, List.setIfInBounds_toArray, List.set_cons_zero, List.set_cons_succ]
      refine wpAnyH_take (i := 3) (v := ?_) rfl (by kernel_rfl) (by kernel_rfl) (by kernel_rfl) (fun _ _ _ h => h) (Or.inl ⟨by rfl, ?_⟩) hHeld ?_
      rotate_left
      · intro w hSw
        obtain ⟨hSa, hSb⟩ := hSw
        try dsimp only at hSa hSb
        go_simp
        try with_reducible rfl
      change wpAnyH _ _ _ _ _ _ _ (Act.put _ (some 16) _) _
      simp only [Act.put, List.setIfInBounds_toArray, List.set_cons_zero, List.set_cons_succ]
      refine wpAnyH_take (i := 4) (v := ?_) rfl (by kernel_rfl) (by kernel_rfl) (by kernel_rfl) (fun _ _ _ h => h) (Or.inl ⟨by rfl, ?_⟩) hHeld ?_
      rotate_left
      · intro w hSw
        obtain ⟨hSa, hSb⟩ := hSw
        try dsimp only at hSa hSb
        go_simp
        try with_reducible rfl
      change wpAnyH _ _ _ _ _ _ _ (Act.put _ (some 17) _) _
      simp only [Act.put, List.setIfInBounds_toArray, List.set_cons_zero, List.set_cons_succ]
      refine wpAnyH_take (i := 5) (v := ?_) rfl (by kernel_rfl) (by kernel_rfl) (by kernel_rfl) (fun _ _ _ h => h) (Or.inl ⟨by rfl, ?_⟩) hHeld ?_
      rotate_left
      · intro w hSw
        obtain ⟨hSa, hSb⟩ := hSw
        try dsimp only at hSa hSb
        go_simp
        try with_reducible rfl
      change wpAnyH _ _ _ _ _ _ _ (Act.put _ (some 18) _) _
      simp only [Act.put, List.setIfInBounds_toArray, List.set_cons_zero, List.set_cons_succ]
      refine wpAnyH_take (i := 6) (v := ?_) rfl (by kernel_rfl) (by kernel_rfl) (by kernel_rfl) (fun _ _ _ h => h) (Or.inl ⟨by rfl, ?_⟩) hHeld ?_
      rotate_left
      · intro w hSw
        obtain ⟨hSa, hSb⟩ := hSw
        try dsimp only at hSa hSb
        go_simp
        try with_reducible rfl
      change wpAnyH _ _ _ _ _ _ _ (Act.put _ (some 19) _) _
      simp only [Act.put, List.setIfInBounds_toArray, List.set_cons_zero, List.set_cons_succ]
      refine wpAnyH_take (i := 7) (v := ?_) rfl (by kernel_rfl) (by kernel_rfl) (by kernel_rfl) (fun _ _ _ h => h) (Or.inl ⟨by rfl, ?_⟩) hHeld ?_
      rotate_left
      · intro w hSw
        obtain ⟨hSa, hSb⟩ := hSw
        try dsimp only at hSa hSb
        go_simp
        try with_reducible rfl
      change wpAnyH _ _ _ _ _ _ _ (Act.put _ (some 20) _) _
      simp only [Act.put, List.setIfInBounds_toArray, List.set_cons_zero, List.set_cons_succ]
      refine wpAnyH_take (i := 8) (v := ?_) rfl (by kernel_rfl) (by kernel_rfl) (by kernel_rfl) (fun _ _ _ h => h) (Or.inl ⟨by rfl, ?_⟩) hHeld ?_
      rotate_left
      · intro w hSw
        obtain ⟨hSa, hSb⟩ := hSw
        try dsimp only at hSa hSb
        go_simp
        try with_reducible rfl
      change wpAnyH _ _ _ _ _ _ _ (Act.put _ (some 21) _) _
      simp only [Act.put, List.setIfInBounds_toArray, List.set_cons_zero, List.set_cons_succ]
      refine wpAnyH_take (i := 9) (v := ?_) rfl (by kernel_rfl) (by kernel_rfl) (by kernel_rfl) (fun _ _ _ h => h) (Or.inl ⟨by rfl, ?_⟩) hHeld ?_
      rotate_left
      · intro w hSw
        obtain ⟨hSa, hSb⟩ := hSw
        try dsimp only at hSa hSb
        go_simp
        try with_reducible rfl
      change wpAnyH _ _ _ _ _ _ _ (Act.put _ (some 22) _) _
      simp only [Act.put, List.setIfInBounds_toArray, List.set_cons_zero, List.set_cons_succ]
      refine wpAnyH_take (i := 10) (v := ?_) rfl (by kernel_rfl) (by kernel_rfl) (by kernel_rfl) (fun _ _ _ h => h) (Or.inl ⟨by rfl, ?_⟩) hHeld ?_
      rotate_left
      · intro w hSw
        obtain ⟨hSa, hSb⟩ := hSw
        try dsimp only at hSa hSb
        go_simp
        try with_reducible rfl
      change wpAnyH _ _ _ _ _ _ _ (Act.put _ (some 23) _) _
      simp only [Act.put, List.setIfInBounds_toArray, List.set_cons_zero, List.set_cons_succ]
      refine wpAnyH_take (i := 11) (v := ?_) rfl (by kernel_rfl) (by kernel_rfl) (by kernel_rfl) (fun _ _ _ h => h) (Or.inl ⟨by rfl, ?_⟩) hHeld ?_
      rotate_left
      · intro w hSw
        obtain ⟨hSa, hSb⟩ := hSw
        try dsimp only at hSa hSb
        go_simp
        try with_reducible rfl
      change wpAnyH _ _ _ _ _ _ _ (Act.put _ (some 24) _) _
      simp only [Act.put, List.setIfInBounds_toArray, List.set_cons_zero, List.set_cons_succ]
      refine wpAnyH_take (i := 12) (v := ?_) rfl (by kernel_rfl) (by kernel_rfl) (by kernel_rfl) (fun _ _ _ h => h) (Or.inl ⟨by rfl, ?_⟩) hHeld ?_
      rotate_left
      · intro w hSw
        obtain ⟨hSa, hSb⟩ := hSw
        try dsimp only at hSa hSb
        go_simp
        try with_reducible rfl
      change wpAnyH _ _ _ _ _ _ _ (Act.put _ (some 25) _) _
      simp only [Act.put, List.setIfInBounds_toArray, List.set_cons_zero, List.set_cons_succ]
      refine wpAnyH_ready (rs := [13]) (by kernel_rfl) (by simp) ?_
      refine AllReadyH.cons rfl (fun K hK => ?_) AllReadyH.nil
      go_simp
      with_reducible refine (HNUM.out _ ((Below.refl _ _).drew)).mono ?_
      rintro e w3 ⟨rfl, hb3⟩
      have hb3' : Below wr.heap.size wr w3 := ((Below.refl wr.heap.size wr).drew).trans hb3
      refine hK.out _ _ (HY.out _ hb3') (fun hHeld => ?_)
      clear hK K
      refine wpAnyH_take (i := 14) (v := ?_) rfl (by kernel_rfl) (by kernel_rfl) (by kernel_rfl) (fun _ _ _ h => h) (Or.inl ⟨by rfl, ?_⟩) hHeld ?_
      rotate_left
      · intro w hSw
        obtain ⟨hSa, hSb⟩ := hSw
        try dsimp only at hSa hSb
        go_simp
        try with_reducible rfl
      change wpAnyH _ _ _ _ _ _ _ (Act.put _ (some 27) _) _
      simp only [Act.put, List.setIfInBounds_toArray, List.set_cons_zero, List.set_cons_succ]
      have hbl : Below w3.heap.size w3 (w3.alloc (.cells #[.int .i64 (X : Int), .int .i64 (Y : Int)] 37)) := (Below.refl _ _).alloc (Nat.le_refl _) _
      have hb4 : Below wr.heap.size wr (w3.alloc (.cells #[.int .i64 (X : Int), .int .i64 (Y : Int)] 37)) := hb3'.trans (hbl.mono hb3'.size)
      have hown : (w3.alloc (.cells #[.int .i64 (X : Int), .int .i64 (Y : Int)] 37)).ownsRow w.heap.size 37 2 (.slice Av j cv) j (cS ((sixes l).take j)) := row_keeps HROW.out (Keeps.of_below (S := fun _ => False) hb4) (fun _ _ h => h)
      refine wpAnyH_ready (rs := [15]) (by kernel_rfl) (by simp) ?_
      refine AllReadyH.cons rfl (fun K hK => ?_) AllReadyH.nil
      go_simp
      refine hK.out _ _ (HY.out _ hb4) (fun hHeld => ?_)
      clear hK K
      refine wpAnyH_ready (rs := [16]) (by kernel_rfl) (by simp) ?_
      refine AllReadyH.cons rfl (fun K hK => ?_) AllReadyH.nil
      refine step_appS rfl (.tmp 13) (.tmp 28) rfl w.heap.size (.slice Av j cv) j ((sixes l).take j) (by simp [Act.eval]) hown ⟨w3.heap.size, 0, none⟩ [((X : Int), (Y : Int))] 1 (by simp [Act.eval]) (new_cells w3 (cS [((X : Int), (Y : Int))]) 37) (by have := HNN.out; have := HM.out; have := HN.out; simp; omega) (by have := hb4.size; have := HBW.out.size; omega) ?_
      intro v9 w9 ho9 hg9
      have hb9 : Below w.heap.size wr w9 := (hb4.mono HBW.out.size).grown hg9 (by have := hb4.size; have := HBW.out.size; omega) (rowS_block hown)
      obtain ⟨A9, c9, hv9, _, _⟩ := rowS_shape ho9
      subst hv9
      have HR9 : Hid (SlR w l m (.slice A6 n6 c6) (.slice A9 (j + 1) c9) w9) := Lib.hid ⟨j + 1, A6, n6, c6, by have := HNN.out; omega, rfl, HNN.out.2.2.1, HNN.out.2.2.2.1, HA6.out, by rw [HNEXT.out]; exact ho9, HBW.out.trans hb9⟩
      have hS9 : w9.cell? ⟨b, o, none⟩ = some (.int .u8 (x0 : Int)) ∧ w9.cell? ⟨b, o + 1, none⟩ = some (.int .u8 (x1 : Int)) := by
        have hbb : b < w.heap.size := hbB
        exact ⟨(hb9.cell (p := ⟨b, o, none⟩) hbb).trans y0, (hb9.cell (p := ⟨b, o + 1, none⟩) hbb).trans y1⟩
      refine hK.out _ _ hS9 (fun hHeld => ?_)
      clear hK K
      refine wpAnyH_take (i := 17) (v := ?_) rfl (by kernel_rfl) (by kernel_rfl) (by kernel_rfl) (fun _ _ _ h => h) (Or.inl ⟨by rfl, ?_⟩) hHeld ?_
      rotate_left
      · intro w hSw
        obtain ⟨hSa, hSb⟩ := hSw
        try dsimp only at hSa hSb
        go_simp
        try with_reducible rfl
      change wpAnyH _ _ _ _ _ _ _ (Act.put _ (some 3) _) _
      simp only [Act.put, List.setIfInBounds_toArray]
      refine wpAnyH_done (by kernel_rfl) ?_ _
      clear hb9 ho9 hg9 hown hb4 hbl hb3 hb3' hS9 y0 y1
      go_wp2
      go_roundw
      case rel => exact HR9.out
      case measure => simp [slen]; have := HNN.out; omega
    · obtain rfl : j = m := by omega
      have hn0 : nj = 0 := by omega
      subst hn0
      rw [List.take_of_length_le (by have := HSL.out; omega)] at hrow
      clear hnj hAj hncj hlt hj
      go_wp2
      go_ret
      exact ⟨Av, cv, rfl, hrow, hbw⟩
end Go.Proofs.Ytelbldhnlmggiaa
