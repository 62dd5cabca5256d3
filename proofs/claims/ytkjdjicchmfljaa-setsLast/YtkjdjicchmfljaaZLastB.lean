/- The walk of SetsLast, with no fault. -/
import Derived.BigQuiet
import Derived.WalkSmall
import Derived.Test.YtkjdjicchmfljaaZFew
import Derived.Test.YtkjdjicchmfljaaZSteps
import Derived.Test.YtkjdjicchmfljaaZCut
import Derived.Test.YtkjdjicchmfljaaZRowK
import Derived.Test.YtkjdjicchmfljaaZLast
namespace Go.Proofs.Ytkjdjicchmfljaa
open Go.RowKit Zs
namespace setsLast
theorem wpList_appendS {w : World} {ops : Array Oper} {rest : List Oper} {o : Oper} {a : Act} {Q : Exit → Act → World → Prop} (hgd : o.guard = none) (s x : Operand)
    (ho : o.op = .call { callee := .builtin .append, args := #[s, x], argTypes := #[24, 24] }) (base : Nat)
    (v : Value) (n : Nat) (l : List (Int × Int)) (hs : a.eval s = v) (hown : w.ownsRow base 33 2 v n (cS l))
    (ad : Addr) (m : List (Int × Int)) (c : Nat) (hx : a.eval x = .slice (some ad) m.length c) (hm : ∀ j u, (cS m)[j]? = some u → w.cell? (ad.add j) = some u)
    (hlen : n + m.length ≤ 1000000) (hbase : base ≤ w.heap.size)
    (h : ∀ v' w', w'.ownsRow base 33 2 v' (n + m.length) (cS (l ++ m)) → w.grownBy w' v.ownBlock → wpList Try.prog ops Q rest (a.put o.dst v') w') : wpList Try.prog ops Q (o :: rest) a w := by
  obtain ⟨i0, hi0, hz0, hz1, hz2⟩ := info_parts infoPS
  refine wpList_append_own w hgd s x 24 ho base 33 i0 _ 2 16 Try.underlying24 hi0 hz0 hz1 hz2 rfl (by decide) v n (cS l) hs hown ad m.length c (cS m) hx (by rw [cS_len]) hm (cS_one _) ?_ ?_ hbase ?_
  · unfold maxLen; omega
  · omega
  · intro v' w' h1 h2 _
    rw [← cS_app] at h1
    exact h v' w' h1 h2
theorem atS_newS (w : World) (i v : Int) : ∀ j u, (cS [(i, v)])[j]? = some u → (w.alloc (.cells #[.int .i64 i, .int .i64 v] 33)).cell? ((⟨w.heap.size, 0, none⟩ : Addr).add j) = some u := by
  refine AtS.cells (B := (w.alloc (.cells #[.int .i64 i, .int .i64 v] 33)).heap.size) (fun _ => ⟨w.heap.size, 0, rfl, by simp, fun k hk => ?_⟩)
  obtain rfl : k = 0 := by simpa using hk
  exact ⟨cell_of_row _ w.heap.size 0 _ 33 _ (heap_alloc_new w _), cell_of_row _ w.heap.size 1 _ 33 _ (heap_alloc_new w _)⟩
/-- At the outer loop's head: what is kept so far. -/
def LsR (w : World) (l : List (Int × Int)) (n : Nat) (sm i : Value) (wr : World) : Prop :=
  ∃ k, k ≤ n ∧ i = .int .i64 (k : Int) ∧ ∃ (L : List (Int × Int)) (m : Nat) (A : Option Addr) (c : Nat), sm = .slice A m c ∧ m ≤ k ∧ wr.ownsRow w.heap.size 33 2 (.slice A m c) m (cS L) ∧ L ++ lastly (l.drop k) = lastly l ∧ Below w.heap.size w wr
/-- At the inner loop's head: is it the last so far? -/
def InR (wb : World) (l : List (Int × Int)) (n k : Nat) (id : Int) (tot : Bool) (b i : Value) (wr : World) : Prop :=
  ∃ (q : Nat) (x : Bool), k + 1 ≤ q ∧ q ≤ n ∧ i = .int .i64 (q : Int) ∧ b = .bool x ∧ (x && noneOf id (l.drop q)) = tot ∧ Below wb.heap.size wb wr
set_option maxRecDepth 100000 in
set_option maxHeartbeats 4000000 in
theorem in_loop (A : Option Addr) (l : List (Int × Int)) (n c p : Nat) (w : World) (TX TY : St) (hA : AtS w w.heap.size A l) (hl : l.length = n) (hcl : n ≤ c) (hn : n ≤ 300) (hp : p ≤ n)
    (hX : apply firstSt l = (TX, noFlt)) (hY : apply firstSt (l.take p) = (TY, noFlt)) (hZ : apply TY (l.drop p) = (TX, noFlt)) : Calls Try.prog 4 #[.slice A n c, .int .i64 (p : Int)] w (YesZ w) := by
  have HLL := Lib.hid (apply_lastly l firstSt TX hX)
  have HFST := Lib.hid fun (W : World) => first13_any W
  have HFI := Lib.hid fun (W : World) => zfirst_is W
  obtain ⟨r, hr⟩ : ∃ r, r = n - p := ⟨_, rfl⟩
  have HAX : Hid (∀ W, Below w.heap.size w W → Calls Try.prog 8 #[.agg #[.int .i64 4096, .int .i64 1, .int .i64 2147483647, .int .i64 65535, .int .i64 16384, .int .i64 2147483647], .slice A n c] W fun e w' => e = .returned (.tuple #[.agg #[.int .i64 TX.table, .int .i64 TX.push, .int .i64 TX.streams, .int .i64 TX.window, .int .i64 TX.frame, .int .i64 TX.list], .agg #[.bool false, .bool false, .int .i64 0]]) ∧ Below W.heap.size W w') := Lib.hid (fun W h => by
    have := zapply_f firstSt A l n c W (hA.up h) hl (by omega)
    rw [hX] at this
    exact this)
  have HAY : Hid (∀ W, Below w.heap.size w W → Calls Try.prog 8 #[.agg #[.int .i64 4096, .int .i64 1, .int .i64 2147483647, .int .i64 65535, .int .i64 16384, .int .i64 2147483647], .slice (cutS A c 0) p c] W fun e w' => e = .returned (.tuple #[.agg #[.int .i64 TY.table, .int .i64 TY.push, .int .i64 TY.streams, .int .i64 TY.window, .int .i64 TY.frame, .int .i64 TY.list], .agg #[.bool false, .bool false, .int .i64 0]]) ∧ Below W.heap.size W w') := Lib.hid (fun W h => by
    have := zapply_f firstSt (cutS A c 0) (l.take p) p c W ((hA.up h).take (by omega)) (by rw [List.length_take]; omega) (by omega)
    rw [hY] at this
    exact this)
  have HAZ : Hid (∀ W, Below w.heap.size w W → Calls Try.prog 8 #[.agg #[.int .i64 TY.table, .int .i64 TY.push, .int .i64 TY.streams, .int .i64 TY.window, .int .i64 TY.frame, .int .i64 TY.list], .slice (cutS A c p) r (c - p)] W fun e w' => e = .returned (.tuple #[.agg #[.int .i64 TX.table, .int .i64 TX.push, .int .i64 TX.streams, .int .i64 TX.window, .int .i64 TX.frame, .int .i64 TX.list], .agg #[.bool false, .bool false, .int .i64 0]]) ∧ Below W.heap.size W w') := Lib.hid (fun W h => by
    have := zapply_f TY (cutS A c p) (l.drop p) r (c - p) W ((hA.up h).drop (by omega)) (by rw [List.length_drop]; omega) (by omega)
    rw [hZ] at this
    exact this)
  have hsp := fun (W : World) => slice_hS A n c p W (by omega)
  have hsq := fun (W : World) => slice_lS A n c p r W (by omega) hr.symm
  have ip0 : (0 : Int) ≤ (p : Int) := by omega
  have ipn : (p : Int) ≤ (n : Int) := by omega
  have ipc : (p : Int) ≤ (c : Int) := by omega
  have k1 : ¬ (300 : Int) < (n : Int) := by omega
  have k2 : ¬ (p : Int) < 0 := by omega
  have k3 : ¬ (n : Int) < (p : Int) := by omega
  have HA := Lib.hid (And.intro hA hl)
  have HN := Lib.hid hn
  clear hA hl hcl hn hp hX hY hZ hr
  go_enter Try.func4, Try.ntmps4
  have HB0 := Lib.hid (Below.refl w.heap.size w)
  go_wp2_with fail
  with_reducible refine (HFST.out w).mono ?_
  rintro e w1 ⟨rfl, hb1⟩
  have HB1 := Lib.hid (HB0.out.trans (hb1.mono HB0.out.size))
  clear hb1
  go_wp2_with fail
  with_reducible refine (HFI.out w1).mono ?_
  rintro e w2 ⟨rfl, hb2⟩
  have HB2 := Lib.hid (HB1.out.trans (hb2.mono HB1.out.size))
  clear hb2
  go_wp2_with fail
  with_reducible refine (HAX.out w2 HB2.out).mono ?_
  rintro e w3 ⟨rfl, hb3⟩
  have HB3 := Lib.hid (HB2.out.trans (hb3.mono HB2.out.size))
  clear hb3
  obtain ⟨hk, hb5⟩ := kz_of w3 TX noFlt
  obtain ⟨w4, hw5⟩ : ∃ x, x = keptZ w3 TX noFlt := ⟨_, rfl⟩
  rw [← hw5] at hk hb5
  have hw5' : w4 = (w3.alloc (.cells #[.int .i64 TX.table, .int .i64 TX.push, .int .i64 TX.streams, .int .i64 TX.window, .int .i64 TX.frame, .int .i64 TX.list] 23)).alloc (.cells #[.bool false, .bool false, .int .i64 0] 27) := hw5
  have HB4 := Lib.hid (HB3.out.trans (hb5.mono HB3.out.size))
  have HW4 := Lib.hid hw5'
  obtain ⟨g1, hg⟩ : ∃ g, g = w3.heap.size := ⟨_, rfl⟩
  rw [← hg] at hk
  have HG4 := Lib.hid hg
  have HK4 := Lib.hid hk
  clear hb5 hw5 hw5' hg hk
  go_upto_region 6 with fail
  rw [← HW4.out, ← HG4.out]
  have HAY4 : Hid (∀ W, Below w4.heap.size w4 W → Calls Try.prog 8 #[.agg #[.int .i64 4096, .int .i64 1, .int .i64 2147483647, .int .i64 65535, .int .i64 16384, .int .i64 2147483647], .slice (cutS A c 0) p c] W fun e w' => e = .returned (.tuple #[.agg #[.int .i64 TY.table, .int .i64 TY.push, .int .i64 TY.streams, .int .i64 TY.window, .int .i64 TY.frame, .int .i64 TY.list], .agg #[.bool false, .bool false, .int .i64 0]]) ∧ Below W.heap.size W w') := Lib.hid (fun W h => HAY.out W (HB4.out.trans (h.mono HB4.out.size)))
  have HKC4 : Hid (∀ W, Below w4.heap.size w4 W → W.cell? ⟨g1 + 1, 0, none⟩ = some (.bool false)) := Lib.hid (fun W h => (HK4.out.up h).flt.1)
  go_wp2_with fail
  go_cut [7, 8] (fun x y wx => ∃ ga gf, x = .pointer (some ⟨ga, 0, none⟩) ∧ y = .pointer (some ⟨gf, 0, none⟩) ∧ wx.heap[ga]? = some (.cells #[.int .i64 TY.table, .int .i64 TY.push, .int .i64 TY.streams, .int .i64 TY.window, .int .i64 TY.frame, .int .i64 TY.list] 23 (0, 0)) ∧ wx.heap[gf]? = some (.cells #[.bool false, .bool false, .int .i64 0] 27 (0, 0)) ∧ Below w4.heap.size w4 wx)
  case first =>
    refine wp_region_held_drew (S := fun w' => w'.cell? ⟨g1 + 1, 0, none⟩ = some (.bool false)) (by kernel_rfl) (HKC4.out _ (Below.refl _ _).drew) (fun hHeld => ?_)
    have hb0 : Below w4.heap.size w4 w4.drew := (Below.refl _ _).drew
    obtain ⟨y0, hy0⟩ : ∃ y0, y0 = w4.drew := ⟨_, rfl⟩
    rw [← hy0] at hb0 hHeld ⊢
    clear hy0
    refine wpAnyH_take (i := 1) (v := ?_) rfl (by kernel_rfl) (by kernel_rfl) (by kernel_rfl) (fun _ _ _ h => h) (Or.inl ⟨by rfl, ?_⟩) hHeld ?_
    rotate_left
    · intro w hSw
      try dsimp only at hSw
      go_simp
      try with_reducible rfl
    change wpAnyH _ _ _ _ _ _ _ (Act.put _ (some 41) _) _
    simp only [Act.put, List.setIfInBounds_toArray, List.set_cons_zero, List.set_cons_succ]
    refine wpAnyH_take (i := 2) (v := ?_) rfl (by kernel_rfl) (by kernel_rfl) (by kernel_rfl) (fun _ _ _ h => h) (Or.inl ⟨by rfl, ?_⟩) hHeld ?_
    rotate_left
    · intro w hSw
      try dsimp only at hSw
      go_simp
      try with_reducible rfl
    change wpAnyH _ _ _ _ _ _ _ (Act.put _ (some 42) _) _
    simp only [Act.put, List.setIfInBounds_toArray, List.set_cons_zero, List.set_cons_succ]
    refine wpAnyH_take (i := 3) (v := ?_) rfl (by kernel_rfl) (by kernel_rfl) (by kernel_rfl) (fun _ _ _ h => h) (Or.inl ⟨by rfl, ?_⟩) hHeld ?_
    rotate_left
    · intro w hSw
      try dsimp only at hSw
      go_simp
      try with_reducible rfl
    change wpAnyH _ _ _ _ _ _ _ (Act.put _ (some 43) _) _
    simp only [Act.put, List.setIfInBounds_toArray, List.set_cons_zero, List.set_cons_succ]
    refine held_nameZ (fun o0 q0 a0 ho hq0 hA0 => ?_)
    have HQP : Hid (∀ c a (d : Nat) v w, q0 (.panic c) (Act.put a (some d) v) w → q0 (.panic c) a w) := Lib.hid (by rw [hq0]; exact fun _ _ _ _ _ h => h)
    have KFAab : Hid (∀ (y : World) (ga : Nat) (gf : Nat), Below w4.heap.size w4 y → w4.heap.size ≤ ga → y.heap[ga]? = some (.cells #[.int .i64 0, .int .i64 0, .int .i64 0, .int .i64 0, .int .i64 0, .int .i64 0] 23 (0, 0)) → w4.heap.size ≤ gf → y.heap[gf]? = some (.cells #[.bool false, .bool false, .int .i64 0] 27 (0, 0)) → ga ≠ gf → wpAnyH Try.prog .any o0 q0 (fun w' => w'.cell? ⟨g1 + 1, 0, none⟩ = some (.bool false)) 2 #[true, true, true, true, true, true, true, true, true, true, false, false] ({ tmps := (((((((a0.tmps.setIfInBounds 40 (.agg #[.int .i64 4096, .int .i64 1, .int .i64 2147483647, .int .i64 65535, .int .i64 16384, .int .i64 2147483647])).setIfInBounds 44 (.tuple #[.agg #[.int .i64 TY.table, .int .i64 TY.push, .int .i64 TY.streams, .int .i64 TY.window, .int .i64 TY.frame, .int .i64 TY.list], .agg #[.bool false, .bool false, .int .i64 0]])).setIfInBounds 39 (.tuple #[.agg #[.int .i64 TY.table, .int .i64 TY.push, .int .i64 TY.streams, .int .i64 TY.window, .int .i64 TY.frame, .int .i64 TY.list], .agg #[.bool false, .bool false, .int .i64 0]])).setIfInBounds 45 (.agg #[.int .i64 TY.table, .int .i64 TY.push, .int .i64 TY.streams, .int .i64 TY.window, .int .i64 TY.frame, .int .i64 TY.list])).setIfInBounds 46 (.agg #[.bool false, .bool false, .int .i64 0])).setIfInBounds 7 (.pointer (some ⟨ga, 0, none⟩))).setIfInBounds 8 (.pointer (some ⟨gf, 0, none⟩))), defers := [] } : Act) y) := Lib.hid (by
      intro y ga gf hb ga_0 ha gf_0 hf ne_ab
      rw [ho, hA0]
      simp only [List.setIfInBounds_toArray, List.set_cons_zero, List.set_cons_succ]
      have hHeld : (fun w' => w'.cell? ⟨g1 + 1, 0, none⟩ = some (.bool false)) y := (HKC4.out y hb)
      try dsimp only at hHeld
      refine wpAnyH_ready (rs := [10]) (by kernel_rfl) (by simp) ?_
      refine AllReadyH.cons rfl (fun K hK => ?_) AllReadyH.nil
      refine step_stS rfl (.tmp 7) (.tmp 45) rfl ga rfl _ _ _ _ _ _ rfl ha (fun yS hkS hrS => ?_)
      have hbS := hb.trans (hkS.below (fun k e => by omega) hb.size)
      have hfS := (hkS.block gf (lt_of_heapZ hf) (fun e => ne_ab e.symm)).trans hf
      refine hK.out _ _ (HKC4.out yS hbS) (fun hHeld => ?_)
      clear hK K
      refine wpAnyH_ready (rs := [11]) (by kernel_rfl) (by simp) ?_
      refine AllReadyH.cons rfl (fun K hK => ?_) AllReadyH.nil
      refine step_stF rfl (.tmp 8) (.tmp 46) rfl gf rfl _ _ _ rfl hfS (fun yT hkT hfT => ?_)
      have hbT := hbS.trans (hkT.below (fun k e => by omega) hbS.size)
      have hrT := (hkT.block ga (lt_of_heapZ hrS) (fun e => ne_ab e)).trans hrS
      refine hK.out _ _ (HKC4.out yT hbT) (fun hHeld => ?_)
      clear hK K
      refine wpAnyH_done (by kernel_rfl) ?_ _
      rw [hq0]
      go_wp2
      go_meet
      case rel => exact ⟨ga, gf, rfl, rfl, hrT, hfT, hbT⟩)
    have KFAa : Hid (∀ (y : World) (ga : Nat), Below w4.heap.size w4 y → w4.heap.size ≤ ga → y.heap[ga]? = some (.cells #[.int .i64 0, .int .i64 0, .int .i64 0, .int .i64 0, .int .i64 0, .int .i64 0] 23 (0, 0)) → wpAnyH Try.prog .any o0 q0 (fun w' => w'.cell? ⟨g1 + 1, 0, none⟩ = some (.bool false)) 3 #[true, true, true, true, true, true, true, true, true, false, false, false] ({ tmps := ((((((a0.tmps.setIfInBounds 40 (.agg #[.int .i64 4096, .int .i64 1, .int .i64 2147483647, .int .i64 65535, .int .i64 16384, .int .i64 2147483647])).setIfInBounds 44 (.tuple #[.agg #[.int .i64 TY.table, .int .i64 TY.push, .int .i64 TY.streams, .int .i64 TY.window, .int .i64 TY.frame, .int .i64 TY.list], .agg #[.bool false, .bool false, .int .i64 0]])).setIfInBounds 39 (.tuple #[.agg #[.int .i64 TY.table, .int .i64 TY.push, .int .i64 TY.streams, .int .i64 TY.window, .int .i64 TY.frame, .int .i64 TY.list], .agg #[.bool false, .bool false, .int .i64 0]])).setIfInBounds 45 (.agg #[.int .i64 TY.table, .int .i64 TY.push, .int .i64 TY.streams, .int .i64 TY.window, .int .i64 TY.frame, .int .i64 TY.list])).setIfInBounds 46 (.agg #[.bool false, .bool false, .int .i64 0])).setIfInBounds 7 (.pointer (some ⟨ga, 0, none⟩))), defers := [] } : Act) y) := Lib.hid (by
      intro y ga hb ga_0 ha
      rw [ho, hA0]
      simp only [List.setIfInBounds_toArray, List.set_cons_zero, List.set_cons_succ]
      have hHeld : (fun w' => w'.cell? ⟨g1 + 1, 0, none⟩ = some (.bool false)) y := (HKC4.out y hb)
      try dsimp only at hHeld
      refine wpAnyH_ready (rs := [9]) (by kernel_rfl) (by simp) ?_
      refine AllReadyH.cons rfl (fun K hK => ?_) ?_
      · refine step_bF rfl rfl (fun gf y' hgf hx hf' => ?_)
        have gf_0 : w4.heap.size ≤ gf := by have := hb.size; omega
        have hb' := hb.trans (hx.mono hb.size)
        have ne_ab : ga ≠ gf := by have := lt_of_heapZ ha; omega
        clear hgf
        have ha' := (hx.block ga (lt_of_heapZ ha)).trans ha
        refine hK.out _ _ (HKC4.out y' hb') (fun hHeld => ?_)
        clear hK K
        exact held_asZ ho (by kernel_rfl) (by rw [hA0]; kernel_rfl) (KFAab.out _ ga gf hb' ga_0 ha' gf_0 hf' ne_ab)
      exact AllReadyH.nil)
    have KFAb : Hid (∀ (y : World) (gf : Nat), Below w4.heap.size w4 y → w4.heap.size ≤ gf → y.heap[gf]? = some (.cells #[.bool false, .bool false, .int .i64 0] 27 (0, 0)) → wpAnyH Try.prog .any o0 q0 (fun w' => w'.cell? ⟨g1 + 1, 0, none⟩ = some (.bool false)) 3 #[true, true, true, true, true, true, true, true, false, true, false, false] ({ tmps := ((((((a0.tmps.setIfInBounds 40 (.agg #[.int .i64 4096, .int .i64 1, .int .i64 2147483647, .int .i64 65535, .int .i64 16384, .int .i64 2147483647])).setIfInBounds 44 (.tuple #[.agg #[.int .i64 TY.table, .int .i64 TY.push, .int .i64 TY.streams, .int .i64 TY.window, .int .i64 TY.frame, .int .i64 TY.list], .agg #[.bool false, .bool false, .int .i64 0]])).setIfInBounds 39 (.tuple #[.agg #[.int .i64 TY.table, .int .i64 TY.push, .int .i64 TY.streams, .int .i64 TY.window, .int .i64 TY.frame, .int .i64 TY.list], .agg #[.bool false, .bool false, .int .i64 0]])).setIfInBounds 45 (.agg #[.int .i64 TY.table, .int .i64 TY.push, .int .i64 TY.streams, .int .i64 TY.window, .int .i64 TY.frame, .int .i64 TY.list])).setIfInBounds 46 (.agg #[.bool false, .bool false, .int .i64 0])).setIfInBounds 8 (.pointer (some ⟨gf, 0, none⟩))), defers := [] } : Act) y) := Lib.hid (by
      intro y gf hb gf_0 hf
      rw [ho, hA0]
      simp only [List.setIfInBounds_toArray, List.set_cons_zero, List.set_cons_succ]
      have hHeld : (fun w' => w'.cell? ⟨g1 + 1, 0, none⟩ = some (.bool false)) y := (HKC4.out y hb)
      try dsimp only at hHeld
      refine wpAnyH_ready (rs := [8]) (by kernel_rfl) (by simp) ?_
      refine AllReadyH.cons rfl (fun K hK => ?_) ?_
      · refine step_aS rfl rfl (fun ga y' hga hx ha' => ?_)
        have ga_0 : w4.heap.size ≤ ga := by have := hb.size; omega
        have hb' := hb.trans (hx.mono hb.size)
        have ne_ab : ga ≠ gf := by have := lt_of_heapZ hf; omega
        clear hga
        have hf' := (hx.block gf (lt_of_heapZ hf)).trans hf
        refine hK.out _ _ (HKC4.out y' hb') (fun hHeld => ?_)
        clear hK K
        exact held_asZ ho (by kernel_rfl) (by rw [hA0]; kernel_rfl) (KFAab.out _ ga gf hb' ga_0 ha' gf_0 hf' ne_ab)
      exact AllReadyH.nil)
    have KFab : Hid (∀ (y : World) (ga : Nat) (gf : Nat), Below w4.heap.size w4 y → w4.heap.size ≤ ga → y.heap[ga]? = some (.cells #[.int .i64 0, .int .i64 0, .int .i64 0, .int .i64 0, .int .i64 0, .int .i64 0] 23 (0, 0)) → w4.heap.size ≤ gf → y.heap[gf]? = some (.cells #[.bool false, .bool false, .int .i64 0] 27 (0, 0)) → ga ≠ gf → wpAnyH Try.prog .any o0 q0 (fun w' => w'.cell? ⟨g1 + 1, 0, none⟩ = some (.bool false)) 6 #[true, true, true, true, false, false, false, false, true, true, false, false] ({ tmps := (((a0.tmps.setIfInBounds 40 (.agg #[.int .i64 4096, .int .i64 1, .int .i64 2147483647, .int .i64 65535, .int .i64 16384, .int .i64 2147483647])).setIfInBounds 7 (.pointer (some ⟨ga, 0, none⟩))).setIfInBounds 8 (.pointer (some ⟨gf, 0, none⟩))), defers := [] } : Act) y) := Lib.hid (by
      intro y ga gf hb ga_0 ha gf_0 hf ne_ab
      rw [ho, hA0]
      simp only [List.setIfInBounds_toArray, List.set_cons_zero, List.set_cons_succ]
      have hHeld : (fun w' => w'.cell? ⟨g1 + 1, 0, none⟩ = some (.bool false)) y := (HKC4.out y hb)
      try dsimp only at hHeld
      refine wpAnyH_ready (rs := [4]) (by kernel_rfl) (by simp) ?_
      refine AllReadyH.cons rfl (fun K hK => ?_) ?_
      · go_simp
        with_reducible refine (HAY4.out y hb).mono ?_
        rintro e y' ⟨rfl, hx⟩
        have hb' := hb.trans (hx.mono hb.size)
        have ha' := (hx.block ga (lt_of_heapZ ha)).trans ha
        have hf' := (hx.block gf (lt_of_heapZ hf)).trans hf
        refine hK.out _ _ (HKC4.out y' hb') (fun hHeld => ?_)
        clear hK K
        refine wpAnyH_take (i := 5) (v := ?_) rfl (by kernel_rfl) (by kernel_rfl) (by kernel_rfl) (fun _ _ _ h => HQP.out _ _ _ _ _ h) (Or.inl ⟨by rfl, ?_⟩) hHeld ?_
        rotate_left
        · intro w hSw
          try dsimp only at hSw
          go_simp
          try with_reducible rfl
        change wpAnyH _ _ _ _ _ _ _ (Act.put _ (some 39) _) _
        simp only [Act.put, List.setIfInBounds_toArray, List.set_cons_zero, List.set_cons_succ]
        refine wpAnyH_take (i := 6) (v := ?_) rfl (by kernel_rfl) (by kernel_rfl) (by kernel_rfl) (fun _ _ _ h => HQP.out _ _ _ _ _ h) (Or.inl ⟨by rfl, ?_⟩) hHeld ?_
        rotate_left
        · intro w hSw
          try dsimp only at hSw
          go_simp
          try with_reducible rfl
        change wpAnyH _ _ _ _ _ _ _ (Act.put _ (some 45) _) _
        simp only [Act.put, List.setIfInBounds_toArray, List.set_cons_zero, List.set_cons_succ]
        refine wpAnyH_take (i := 7) (v := ?_) rfl (by kernel_rfl) (by kernel_rfl) (by kernel_rfl) (fun _ _ _ h => HQP.out _ _ _ _ _ h) (Or.inl ⟨by rfl, ?_⟩) hHeld ?_
        rotate_left
        · intro w hSw
          try dsimp only at hSw
          go_simp
          try with_reducible rfl
        change wpAnyH _ _ _ _ _ _ _ (Act.put _ (some 46) _) _
        simp only [Act.put, List.setIfInBounds_toArray, List.set_cons_zero, List.set_cons_succ]
        exact held_asZ ho (by kernel_rfl) (by rw [hA0]; kernel_rfl) (KFAab.out _ ga gf hb' ga_0 ha' gf_0 hf' ne_ab)
      exact AllReadyH.nil)
    have KFA : Hid (∀ (y : World), Below w4.heap.size w4 y → wpAnyH Try.prog .any o0 q0 (fun w' => w'.cell? ⟨g1 + 1, 0, none⟩ = some (.bool false)) 4 #[true, true, true, true, true, true, true, true, false, false, false, false] ({ tmps := (((((a0.tmps.setIfInBounds 40 (.agg #[.int .i64 4096, .int .i64 1, .int .i64 2147483647, .int .i64 65535, .int .i64 16384, .int .i64 2147483647])).setIfInBounds 44 (.tuple #[.agg #[.int .i64 TY.table, .int .i64 TY.push, .int .i64 TY.streams, .int .i64 TY.window, .int .i64 TY.frame, .int .i64 TY.list], .agg #[.bool false, .bool false, .int .i64 0]])).setIfInBounds 39 (.tuple #[.agg #[.int .i64 TY.table, .int .i64 TY.push, .int .i64 TY.streams, .int .i64 TY.window, .int .i64 TY.frame, .int .i64 TY.list], .agg #[.bool false, .bool false, .int .i64 0]])).setIfInBounds 45 (.agg #[.int .i64 TY.table, .int .i64 TY.push, .int .i64 TY.streams, .int .i64 TY.window, .int .i64 TY.frame, .int .i64 TY.list])).setIfInBounds 46 (.agg #[.bool false, .bool false, .int .i64 0])), defers := [] } : Act) y) := Lib.hid (by
      intro y  hb
      rw [ho, hA0]
      simp only [List.setIfInBounds_toArray, List.set_cons_zero, List.set_cons_succ]
      have hHeld : (fun w' => w'.cell? ⟨g1 + 1, 0, none⟩ = some (.bool false)) y := (HKC4.out y hb)
      try dsimp only at hHeld
      refine wpAnyH_ready (rs := [8, 9]) (by kernel_rfl) (by simp) ?_
      refine AllReadyH.cons rfl (fun K hK => ?_) ?_
      · refine step_aS rfl rfl (fun ga y' hga hx ha' => ?_)
        have ga_0 : w4.heap.size ≤ ga := by have := hb.size; omega
        have hb' := hb.trans (hx.mono hb.size)
        clear hga
        refine hK.out _ _ (HKC4.out y' hb') (fun hHeld => ?_)
        clear hK K
        exact held_asZ ho (by kernel_rfl) (by rw [hA0]; kernel_rfl) (KFAa.out _ ga hb' ga_0 ha')
      refine AllReadyH.cons rfl (fun K hK => ?_) ?_
      · refine step_bF rfl rfl (fun gf y' hgf hx hf' => ?_)
        have gf_0 : w4.heap.size ≤ gf := by have := hb.size; omega
        have hb' := hb.trans (hx.mono hb.size)
        clear hgf
        refine hK.out _ _ (HKC4.out y' hb') (fun hHeld => ?_)
        clear hK K
        exact held_asZ ho (by kernel_rfl) (by rw [hA0]; kernel_rfl) (KFAb.out _ gf hb' gf_0 hf')
      exact AllReadyH.nil)
    have KFa : Hid (∀ (y : World) (ga : Nat), Below w4.heap.size w4 y → w4.heap.size ≤ ga → y.heap[ga]? = some (.cells #[.int .i64 0, .int .i64 0, .int .i64 0, .int .i64 0, .int .i64 0, .int .i64 0] 23 (0, 0)) → wpAnyH Try.prog .any o0 q0 (fun w' => w'.cell? ⟨g1 + 1, 0, none⟩ = some (.bool false)) 7 #[true, true, true, true, false, false, false, false, true, false, false, false] ({ tmps := ((a0.tmps.setIfInBounds 40 (.agg #[.int .i64 4096, .int .i64 1, .int .i64 2147483647, .int .i64 65535, .int .i64 16384, .int .i64 2147483647])).setIfInBounds 7 (.pointer (some ⟨ga, 0, none⟩))), defers := [] } : Act) y) := Lib.hid (by
      intro y ga hb ga_0 ha
      rw [ho, hA0]
      simp only [List.setIfInBounds_toArray, List.set_cons_zero, List.set_cons_succ]
      have hHeld : (fun w' => w'.cell? ⟨g1 + 1, 0, none⟩ = some (.bool false)) y := (HKC4.out y hb)
      try dsimp only at hHeld
      refine wpAnyH_ready (rs := [4, 9]) (by kernel_rfl) (by simp) ?_
      refine AllReadyH.cons rfl (fun K hK => ?_) ?_
      · go_simp
        with_reducible refine (HAY4.out y hb).mono ?_
        rintro e y' ⟨rfl, hx⟩
        have hb' := hb.trans (hx.mono hb.size)
        have ha' := (hx.block ga (lt_of_heapZ ha)).trans ha
        refine hK.out _ _ (HKC4.out y' hb') (fun hHeld => ?_)
        clear hK K
        refine wpAnyH_take (i := 5) (v := ?_) rfl (by kernel_rfl) (by kernel_rfl) (by kernel_rfl) (fun _ _ _ h => HQP.out _ _ _ _ _ h) (Or.inl ⟨by rfl, ?_⟩) hHeld ?_
        rotate_left
        · intro w hSw
          try dsimp only at hSw
          go_simp
          try with_reducible rfl
        change wpAnyH _ _ _ _ _ _ _ (Act.put _ (some 39) _) _
        simp only [Act.put, List.setIfInBounds_toArray, List.set_cons_zero, List.set_cons_succ]
        refine wpAnyH_take (i := 6) (v := ?_) rfl (by kernel_rfl) (by kernel_rfl) (by kernel_rfl) (fun _ _ _ h => HQP.out _ _ _ _ _ h) (Or.inl ⟨by rfl, ?_⟩) hHeld ?_
        rotate_left
        · intro w hSw
          try dsimp only at hSw
          go_simp
          try with_reducible rfl
        change wpAnyH _ _ _ _ _ _ _ (Act.put _ (some 45) _) _
        simp only [Act.put, List.setIfInBounds_toArray, List.set_cons_zero, List.set_cons_succ]
        refine wpAnyH_take (i := 7) (v := ?_) rfl (by kernel_rfl) (by kernel_rfl) (by kernel_rfl) (fun _ _ _ h => HQP.out _ _ _ _ _ h) (Or.inl ⟨by rfl, ?_⟩) hHeld ?_
        rotate_left
        · intro w hSw
          try dsimp only at hSw
          go_simp
          try with_reducible rfl
        change wpAnyH _ _ _ _ _ _ _ (Act.put _ (some 46) _) _
        simp only [Act.put, List.setIfInBounds_toArray, List.set_cons_zero, List.set_cons_succ]
        exact held_asZ ho (by kernel_rfl) (by rw [hA0]; kernel_rfl) (KFAa.out _ ga hb' ga_0 ha')
      refine AllReadyH.cons rfl (fun K hK => ?_) ?_
      · refine step_bF rfl rfl (fun gf y' hgf hx hf' => ?_)
        have gf_0 : w4.heap.size ≤ gf := by have := hb.size; omega
        have hb' := hb.trans (hx.mono hb.size)
        have ne_ab : ga ≠ gf := by have := lt_of_heapZ ha; omega
        clear hgf
        have ha' := (hx.block ga (lt_of_heapZ ha)).trans ha
        refine hK.out _ _ (HKC4.out y' hb') (fun hHeld => ?_)
        clear hK K
        exact held_asZ ho (by kernel_rfl) (by rw [hA0]; kernel_rfl) (KFab.out _ ga gf hb' ga_0 ha' gf_0 hf' ne_ab)
      exact AllReadyH.nil)
    have KFb : Hid (∀ (y : World) (gf : Nat), Below w4.heap.size w4 y → w4.heap.size ≤ gf → y.heap[gf]? = some (.cells #[.bool false, .bool false, .int .i64 0] 27 (0, 0)) → wpAnyH Try.prog .any o0 q0 (fun w' => w'.cell? ⟨g1 + 1, 0, none⟩ = some (.bool false)) 7 #[true, true, true, true, false, false, false, false, false, true, false, false] ({ tmps := ((a0.tmps.setIfInBounds 40 (.agg #[.int .i64 4096, .int .i64 1, .int .i64 2147483647, .int .i64 65535, .int .i64 16384, .int .i64 2147483647])).setIfInBounds 8 (.pointer (some ⟨gf, 0, none⟩))), defers := [] } : Act) y) := Lib.hid (by
      intro y gf hb gf_0 hf
      rw [ho, hA0]
      simp only [List.setIfInBounds_toArray, List.set_cons_zero, List.set_cons_succ]
      have hHeld : (fun w' => w'.cell? ⟨g1 + 1, 0, none⟩ = some (.bool false)) y := (HKC4.out y hb)
      try dsimp only at hHeld
      refine wpAnyH_ready (rs := [4, 8]) (by kernel_rfl) (by simp) ?_
      refine AllReadyH.cons rfl (fun K hK => ?_) ?_
      · go_simp
        with_reducible refine (HAY4.out y hb).mono ?_
        rintro e y' ⟨rfl, hx⟩
        have hb' := hb.trans (hx.mono hb.size)
        have hf' := (hx.block gf (lt_of_heapZ hf)).trans hf
        refine hK.out _ _ (HKC4.out y' hb') (fun hHeld => ?_)
        clear hK K
        refine wpAnyH_take (i := 5) (v := ?_) rfl (by kernel_rfl) (by kernel_rfl) (by kernel_rfl) (fun _ _ _ h => HQP.out _ _ _ _ _ h) (Or.inl ⟨by rfl, ?_⟩) hHeld ?_
        rotate_left
        · intro w hSw
          try dsimp only at hSw
          go_simp
          try with_reducible rfl
        change wpAnyH _ _ _ _ _ _ _ (Act.put _ (some 39) _) _
        simp only [Act.put, List.setIfInBounds_toArray, List.set_cons_zero, List.set_cons_succ]
        refine wpAnyH_take (i := 6) (v := ?_) rfl (by kernel_rfl) (by kernel_rfl) (by kernel_rfl) (fun _ _ _ h => HQP.out _ _ _ _ _ h) (Or.inl ⟨by rfl, ?_⟩) hHeld ?_
        rotate_left
        · intro w hSw
          try dsimp only at hSw
          go_simp
          try with_reducible rfl
        change wpAnyH _ _ _ _ _ _ _ (Act.put _ (some 45) _) _
        simp only [Act.put, List.setIfInBounds_toArray, List.set_cons_zero, List.set_cons_succ]
        refine wpAnyH_take (i := 7) (v := ?_) rfl (by kernel_rfl) (by kernel_rfl) (by kernel_rfl) (fun _ _ _ h => HQP.out _ _ _ _ _ h) (Or.inl ⟨by rfl, ?_⟩) hHeld ?_
        rotate_left
        · intro w hSw
          try dsimp only at hSw
          go_simp
          try with_reducible rfl
        change wpAnyH _ _ _ _ _ _ _ (Act.put _ (some 46) _) _
        simp only [Act.put, List.setIfInBounds_toArray, List.set_cons_zero, List.set_cons_succ]
        exact held_asZ ho (by kernel_rfl) (by rw [hA0]; kernel_rfl) (KFAb.out _ gf hb' gf_0 hf')
      refine AllReadyH.cons rfl (fun K hK => ?_) ?_
      · refine step_aS rfl rfl (fun ga y' hga hx ha' => ?_)
        have ga_0 : w4.heap.size ≤ ga := by have := hb.size; omega
        have hb' := hb.trans (hx.mono hb.size)
        have ne_ab : ga ≠ gf := by have := lt_of_heapZ hf; omega
        clear hga
        have hf' := (hx.block gf (lt_of_heapZ hf)).trans hf
        refine hK.out _ _ (HKC4.out y' hb') (fun hHeld => ?_)
        clear hK K
        exact held_asZ ho (by kernel_rfl) (by rw [hA0]; kernel_rfl) (KFab.out _ ga gf hb' ga_0 ha' gf_0 hf' ne_ab)
      exact AllReadyH.nil)
    have Kab : Hid (∀ (y : World) (ga : Nat) (gf : Nat), Below w4.heap.size w4 y → w4.heap.size ≤ ga → y.heap[ga]? = some (.cells #[.int .i64 0, .int .i64 0, .int .i64 0, .int .i64 0, .int .i64 0, .int .i64 0] 23 (0, 0)) → w4.heap.size ≤ gf → y.heap[gf]? = some (.cells #[.bool false, .bool false, .int .i64 0] 27 (0, 0)) → ga ≠ gf → wpAnyH Try.prog .any o0 q0 (fun w' => w'.cell? ⟨g1 + 1, 0, none⟩ = some (.bool false)) 7 #[false, true, true, true, false, false, false, false, true, true, false, false] ({ tmps := ((a0.tmps.setIfInBounds 7 (.pointer (some ⟨ga, 0, none⟩))).setIfInBounds 8 (.pointer (some ⟨gf, 0, none⟩))), defers := [] } : Act) y) := Lib.hid (by
      intro y ga gf hb ga_0 ha gf_0 hf ne_ab
      rw [ho, hA0]
      simp only [List.setIfInBounds_toArray, List.set_cons_zero, List.set_cons_succ]
      have hHeld : (fun w' => w'.cell? ⟨g1 + 1, 0, none⟩ = some (.bool false)) y := (HKC4.out y hb)
      try dsimp only at hHeld
      refine wpAnyH_ready (rs := [0]) (by kernel_rfl) (by simp) ?_
      refine AllReadyH.cons rfl (fun K hK => ?_) ?_
      · go_simp
        with_reducible refine (HFI.out y).mono ?_
        rintro e y' ⟨rfl, hx⟩
        have hb' := hb.trans (hx.mono hb.size)
        have ha' := (hx.block ga (lt_of_heapZ ha)).trans ha
        have hf' := (hx.block gf (lt_of_heapZ hf)).trans hf
        refine hK.out _ _ (HKC4.out y' hb') (fun hHeld => ?_)
        clear hK K
        exact held_asZ ho (by kernel_rfl) (by rw [hA0]; kernel_rfl) (KFab.out _ ga gf hb' ga_0 ha' gf_0 hf' ne_ab)
      exact AllReadyH.nil)
    have KF : Hid (∀ (y : World), Below w4.heap.size w4 y → wpAnyH Try.prog .any o0 q0 (fun w' => w'.cell? ⟨g1 + 1, 0, none⟩ = some (.bool false)) 8 #[true, true, true, true, false, false, false, false, false, false, false, false] ({ tmps := (a0.tmps.setIfInBounds 40 (.agg #[.int .i64 4096, .int .i64 1, .int .i64 2147483647, .int .i64 65535, .int .i64 16384, .int .i64 2147483647])), defers := [] } : Act) y) := Lib.hid (by
      intro y  hb
      rw [ho, hA0]
      simp only [List.setIfInBounds_toArray, List.set_cons_zero, List.set_cons_succ]
      have hHeld : (fun w' => w'.cell? ⟨g1 + 1, 0, none⟩ = some (.bool false)) y := (HKC4.out y hb)
      try dsimp only at hHeld
      refine wpAnyH_ready (rs := [4, 8, 9]) (by kernel_rfl) (by simp) ?_
      refine AllReadyH.cons rfl (fun K hK => ?_) ?_
      · go_simp
        with_reducible refine (HAY4.out y hb).mono ?_
        rintro e y' ⟨rfl, hx⟩
        have hb' := hb.trans (hx.mono hb.size)
        refine hK.out _ _ (HKC4.out y' hb') (fun hHeld => ?_)
        clear hK K
        refine wpAnyH_take (i := 5) (v := ?_) rfl (by kernel_rfl) (by kernel_rfl) (by kernel_rfl) (fun _ _ _ h => HQP.out _ _ _ _ _ h) (Or.inl ⟨by rfl, ?_⟩) hHeld ?_
        rotate_left
        · intro w hSw
          try dsimp only at hSw
          go_simp
          try with_reducible rfl
        change wpAnyH _ _ _ _ _ _ _ (Act.put _ (some 39) _) _
        simp only [Act.put, List.setIfInBounds_toArray, List.set_cons_zero, List.set_cons_succ]
        refine wpAnyH_take (i := 6) (v := ?_) rfl (by kernel_rfl) (by kernel_rfl) (by kernel_rfl) (fun _ _ _ h => HQP.out _ _ _ _ _ h) (Or.inl ⟨by rfl, ?_⟩) hHeld ?_
        rotate_left
        · intro w hSw
          try dsimp only at hSw
          go_simp
          try with_reducible rfl
        change wpAnyH _ _ _ _ _ _ _ (Act.put _ (some 45) _) _
        simp only [Act.put, List.setIfInBounds_toArray, List.set_cons_zero, List.set_cons_succ]
        refine wpAnyH_take (i := 7) (v := ?_) rfl (by kernel_rfl) (by kernel_rfl) (by kernel_rfl) (fun _ _ _ h => HQP.out _ _ _ _ _ h) (Or.inl ⟨by rfl, ?_⟩) hHeld ?_
        rotate_left
        · intro w hSw
          try dsimp only at hSw
          go_simp
          try with_reducible rfl
        change wpAnyH _ _ _ _ _ _ _ (Act.put _ (some 46) _) _
        simp only [Act.put, List.setIfInBounds_toArray, List.set_cons_zero, List.set_cons_succ]
        exact held_asZ ho (by kernel_rfl) (by rw [hA0]; kernel_rfl) (KFA.out _  hb')
      refine AllReadyH.cons rfl (fun K hK => ?_) ?_
      · refine step_aS rfl rfl (fun ga y' hga hx ha' => ?_)
        have ga_0 : w4.heap.size ≤ ga := by have := hb.size; omega
        have hb' := hb.trans (hx.mono hb.size)
        clear hga
        refine hK.out _ _ (HKC4.out y' hb') (fun hHeld => ?_)
        clear hK K
        exact held_asZ ho (by kernel_rfl) (by rw [hA0]; kernel_rfl) (KFa.out _ ga hb' ga_0 ha')
      refine AllReadyH.cons rfl (fun K hK => ?_) ?_
      · refine step_bF rfl rfl (fun gf y' hgf hx hf' => ?_)
        have gf_0 : w4.heap.size ≤ gf := by have := hb.size; omega
        have hb' := hb.trans (hx.mono hb.size)
        clear hgf
        refine hK.out _ _ (HKC4.out y' hb') (fun hHeld => ?_)
        clear hK K
        exact held_asZ ho (by kernel_rfl) (by rw [hA0]; kernel_rfl) (KFb.out _ gf hb' gf_0 hf')
      exact AllReadyH.nil)
    have Ka : Hid (∀ (y : World) (ga : Nat), Below w4.heap.size w4 y → w4.heap.size ≤ ga → y.heap[ga]? = some (.cells #[.int .i64 0, .int .i64 0, .int .i64 0, .int .i64 0, .int .i64 0, .int .i64 0] 23 (0, 0)) → wpAnyH Try.prog .any o0 q0 (fun w' => w'.cell? ⟨g1 + 1, 0, none⟩ = some (.bool false)) 8 #[false, true, true, true, false, false, false, false, true, false, false, false] ({ tmps := (a0.tmps.setIfInBounds 7 (.pointer (some ⟨ga, 0, none⟩))), defers := [] } : Act) y) := Lib.hid (by
      intro y ga hb ga_0 ha
      rw [ho, hA0]
      simp only [List.setIfInBounds_toArray, List.set_cons_zero, List.set_cons_succ]
      have hHeld : (fun w' => w'.cell? ⟨g1 + 1, 0, none⟩ = some (.bool false)) y := (HKC4.out y hb)
      try dsimp only at hHeld
      refine wpAnyH_ready (rs := [0, 9]) (by kernel_rfl) (by simp) ?_
      refine AllReadyH.cons rfl (fun K hK => ?_) ?_
      · go_simp
        with_reducible refine (HFI.out y).mono ?_
        rintro e y' ⟨rfl, hx⟩
        have hb' := hb.trans (hx.mono hb.size)
        have ha' := (hx.block ga (lt_of_heapZ ha)).trans ha
        refine hK.out _ _ (HKC4.out y' hb') (fun hHeld => ?_)
        clear hK K
        exact held_asZ ho (by kernel_rfl) (by rw [hA0]; kernel_rfl) (KFa.out _ ga hb' ga_0 ha')
      refine AllReadyH.cons rfl (fun K hK => ?_) ?_
      · refine step_bF rfl rfl (fun gf y' hgf hx hf' => ?_)
        have gf_0 : w4.heap.size ≤ gf := by have := hb.size; omega
        have hb' := hb.trans (hx.mono hb.size)
        have ne_ab : ga ≠ gf := by have := lt_of_heapZ ha; omega
        clear hgf
        have ha' := (hx.block ga (lt_of_heapZ ha)).trans ha
        refine hK.out _ _ (HKC4.out y' hb') (fun hHeld => ?_)
        clear hK K
        exact held_asZ ho (by kernel_rfl) (by rw [hA0]; kernel_rfl) (Kab.out _ ga gf hb' ga_0 ha' gf_0 hf' ne_ab)
      exact AllReadyH.nil)
    have Kb : Hid (∀ (y : World) (gf : Nat), Below w4.heap.size w4 y → w4.heap.size ≤ gf → y.heap[gf]? = some (.cells #[.bool false, .bool false, .int .i64 0] 27 (0, 0)) → wpAnyH Try.prog .any o0 q0 (fun w' => w'.cell? ⟨g1 + 1, 0, none⟩ = some (.bool false)) 8 #[false, true, true, true, false, false, false, false, false, true, false, false] ({ tmps := (a0.tmps.setIfInBounds 8 (.pointer (some ⟨gf, 0, none⟩))), defers := [] } : Act) y) := Lib.hid (by
      intro y gf hb gf_0 hf
      rw [ho, hA0]
      simp only [List.setIfInBounds_toArray, List.set_cons_zero, List.set_cons_succ]
      have hHeld : (fun w' => w'.cell? ⟨g1 + 1, 0, none⟩ = some (.bool false)) y := (HKC4.out y hb)
      try dsimp only at hHeld
      refine wpAnyH_ready (rs := [0, 8]) (by kernel_rfl) (by simp) ?_
      refine AllReadyH.cons rfl (fun K hK => ?_) ?_
      · go_simp
        with_reducible refine (HFI.out y).mono ?_
        rintro e y' ⟨rfl, hx⟩
        have hb' := hb.trans (hx.mono hb.size)
        have hf' := (hx.block gf (lt_of_heapZ hf)).trans hf
        refine hK.out _ _ (HKC4.out y' hb') (fun hHeld => ?_)
        clear hK K
        exact held_asZ ho (by kernel_rfl) (by rw [hA0]; kernel_rfl) (KFb.out _ gf hb' gf_0 hf')
      refine AllReadyH.cons rfl (fun K hK => ?_) ?_
      · refine step_aS rfl rfl (fun ga y' hga hx ha' => ?_)
        have ga_0 : w4.heap.size ≤ ga := by have := hb.size; omega
        have hb' := hb.trans (hx.mono hb.size)
        have ne_ab : ga ≠ gf := by have := lt_of_heapZ hf; omega
        clear hga
        have hf' := (hx.block gf (lt_of_heapZ hf)).trans hf
        refine hK.out _ _ (HKC4.out y' hb') (fun hHeld => ?_)
        clear hK K
        exact held_asZ ho (by kernel_rfl) (by rw [hA0]; kernel_rfl) (Kab.out _ ga gf hb' ga_0 ha' gf_0 hf' ne_ab)
      exact AllReadyH.nil)
    have K : Hid (∀ (y : World), Below w4.heap.size w4 y → wpAnyH Try.prog .any o0 q0 (fun w' => w'.cell? ⟨g1 + 1, 0, none⟩ = some (.bool false)) 9 #[false, true, true, true, false, false, false, false, false, false, false, false] (a0 : Act) y) := Lib.hid (by
      intro y  hb
      rw [ho, hA0]
      have hHeld : (fun w' => w'.cell? ⟨g1 + 1, 0, none⟩ = some (.bool false)) y := (HKC4.out y hb)
      try dsimp only at hHeld
      refine wpAnyH_ready (rs := [0, 8, 9]) (by kernel_rfl) (by simp) ?_
      refine AllReadyH.cons rfl (fun K hK => ?_) ?_
      · go_simp
        with_reducible refine (HFI.out y).mono ?_
        rintro e y' ⟨rfl, hx⟩
        have hb' := hb.trans (hx.mono hb.size)
        refine hK.out _ _ (HKC4.out y' hb') (fun hHeld => ?_)
        clear hK K
        exact held_asZ ho (by kernel_rfl) (by rw [hA0]; kernel_rfl) (KF.out _  hb')
      refine AllReadyH.cons rfl (fun K hK => ?_) ?_
      · refine step_aS rfl rfl (fun ga y' hga hx ha' => ?_)
        have ga_0 : w4.heap.size ≤ ga := by have := hb.size; omega
        have hb' := hb.trans (hx.mono hb.size)
        clear hga
        refine hK.out _ _ (HKC4.out y' hb') (fun hHeld => ?_)
        clear hK K
        exact held_asZ ho (by kernel_rfl) (by rw [hA0]; kernel_rfl) (Ka.out _ ga hb' ga_0 ha')
      refine AllReadyH.cons rfl (fun K hK => ?_) ?_
      · refine step_bF rfl rfl (fun gf y' hgf hx hf' => ?_)
        have gf_0 : w4.heap.size ≤ gf := by have := hb.size; omega
        have hb' := hb.trans (hx.mono hb.size)
        clear hgf
        refine hK.out _ _ (HKC4.out y' hb') (fun hHeld => ?_)
        clear hK K
        exact held_asZ ho (by kernel_rfl) (by rw [hA0]; kernel_rfl) (Kb.out _ gf hb' gf_0 hf')
      exact AllReadyH.nil)
    exact held_asZ rfl (by kernel_rfl) rfl (K.out y0 hb0)
  case rest =>
  obtain ⟨ga, gf, rfl, rfl, hz1, hz2, hb5⟩ := hcut
  rename_i hKK
  refine hKK _ _ ?_
  clear hKK
  obtain ⟨w5, hw5⟩ : ∃ w6, w6 = wc := ⟨_, rfl⟩
  subst hw5
  have HB5 := Lib.hid (HB4.out.trans (hb5.mono HB4.out.size))
  have HX5 := Lib.hid (HK4.out.up hb5)
  have HYS := Lib.hid hz1
  have HYF := Lib.hid hz2
  have b0 : w5.cell? ⟨gf, 0, none⟩ = some (.bool false) := cell_of_row _ gf 0 _ 27 _ HYF.out
  have HAZ5 : Hid (∀ W, Below w5.heap.size w5 W → Calls Try.prog 8 #[.agg #[.int .i64 TY.table, .int .i64 TY.push, .int .i64 TY.streams, .int .i64 TY.window, .int .i64 TY.frame, .int .i64 TY.list], .slice (cutS A c p) r (c - p)] W fun e w' => e = .returned (.tuple #[.agg #[.int .i64 TX.table, .int .i64 TX.push, .int .i64 TX.streams, .int .i64 TX.window, .int .i64 TX.frame, .int .i64 TX.list], .agg #[.bool false, .bool false, .int .i64 0]]) ∧ Below W.heap.size W w') := Lib.hid (fun W h => HAZ.out W (HB5.out.trans (h.mono HB5.out.size)))
  have HKS5 : Hid (∀ W, Below w5.heap.size w5 W → W.cell? ⟨ga, 0, none⟩ = some (.int .i64 TY.table) ∧ W.cell? ⟨ga, 1, none⟩ = some (.int .i64 TY.push) ∧ W.cell? ⟨ga, 2, none⟩ = some (.int .i64 TY.streams) ∧ W.cell? ⟨ga, 3, none⟩ = some (.int .i64 TY.window) ∧ W.cell? ⟨ga, 4, none⟩ = some (.int .i64 TY.frame) ∧ W.cell? ⟨ga, 5, none⟩ = some (.int .i64 TY.list)) := Lib.hid (fun W h => by
    have h2 := (h.block ga (lt_of_heapZ HYS.out)).trans HYS.out
    exact ⟨cell_of_row _ ga 0 _ 23 _ h2, cell_of_row _ ga 1 _ 23 _ h2, cell_of_row _ ga 2 _ 23 _ h2, cell_of_row _ ga 3 _ 23 _ h2, cell_of_row _ ga 4 _ 23 _ h2, cell_of_row _ ga 5 _ 23 _ h2⟩)
  clear hz1 hz2 hb5 HAX HAY HAY4 HAZ HKC4
  go_wp2_with fail
  clear b0
  go_cut [9, 10] (fun x y wx => ∃ gc gz, x = .pointer (some ⟨gc, 0, none⟩) ∧ y = .pointer (some ⟨gz, 0, none⟩) ∧ wx.heap[gc]? = some (.cells #[.int .i64 TX.table, .int .i64 TX.push, .int .i64 TX.streams, .int .i64 TX.window, .int .i64 TX.frame, .int .i64 TX.list] 23 (0, 0)) ∧ wx.heap[gz]? = some (.cells #[.bool false, .bool false, .int .i64 0] 27 (0, 0)) ∧ Below w5.heap.size w5 wx)
  case first =>
    refine wp_region_held_drew (S := fun w' => w'.cell? ⟨ga, 0, none⟩ = some (.int .i64 TY.table) ∧ w'.cell? ⟨ga, 1, none⟩ = some (.int .i64 TY.push) ∧ w'.cell? ⟨ga, 2, none⟩ = some (.int .i64 TY.streams) ∧ w'.cell? ⟨ga, 3, none⟩ = some (.int .i64 TY.window) ∧ w'.cell? ⟨ga, 4, none⟩ = some (.int .i64 TY.frame) ∧ w'.cell? ⟨ga, 5, none⟩ = some (.int .i64 TY.list)) (by kernel_rfl) (HKS5.out _ (Below.refl _ _).drew) (fun hHeld => ?_)
    have hb0 : Below w5.heap.size w5 w5.drew := (Below.refl _ _).drew
    obtain ⟨y0, hy0⟩ : ∃ y0, y0 = w5.drew := ⟨_, rfl⟩
    rw [← hy0] at hb0 hHeld ⊢
    clear hy0
    refine wpAnyH_take (i := 0) (v := ?_) rfl (by kernel_rfl) (by kernel_rfl) (by kernel_rfl) (fun _ _ _ h => h) (Or.inl ⟨by rfl, ?_⟩) hHeld ?_
    rotate_left
    · intro w hSw
      obtain ⟨s0, s1, s2, s3, s4, s5⟩ := hSw
      try dsimp only at hSw
      go_simp
      try with_reducible rfl
    change wpAnyH _ _ _ _ _ _ _ (Act.put _ (some 65) _) _
    simp only [Act.put, List.setIfInBounds_toArray, List.set_cons_zero, List.set_cons_succ]
    refine wpAnyH_take (i := 1) (v := ?_) rfl (by kernel_rfl) (by kernel_rfl) (by kernel_rfl) (fun _ _ _ h => h) (Or.inl ⟨by rfl, ?_⟩) hHeld ?_
    rotate_left
    · intro w hSw
      obtain ⟨s0, s1, s2, s3, s4, s5⟩ := hSw
      try dsimp only at hSw
      go_simp
      try with_reducible rfl
    change wpAnyH _ _ _ _ _ _ _ (Act.put _ (some 66) _) _
    simp only [Act.put, List.setIfInBounds_toArray, List.set_cons_zero, List.set_cons_succ]
    refine wpAnyH_take (i := 2) (v := ?_) rfl (by kernel_rfl) (by kernel_rfl) (by kernel_rfl) (fun _ _ _ h => h) (Or.inl ⟨by rfl, ?_⟩) hHeld ?_
    rotate_left
    · intro w hSw
      obtain ⟨s0, s1, s2, s3, s4, s5⟩ := hSw
      try dsimp only at hSw
      go_simp
      try with_reducible rfl
    change wpAnyH _ _ _ _ _ _ _ (Act.put _ (some 67) _) _
    simp only [Act.put, List.setIfInBounds_toArray, List.set_cons_zero, List.set_cons_succ]
    refine wpAnyH_take (i := 3) (v := ?_) rfl (by kernel_rfl) (by kernel_rfl) (by kernel_rfl) (fun _ _ _ h => h) (Or.inl ⟨by rfl, ?_⟩) hHeld ?_
    rotate_left
    · intro w hSw
      obtain ⟨s0, s1, s2, s3, s4, s5⟩ := hSw
      try dsimp only at hSw
      go_simp
      try with_reducible rfl
    change wpAnyH _ _ _ _ _ _ _ (Act.put _ (some 68) _) _
    simp only [Act.put, List.setIfInBounds_toArray, List.set_cons_zero, List.set_cons_succ]
    refine held_nameZ (fun o0 q0 a0 ho hq0 hA0 => ?_)
    have HQP : Hid (∀ c a (d : Nat) v w, q0 (.panic c) (Act.put a (some d) v) w → q0 (.panic c) a w) := Lib.hid (by rw [hq0]; exact fun _ _ _ _ _ h => h)
    have KAab : Hid (∀ (y : World) (gc : Nat) (gz : Nat), Below w5.heap.size w5 y → w5.heap.size ≤ gc → y.heap[gc]? = some (.cells #[.int .i64 0, .int .i64 0, .int .i64 0, .int .i64 0, .int .i64 0, .int .i64 0] 23 (0, 0)) → w5.heap.size ≤ gz → y.heap[gz]? = some (.cells #[.bool false, .bool false, .int .i64 0] 27 (0, 0)) → gc ≠ gz → wpAnyH Try.prog .any o0 q0 (fun w' => w'.cell? ⟨ga, 0, none⟩ = some (.int .i64 TY.table) ∧ w'.cell? ⟨ga, 1, none⟩ = some (.int .i64 TY.push) ∧ w'.cell? ⟨ga, 2, none⟩ = some (.int .i64 TY.streams) ∧ w'.cell? ⟨ga, 3, none⟩ = some (.int .i64 TY.window) ∧ w'.cell? ⟨ga, 4, none⟩ = some (.int .i64 TY.frame) ∧ w'.cell? ⟨ga, 5, none⟩ = some (.int .i64 TY.list)) 2 #[true, true, true, true, true, true, true, true, true, true, false, false] ({ tmps := ((((((a0.tmps.setIfInBounds 69 (.tuple #[.agg #[.int .i64 TX.table, .int .i64 TX.push, .int .i64 TX.streams, .int .i64 TX.window, .int .i64 TX.frame, .int .i64 TX.list], .agg #[.bool false, .bool false, .int .i64 0]])).setIfInBounds 64 (.tuple #[.agg #[.int .i64 TX.table, .int .i64 TX.push, .int .i64 TX.streams, .int .i64 TX.window, .int .i64 TX.frame, .int .i64 TX.list], .agg #[.bool false, .bool false, .int .i64 0]])).setIfInBounds 70 (.agg #[.int .i64 TX.table, .int .i64 TX.push, .int .i64 TX.streams, .int .i64 TX.window, .int .i64 TX.frame, .int .i64 TX.list])).setIfInBounds 71 (.agg #[.bool false, .bool false, .int .i64 0])).setIfInBounds 9 (.pointer (some ⟨gc, 0, none⟩))).setIfInBounds 10 (.pointer (some ⟨gz, 0, none⟩))), defers := [] } : Act) y) := Lib.hid (by
      intro y gc gz hb gc_0 ha gz_0 hf ne_ab
      rw [ho, hA0]
      simp only [List.setIfInBounds_toArray, List.set_cons_zero, List.set_cons_succ]
      have hHeld : (fun w' => w'.cell? ⟨ga, 0, none⟩ = some (.int .i64 TY.table) ∧ w'.cell? ⟨ga, 1, none⟩ = some (.int .i64 TY.push) ∧ w'.cell? ⟨ga, 2, none⟩ = some (.int .i64 TY.streams) ∧ w'.cell? ⟨ga, 3, none⟩ = some (.int .i64 TY.window) ∧ w'.cell? ⟨ga, 4, none⟩ = some (.int .i64 TY.frame) ∧ w'.cell? ⟨ga, 5, none⟩ = some (.int .i64 TY.list)) y := (HKS5.out y hb)
      try dsimp only at hHeld
      refine wpAnyH_ready (rs := [10]) (by kernel_rfl) (by simp) ?_
      refine AllReadyH.cons rfl (fun K hK => ?_) AllReadyH.nil
      refine step_stS rfl (.tmp 9) (.tmp 70) rfl gc rfl _ _ _ _ _ _ rfl ha (fun yS hkS hrS => ?_)
      have hbS := hb.trans (hkS.below (fun k e => by omega) hb.size)
      have hfS := (hkS.block gz (lt_of_heapZ hf) (fun e => ne_ab e.symm)).trans hf
      refine hK.out _ _ (HKS5.out yS hbS) (fun hHeld => ?_)
      clear hK K
      refine wpAnyH_ready (rs := [11]) (by kernel_rfl) (by simp) ?_
      refine AllReadyH.cons rfl (fun K hK => ?_) AllReadyH.nil
      refine step_stF rfl (.tmp 10) (.tmp 71) rfl gz rfl _ _ _ rfl hfS (fun yT hkT hfT => ?_)
      have hbT := hbS.trans (hkT.below (fun k e => by omega) hbS.size)
      have hrT := (hkT.block gc (lt_of_heapZ hrS) (fun e => ne_ab e)).trans hrS
      refine hK.out _ _ (HKS5.out yT hbT) (fun hHeld => ?_)
      clear hK K
      refine wpAnyH_done (by kernel_rfl) ?_ _
      rw [hq0]
      go_wp2
      go_meet
      case rel => exact ⟨gc, gz, rfl, rfl, hrT, hfT, hbT⟩)
    have KAa : Hid (∀ (y : World) (gc : Nat), Below w5.heap.size w5 y → w5.heap.size ≤ gc → y.heap[gc]? = some (.cells #[.int .i64 0, .int .i64 0, .int .i64 0, .int .i64 0, .int .i64 0, .int .i64 0] 23 (0, 0)) → wpAnyH Try.prog .any o0 q0 (fun w' => w'.cell? ⟨ga, 0, none⟩ = some (.int .i64 TY.table) ∧ w'.cell? ⟨ga, 1, none⟩ = some (.int .i64 TY.push) ∧ w'.cell? ⟨ga, 2, none⟩ = some (.int .i64 TY.streams) ∧ w'.cell? ⟨ga, 3, none⟩ = some (.int .i64 TY.window) ∧ w'.cell? ⟨ga, 4, none⟩ = some (.int .i64 TY.frame) ∧ w'.cell? ⟨ga, 5, none⟩ = some (.int .i64 TY.list)) 3 #[true, true, true, true, true, true, true, true, true, false, false, false] ({ tmps := (((((a0.tmps.setIfInBounds 69 (.tuple #[.agg #[.int .i64 TX.table, .int .i64 TX.push, .int .i64 TX.streams, .int .i64 TX.window, .int .i64 TX.frame, .int .i64 TX.list], .agg #[.bool false, .bool false, .int .i64 0]])).setIfInBounds 64 (.tuple #[.agg #[.int .i64 TX.table, .int .i64 TX.push, .int .i64 TX.streams, .int .i64 TX.window, .int .i64 TX.frame, .int .i64 TX.list], .agg #[.bool false, .bool false, .int .i64 0]])).setIfInBounds 70 (.agg #[.int .i64 TX.table, .int .i64 TX.push, .int .i64 TX.streams, .int .i64 TX.window, .int .i64 TX.frame, .int .i64 TX.list])).setIfInBounds 71 (.agg #[.bool false, .bool false, .int .i64 0])).setIfInBounds 9 (.pointer (some ⟨gc, 0, none⟩))), defers := [] } : Act) y) := Lib.hid (by
      intro y gc hb gc_0 ha
      rw [ho, hA0]
      simp only [List.setIfInBounds_toArray, List.set_cons_zero, List.set_cons_succ]
      have hHeld : (fun w' => w'.cell? ⟨ga, 0, none⟩ = some (.int .i64 TY.table) ∧ w'.cell? ⟨ga, 1, none⟩ = some (.int .i64 TY.push) ∧ w'.cell? ⟨ga, 2, none⟩ = some (.int .i64 TY.streams) ∧ w'.cell? ⟨ga, 3, none⟩ = some (.int .i64 TY.window) ∧ w'.cell? ⟨ga, 4, none⟩ = some (.int .i64 TY.frame) ∧ w'.cell? ⟨ga, 5, none⟩ = some (.int .i64 TY.list)) y := (HKS5.out y hb)
      try dsimp only at hHeld
      refine wpAnyH_ready (rs := [9]) (by kernel_rfl) (by simp) ?_
      refine AllReadyH.cons rfl (fun K hK => ?_) ?_
      · refine step_bF rfl rfl (fun gz y' hgf hx hf' => ?_)
        have gz_0 : w5.heap.size ≤ gz := by have := hb.size; omega
        have hb' := hb.trans (hx.mono hb.size)
        have ne_ab : gc ≠ gz := by have := lt_of_heapZ ha; omega
        clear hgf
        have ha' := (hx.block gc (lt_of_heapZ ha)).trans ha
        refine hK.out _ _ (HKS5.out y' hb') (fun hHeld => ?_)
        clear hK K
        exact held_asZ ho (by kernel_rfl) (by rw [hA0]; kernel_rfl) (KAab.out _ gc gz hb' gc_0 ha' gz_0 hf' ne_ab)
      exact AllReadyH.nil)
    have KAb : Hid (∀ (y : World) (gz : Nat), Below w5.heap.size w5 y → w5.heap.size ≤ gz → y.heap[gz]? = some (.cells #[.bool false, .bool false, .int .i64 0] 27 (0, 0)) → wpAnyH Try.prog .any o0 q0 (fun w' => w'.cell? ⟨ga, 0, none⟩ = some (.int .i64 TY.table) ∧ w'.cell? ⟨ga, 1, none⟩ = some (.int .i64 TY.push) ∧ w'.cell? ⟨ga, 2, none⟩ = some (.int .i64 TY.streams) ∧ w'.cell? ⟨ga, 3, none⟩ = some (.int .i64 TY.window) ∧ w'.cell? ⟨ga, 4, none⟩ = some (.int .i64 TY.frame) ∧ w'.cell? ⟨ga, 5, none⟩ = some (.int .i64 TY.list)) 3 #[true, true, true, true, true, true, true, true, false, true, false, false] ({ tmps := (((((a0.tmps.setIfInBounds 69 (.tuple #[.agg #[.int .i64 TX.table, .int .i64 TX.push, .int .i64 TX.streams, .int .i64 TX.window, .int .i64 TX.frame, .int .i64 TX.list], .agg #[.bool false, .bool false, .int .i64 0]])).setIfInBounds 64 (.tuple #[.agg #[.int .i64 TX.table, .int .i64 TX.push, .int .i64 TX.streams, .int .i64 TX.window, .int .i64 TX.frame, .int .i64 TX.list], .agg #[.bool false, .bool false, .int .i64 0]])).setIfInBounds 70 (.agg #[.int .i64 TX.table, .int .i64 TX.push, .int .i64 TX.streams, .int .i64 TX.window, .int .i64 TX.frame, .int .i64 TX.list])).setIfInBounds 71 (.agg #[.bool false, .bool false, .int .i64 0])).setIfInBounds 10 (.pointer (some ⟨gz, 0, none⟩))), defers := [] } : Act) y) := Lib.hid (by
      intro y gz hb gz_0 hf
      rw [ho, hA0]
      simp only [List.setIfInBounds_toArray, List.set_cons_zero, List.set_cons_succ]
      have hHeld : (fun w' => w'.cell? ⟨ga, 0, none⟩ = some (.int .i64 TY.table) ∧ w'.cell? ⟨ga, 1, none⟩ = some (.int .i64 TY.push) ∧ w'.cell? ⟨ga, 2, none⟩ = some (.int .i64 TY.streams) ∧ w'.cell? ⟨ga, 3, none⟩ = some (.int .i64 TY.window) ∧ w'.cell? ⟨ga, 4, none⟩ = some (.int .i64 TY.frame) ∧ w'.cell? ⟨ga, 5, none⟩ = some (.int .i64 TY.list)) y := (HKS5.out y hb)
      try dsimp only at hHeld
      refine wpAnyH_ready (rs := [8]) (by kernel_rfl) (by simp) ?_
      refine AllReadyH.cons rfl (fun K hK => ?_) ?_
      · refine step_aS rfl rfl (fun gc y' hga hx ha' => ?_)
        have gc_0 : w5.heap.size ≤ gc := by have := hb.size; omega
        have hb' := hb.trans (hx.mono hb.size)
        have ne_ab : gc ≠ gz := by have := lt_of_heapZ hf; omega
        clear hga
        have hf' := (hx.block gz (lt_of_heapZ hf)).trans hf
        refine hK.out _ _ (HKS5.out y' hb') (fun hHeld => ?_)
        clear hK K
        exact held_asZ ho (by kernel_rfl) (by rw [hA0]; kernel_rfl) (KAab.out _ gc gz hb' gc_0 ha' gz_0 hf' ne_ab)
      exact AllReadyH.nil)
    have Kab : Hid (∀ (y : World) (gc : Nat) (gz : Nat), Below w5.heap.size w5 y → w5.heap.size ≤ gc → y.heap[gc]? = some (.cells #[.int .i64 0, .int .i64 0, .int .i64 0, .int .i64 0, .int .i64 0, .int .i64 0] 23 (0, 0)) → w5.heap.size ≤ gz → y.heap[gz]? = some (.cells #[.bool false, .bool false, .int .i64 0] 27 (0, 0)) → gc ≠ gz → wpAnyH Try.prog .any o0 q0 (fun w' => w'.cell? ⟨ga, 0, none⟩ = some (.int .i64 TY.table) ∧ w'.cell? ⟨ga, 1, none⟩ = some (.int .i64 TY.push) ∧ w'.cell? ⟨ga, 2, none⟩ = some (.int .i64 TY.streams) ∧ w'.cell? ⟨ga, 3, none⟩ = some (.int .i64 TY.window) ∧ w'.cell? ⟨ga, 4, none⟩ = some (.int .i64 TY.frame) ∧ w'.cell? ⟨ga, 5, none⟩ = some (.int .i64 TY.list)) 6 #[true, true, true, true, false, false, false, false, true, true, false, false] ({ tmps := ((a0.tmps.setIfInBounds 9 (.pointer (some ⟨gc, 0, none⟩))).setIfInBounds 10 (.pointer (some ⟨gz, 0, none⟩))), defers := [] } : Act) y) := Lib.hid (by
      intro y gc gz hb gc_0 ha gz_0 hf ne_ab
      rw [ho, hA0]
      simp only [List.setIfInBounds_toArray, List.set_cons_zero, List.set_cons_succ]
      have hHeld : (fun w' => w'.cell? ⟨ga, 0, none⟩ = some (.int .i64 TY.table) ∧ w'.cell? ⟨ga, 1, none⟩ = some (.int .i64 TY.push) ∧ w'.cell? ⟨ga, 2, none⟩ = some (.int .i64 TY.streams) ∧ w'.cell? ⟨ga, 3, none⟩ = some (.int .i64 TY.window) ∧ w'.cell? ⟨ga, 4, none⟩ = some (.int .i64 TY.frame) ∧ w'.cell? ⟨ga, 5, none⟩ = some (.int .i64 TY.list)) y := (HKS5.out y hb)
      try dsimp only at hHeld
      refine wpAnyH_ready (rs := [4]) (by kernel_rfl) (by simp) ?_
      refine AllReadyH.cons rfl (fun K hK => ?_) ?_
      · go_simp
        with_reducible refine (HAZ5.out y hb).mono ?_
        rintro e y' ⟨rfl, hx⟩
        have hb' := hb.trans (hx.mono hb.size)
        have ha' := (hx.block gc (lt_of_heapZ ha)).trans ha
        have hf' := (hx.block gz (lt_of_heapZ hf)).trans hf
        refine hK.out _ _ (HKS5.out y' hb') (fun hHeld => ?_)
        clear hK K
        refine wpAnyH_take (i := 5) (v := ?_) rfl (by kernel_rfl) (by kernel_rfl) (by kernel_rfl) (fun _ _ _ h => HQP.out _ _ _ _ _ h) (Or.inl ⟨by rfl, ?_⟩) hHeld ?_
        rotate_left
        · intro w hSw
          obtain ⟨s0, s1, s2, s3, s4, s5⟩ := hSw
          try dsimp only at hSw
          go_simp
          try with_reducible rfl
        change wpAnyH _ _ _ _ _ _ _ (Act.put _ (some 64) _) _
        simp only [Act.put, List.setIfInBounds_toArray, List.set_cons_zero, List.set_cons_succ]
        refine wpAnyH_take (i := 6) (v := ?_) rfl (by kernel_rfl) (by kernel_rfl) (by kernel_rfl) (fun _ _ _ h => HQP.out _ _ _ _ _ h) (Or.inl ⟨by rfl, ?_⟩) hHeld ?_
        rotate_left
        · intro w hSw
          obtain ⟨s0, s1, s2, s3, s4, s5⟩ := hSw
          try dsimp only at hSw
          go_simp
          try with_reducible rfl
        change wpAnyH _ _ _ _ _ _ _ (Act.put _ (some 70) _) _
        simp only [Act.put, List.setIfInBounds_toArray, List.set_cons_zero, List.set_cons_succ]
        refine wpAnyH_take (i := 7) (v := ?_) rfl (by kernel_rfl) (by kernel_rfl) (by kernel_rfl) (fun _ _ _ h => HQP.out _ _ _ _ _ h) (Or.inl ⟨by rfl, ?_⟩) hHeld ?_
        rotate_left
        · intro w hSw
          obtain ⟨s0, s1, s2, s3, s4, s5⟩ := hSw
          try dsimp only at hSw
          go_simp
          try with_reducible rfl
        change wpAnyH _ _ _ _ _ _ _ (Act.put _ (some 71) _) _
        simp only [Act.put, List.setIfInBounds_toArray, List.set_cons_zero, List.set_cons_succ]
        exact held_asZ ho (by kernel_rfl) (by rw [hA0]; kernel_rfl) (KAab.out _ gc gz hb' gc_0 ha' gz_0 hf' ne_ab)
      exact AllReadyH.nil)
    have KA : Hid (∀ (y : World), Below w5.heap.size w5 y → wpAnyH Try.prog .any o0 q0 (fun w' => w'.cell? ⟨ga, 0, none⟩ = some (.int .i64 TY.table) ∧ w'.cell? ⟨ga, 1, none⟩ = some (.int .i64 TY.push) ∧ w'.cell? ⟨ga, 2, none⟩ = some (.int .i64 TY.streams) ∧ w'.cell? ⟨ga, 3, none⟩ = some (.int .i64 TY.window) ∧ w'.cell? ⟨ga, 4, none⟩ = some (.int .i64 TY.frame) ∧ w'.cell? ⟨ga, 5, none⟩ = some (.int .i64 TY.list)) 4 #[true, true, true, true, true, true, true, true, false, false, false, false] ({ tmps := ((((a0.tmps.setIfInBounds 69 (.tuple #[.agg #[.int .i64 TX.table, .int .i64 TX.push, .int .i64 TX.streams, .int .i64 TX.window, .int .i64 TX.frame, .int .i64 TX.list], .agg #[.bool false, .bool false, .int .i64 0]])).setIfInBounds 64 (.tuple #[.agg #[.int .i64 TX.table, .int .i64 TX.push, .int .i64 TX.streams, .int .i64 TX.window, .int .i64 TX.frame, .int .i64 TX.list], .agg #[.bool false, .bool false, .int .i64 0]])).setIfInBounds 70 (.agg #[.int .i64 TX.table, .int .i64 TX.push, .int .i64 TX.streams, .int .i64 TX.window, .int .i64 TX.frame, .int .i64 TX.list])).setIfInBounds 71 (.agg #[.bool false, .bool false, .int .i64 0])), defers := [] } : Act) y) := Lib.hid (by
      intro y  hb
      rw [ho, hA0]
      simp only [List.setIfInBounds_toArray, List.set_cons_zero, List.set_cons_succ]
      have hHeld : (fun w' => w'.cell? ⟨ga, 0, none⟩ = some (.int .i64 TY.table) ∧ w'.cell? ⟨ga, 1, none⟩ = some (.int .i64 TY.push) ∧ w'.cell? ⟨ga, 2, none⟩ = some (.int .i64 TY.streams) ∧ w'.cell? ⟨ga, 3, none⟩ = some (.int .i64 TY.window) ∧ w'.cell? ⟨ga, 4, none⟩ = some (.int .i64 TY.frame) ∧ w'.cell? ⟨ga, 5, none⟩ = some (.int .i64 TY.list)) y := (HKS5.out y hb)
      try dsimp only at hHeld
      refine wpAnyH_ready (rs := [8, 9]) (by kernel_rfl) (by simp) ?_
      refine AllReadyH.cons rfl (fun K hK => ?_) ?_
      · refine step_aS rfl rfl (fun gc y' hga hx ha' => ?_)
        have gc_0 : w5.heap.size ≤ gc := by have := hb.size; omega
        have hb' := hb.trans (hx.mono hb.size)
        clear hga
        refine hK.out _ _ (HKS5.out y' hb') (fun hHeld => ?_)
        clear hK K
        exact held_asZ ho (by kernel_rfl) (by rw [hA0]; kernel_rfl) (KAa.out _ gc hb' gc_0 ha')
      refine AllReadyH.cons rfl (fun K hK => ?_) ?_
      · refine step_bF rfl rfl (fun gz y' hgf hx hf' => ?_)
        have gz_0 : w5.heap.size ≤ gz := by have := hb.size; omega
        have hb' := hb.trans (hx.mono hb.size)
        clear hgf
        refine hK.out _ _ (HKS5.out y' hb') (fun hHeld => ?_)
        clear hK K
        exact held_asZ ho (by kernel_rfl) (by rw [hA0]; kernel_rfl) (KAb.out _ gz hb' gz_0 hf')
      exact AllReadyH.nil)
    have Ka : Hid (∀ (y : World) (gc : Nat), Below w5.heap.size w5 y → w5.heap.size ≤ gc → y.heap[gc]? = some (.cells #[.int .i64 0, .int .i64 0, .int .i64 0, .int .i64 0, .int .i64 0, .int .i64 0] 23 (0, 0)) → wpAnyH Try.prog .any o0 q0 (fun w' => w'.cell? ⟨ga, 0, none⟩ = some (.int .i64 TY.table) ∧ w'.cell? ⟨ga, 1, none⟩ = some (.int .i64 TY.push) ∧ w'.cell? ⟨ga, 2, none⟩ = some (.int .i64 TY.streams) ∧ w'.cell? ⟨ga, 3, none⟩ = some (.int .i64 TY.window) ∧ w'.cell? ⟨ga, 4, none⟩ = some (.int .i64 TY.frame) ∧ w'.cell? ⟨ga, 5, none⟩ = some (.int .i64 TY.list)) 7 #[true, true, true, true, false, false, false, false, true, false, false, false] ({ tmps := (a0.tmps.setIfInBounds 9 (.pointer (some ⟨gc, 0, none⟩))), defers := [] } : Act) y) := Lib.hid (by
      intro y gc hb gc_0 ha
      rw [ho, hA0]
      simp only [List.setIfInBounds_toArray, List.set_cons_zero, List.set_cons_succ]
      have hHeld : (fun w' => w'.cell? ⟨ga, 0, none⟩ = some (.int .i64 TY.table) ∧ w'.cell? ⟨ga, 1, none⟩ = some (.int .i64 TY.push) ∧ w'.cell? ⟨ga, 2, none⟩ = some (.int .i64 TY.streams) ∧ w'.cell? ⟨ga, 3, none⟩ = some (.int .i64 TY.window) ∧ w'.cell? ⟨ga, 4, none⟩ = some (.int .i64 TY.frame) ∧ w'.cell? ⟨ga, 5, none⟩ = some (.int .i64 TY.list)) y := (HKS5.out y hb)
      try dsimp only at hHeld
      refine wpAnyH_ready (rs := [4, 9]) (by kernel_rfl) (by simp) ?_
      refine AllReadyH.cons rfl (fun K hK => ?_) ?_
      · go_simp
        with_reducible refine (HAZ5.out y hb).mono ?_
        rintro e y' ⟨rfl, hx⟩
        have hb' := hb.trans (hx.mono hb.size)
        have ha' := (hx.block gc (lt_of_heapZ ha)).trans ha
        refine hK.out _ _ (HKS5.out y' hb') (fun hHeld => ?_)
        clear hK K
        refine wpAnyH_take (i := 5) (v := ?_) rfl (by kernel_rfl) (by kernel_rfl) (by kernel_rfl) (fun _ _ _ h => HQP.out _ _ _ _ _ h) (Or.inl ⟨by rfl, ?_⟩) hHeld ?_
        rotate_left
        · intro w hSw
          obtain ⟨s0, s1, s2, s3, s4, s5⟩ := hSw
          try dsimp only at hSw
          go_simp
          try with_reducible rfl
        change wpAnyH _ _ _ _ _ _ _ (Act.put _ (some 64) _) _
        simp only [Act.put, List.setIfInBounds_toArray, List.set_cons_zero, List.set_cons_succ]
        refine wpAnyH_take (i := 6) (v := ?_) rfl (by kernel_rfl) (by kernel_rfl) (by kernel_rfl) (fun _ _ _ h => HQP.out _ _ _ _ _ h) (Or.inl ⟨by rfl, ?_⟩) hHeld ?_
        rotate_left
        · intro w hSw
          obtain ⟨s0, s1, s2, s3, s4, s5⟩ := hSw
          try dsimp only at hSw
          go_simp
          try with_reducible rfl
        change wpAnyH _ _ _ _ _ _ _ (Act.put _ (some 70) _) _
        simp only [Act.put, List.setIfInBounds_toArray, List.set_cons_zero, List.set_cons_succ]
        refine wpAnyH_take (i := 7) (v := ?_) rfl (by kernel_rfl) (by kernel_rfl) (by kernel_rfl) (fun _ _ _ h => HQP.out _ _ _ _ _ h) (Or.inl ⟨by rfl, ?_⟩) hHeld ?_
        rotate_left
        · intro w hSw
          obtain ⟨s0, s1, s2, s3, s4, s5⟩ := hSw
          try dsimp only at hSw
          go_simp
          try with_reducible rfl
        change wpAnyH _ _ _ _ _ _ _ (Act.put _ (some 71) _) _
        simp only [Act.put, List.setIfInBounds_toArray, List.set_cons_zero, List.set_cons_succ]
        exact held_asZ ho (by kernel_rfl) (by rw [hA0]; kernel_rfl) (KAa.out _ gc hb' gc_0 ha')
      refine AllReadyH.cons rfl (fun K hK => ?_) ?_
      · refine step_bF rfl rfl (fun gz y' hgf hx hf' => ?_)
        have gz_0 : w5.heap.size ≤ gz := by have := hb.size; omega
        have hb' := hb.trans (hx.mono hb.size)
        have ne_ab : gc ≠ gz := by have := lt_of_heapZ ha; omega
        clear hgf
        have ha' := (hx.block gc (lt_of_heapZ ha)).trans ha
        refine hK.out _ _ (HKS5.out y' hb') (fun hHeld => ?_)
        clear hK K
        exact held_asZ ho (by kernel_rfl) (by rw [hA0]; kernel_rfl) (Kab.out _ gc gz hb' gc_0 ha' gz_0 hf' ne_ab)
      exact AllReadyH.nil)
    have Kb : Hid (∀ (y : World) (gz : Nat), Below w5.heap.size w5 y → w5.heap.size ≤ gz → y.heap[gz]? = some (.cells #[.bool false, .bool false, .int .i64 0] 27 (0, 0)) → wpAnyH Try.prog .any o0 q0 (fun w' => w'.cell? ⟨ga, 0, none⟩ = some (.int .i64 TY.table) ∧ w'.cell? ⟨ga, 1, none⟩ = some (.int .i64 TY.push) ∧ w'.cell? ⟨ga, 2, none⟩ = some (.int .i64 TY.streams) ∧ w'.cell? ⟨ga, 3, none⟩ = some (.int .i64 TY.window) ∧ w'.cell? ⟨ga, 4, none⟩ = some (.int .i64 TY.frame) ∧ w'.cell? ⟨ga, 5, none⟩ = some (.int .i64 TY.list)) 7 #[true, true, true, true, false, false, false, false, false, true, false, false] ({ tmps := (a0.tmps.setIfInBounds 10 (.pointer (some ⟨gz, 0, none⟩))), defers := [] } : Act) y) := Lib.hid (by
      intro y gz hb gz_0 hf
      rw [ho, hA0]
      simp only [List.setIfInBounds_toArray, List.set_cons_zero, List.set_cons_succ]
      have hHeld : (fun w' => w'.cell? ⟨ga, 0, none⟩ = some (.int .i64 TY.table) ∧ w'.cell? ⟨ga, 1, none⟩ = some (.int .i64 TY.push) ∧ w'.cell? ⟨ga, 2, none⟩ = some (.int .i64 TY.streams) ∧ w'.cell? ⟨ga, 3, none⟩ = some (.int .i64 TY.window) ∧ w'.cell? ⟨ga, 4, none⟩ = some (.int .i64 TY.frame) ∧ w'.cell? ⟨ga, 5, none⟩ = some (.int .i64 TY.list)) y := (HKS5.out y hb)
      try dsimp only at hHeld
      refine wpAnyH_ready (rs := [4, 8]) (by kernel_rfl) (by simp) ?_
      refine AllReadyH.cons rfl (fun K hK => ?_) ?_
      · go_simp
        with_reducible refine (HAZ5.out y hb).mono ?_
        rintro e y' ⟨rfl, hx⟩
        have hb' := hb.trans (hx.mono hb.size)
        have hf' := (hx.block gz (lt_of_heapZ hf)).trans hf
        refine hK.out _ _ (HKS5.out y' hb') (fun hHeld => ?_)
        clear hK K
        refine wpAnyH_take (i := 5) (v := ?_) rfl (by kernel_rfl) (by kernel_rfl) (by kernel_rfl) (fun _ _ _ h => HQP.out _ _ _ _ _ h) (Or.inl ⟨by rfl, ?_⟩) hHeld ?_
        rotate_left
        · intro w hSw
          obtain ⟨s0, s1, s2, s3, s4, s5⟩ := hSw
          try dsimp only at hSw
          go_simp
          try with_reducible rfl
        change wpAnyH _ _ _ _ _ _ _ (Act.put _ (some 64) _) _
        simp only [Act.put, List.setIfInBounds_toArray, List.set_cons_zero, List.set_cons_succ]
        refine wpAnyH_take (i := 6) (v := ?_) rfl (by kernel_rfl) (by kernel_rfl) (by kernel_rfl) (fun _ _ _ h => HQP.out _ _ _ _ _ h) (Or.inl ⟨by rfl, ?_⟩) hHeld ?_
        rotate_left
        · intro w hSw
          obtain ⟨s0, s1, s2, s3, s4, s5⟩ := hSw
          try dsimp only at hSw
          go_simp
          try with_reducible rfl
        change wpAnyH _ _ _ _ _ _ _ (Act.put _ (some 70) _) _
        simp only [Act.put, List.setIfInBounds_toArray, List.set_cons_zero, List.set_cons_succ]
        refine wpAnyH_take (i := 7) (v := ?_) rfl (by kernel_rfl) (by kernel_rfl) (by kernel_rfl) (fun _ _ _ h => HQP.out _ _ _ _ _ h) (Or.inl ⟨by rfl, ?_⟩) hHeld ?_
        rotate_left
        · intro w hSw
          obtain ⟨s0, s1, s2, s3, s4, s5⟩ := hSw
          try dsimp only at hSw
          go_simp
          try with_reducible rfl
        change wpAnyH _ _ _ _ _ _ _ (Act.put _ (some 71) _) _
        simp only [Act.put, List.setIfInBounds_toArray, List.set_cons_zero, List.set_cons_succ]
        exact held_asZ ho (by kernel_rfl) (by rw [hA0]; kernel_rfl) (KAb.out _ gz hb' gz_0 hf')
      refine AllReadyH.cons rfl (fun K hK => ?_) ?_
      · refine step_aS rfl rfl (fun gc y' hga hx ha' => ?_)
        have gc_0 : w5.heap.size ≤ gc := by have := hb.size; omega
        have hb' := hb.trans (hx.mono hb.size)
        have ne_ab : gc ≠ gz := by have := lt_of_heapZ hf; omega
        clear hga
        have hf' := (hx.block gz (lt_of_heapZ hf)).trans hf
        refine hK.out _ _ (HKS5.out y' hb') (fun hHeld => ?_)
        clear hK K
        exact held_asZ ho (by kernel_rfl) (by rw [hA0]; kernel_rfl) (Kab.out _ gc gz hb' gc_0 ha' gz_0 hf' ne_ab)
      exact AllReadyH.nil)
    have K : Hid (∀ (y : World), Below w5.heap.size w5 y → wpAnyH Try.prog .any o0 q0 (fun w' => w'.cell? ⟨ga, 0, none⟩ = some (.int .i64 TY.table) ∧ w'.cell? ⟨ga, 1, none⟩ = some (.int .i64 TY.push) ∧ w'.cell? ⟨ga, 2, none⟩ = some (.int .i64 TY.streams) ∧ w'.cell? ⟨ga, 3, none⟩ = some (.int .i64 TY.window) ∧ w'.cell? ⟨ga, 4, none⟩ = some (.int .i64 TY.frame) ∧ w'.cell? ⟨ga, 5, none⟩ = some (.int .i64 TY.list)) 8 #[true, true, true, true, false, false, false, false, false, false, false, false] (a0 : Act) y) := Lib.hid (by
      intro y  hb
      rw [ho, hA0]
      have hHeld : (fun w' => w'.cell? ⟨ga, 0, none⟩ = some (.int .i64 TY.table) ∧ w'.cell? ⟨ga, 1, none⟩ = some (.int .i64 TY.push) ∧ w'.cell? ⟨ga, 2, none⟩ = some (.int .i64 TY.streams) ∧ w'.cell? ⟨ga, 3, none⟩ = some (.int .i64 TY.window) ∧ w'.cell? ⟨ga, 4, none⟩ = some (.int .i64 TY.frame) ∧ w'.cell? ⟨ga, 5, none⟩ = some (.int .i64 TY.list)) y := (HKS5.out y hb)
      try dsimp only at hHeld
      refine wpAnyH_ready (rs := [4, 8, 9]) (by kernel_rfl) (by simp) ?_
      refine AllReadyH.cons rfl (fun K hK => ?_) ?_
      · go_simp
        with_reducible refine (HAZ5.out y hb).mono ?_
        rintro e y' ⟨rfl, hx⟩
        have hb' := hb.trans (hx.mono hb.size)
        refine hK.out _ _ (HKS5.out y' hb') (fun hHeld => ?_)
        clear hK K
        refine wpAnyH_take (i := 5) (v := ?_) rfl (by kernel_rfl) (by kernel_rfl) (by kernel_rfl) (fun _ _ _ h => HQP.out _ _ _ _ _ h) (Or.inl ⟨by rfl, ?_⟩) hHeld ?_
        rotate_left
        · intro w hSw
          obtain ⟨s0, s1, s2, s3, s4, s5⟩ := hSw
          try dsimp only at hSw
          go_simp
          try with_reducible rfl
        change wpAnyH _ _ _ _ _ _ _ (Act.put _ (some 64) _) _
        simp only [Act.put, List.setIfInBounds_toArray, List.set_cons_zero, List.set_cons_succ]
        refine wpAnyH_take (i := 6) (v := ?_) rfl (by kernel_rfl) (by kernel_rfl) (by kernel_rfl) (fun _ _ _ h => HQP.out _ _ _ _ _ h) (Or.inl ⟨by rfl, ?_⟩) hHeld ?_
        rotate_left
        · intro w hSw
          obtain ⟨s0, s1, s2, s3, s4, s5⟩ := hSw
          try dsimp only at hSw
          go_simp
          try with_reducible rfl
        change wpAnyH _ _ _ _ _ _ _ (Act.put _ (some 70) _) _
        simp only [Act.put, List.setIfInBounds_toArray, List.set_cons_zero, List.set_cons_succ]
        refine wpAnyH_take (i := 7) (v := ?_) rfl (by kernel_rfl) (by kernel_rfl) (by kernel_rfl) (fun _ _ _ h => HQP.out _ _ _ _ _ h) (Or.inl ⟨by rfl, ?_⟩) hHeld ?_
        rotate_left
        · intro w hSw
          obtain ⟨s0, s1, s2, s3, s4, s5⟩ := hSw
          try dsimp only at hSw
          go_simp
          try with_reducible rfl
        change wpAnyH _ _ _ _ _ _ _ (Act.put _ (some 71) _) _
        simp only [Act.put, List.setIfInBounds_toArray, List.set_cons_zero, List.set_cons_succ]
        exact held_asZ ho (by kernel_rfl) (by rw [hA0]; kernel_rfl) (KA.out _  hb')
      refine AllReadyH.cons rfl (fun K hK => ?_) ?_
      · refine step_aS rfl rfl (fun gc y' hga hx ha' => ?_)
        have gc_0 : w5.heap.size ≤ gc := by have := hb.size; omega
        have hb' := hb.trans (hx.mono hb.size)
        clear hga
        refine hK.out _ _ (HKS5.out y' hb') (fun hHeld => ?_)
        clear hK K
        exact held_asZ ho (by kernel_rfl) (by rw [hA0]; kernel_rfl) (Ka.out _ gc hb' gc_0 ha')
      refine AllReadyH.cons rfl (fun K hK => ?_) ?_
      · refine step_bF rfl rfl (fun gz y' hgf hx hf' => ?_)
        have gz_0 : w5.heap.size ≤ gz := by have := hb.size; omega
        have hb' := hb.trans (hx.mono hb.size)
        clear hgf
        refine hK.out _ _ (HKS5.out y' hb') (fun hHeld => ?_)
        clear hK K
        exact held_asZ ho (by kernel_rfl) (by rw [hA0]; kernel_rfl) (Kb.out _ gz hb' gz_0 hf')
      exact AllReadyH.nil)
    exact held_asZ rfl (by kernel_rfl) rfl (K.out y0 hb0)
  case rest =>
  obtain ⟨gc, gz, rfl, rfl, hz3, hz4, hb6⟩ := hcut
  rename_i hKK
  refine hKK _ _ ?_
  clear hKK
  obtain ⟨w6, hw6⟩ : ∃ w6, w6 = wc := ⟨_, rfl⟩
  subst hw6
  have HB6 := Lib.hid (HB5.out.trans (hb6.mono HB5.out.size))
  have HX6 := Lib.hid (HX5.out.up' hb6)
  obtain ⟨a0, a1, a2⟩ := HX6.out.flt
  obtain ⟨c0, c1, c2, c3, c4, c5⟩ := HX6.out.sets
  have z0 := cell_of_row _ gz 0 _ 27 _ hz4
  have z1 := cell_of_row _ gz 1 _ 27 _ hz4
  have z2 := cell_of_row _ gz 2 _ 27 _ hz4
  have e0 := cell_of_row _ gc 0 _ 23 _ hz3
  have e1 := cell_of_row _ gc 1 _ 23 _ hz3
  have e2 := cell_of_row _ gc 2 _ 23 _ hz3
  have e3 := cell_of_row _ gc 3 _ 23 _ hz3
  have e4 := cell_of_row _ gc 4 _ 23 _ hz3
  have e5 := cell_of_row _ gc 5 _ 23 _ hz3
  simp only [noFlt] at a0 a1 a2 c0 c1 c2 c3 c4 c5 z0 z1 z2 e0 e1 e2 e3 e4 e5
  clear hz3 hz4 hb6 HAZ5 HKS5
  go_wp2_with fail
  go_loopw [11, 12, 13, 14] (fun sm i _ _ wr => LsR w6 l n sm i wr) (fun _ i _ _ _ => n - (intOf i).toNat)
  case atStart => exact ⟨0, Nat.zero_le _, rfl, [], 0, none, 0, rfl, Nat.le_refl _, ⟨rfl, .inl ⟨rfl, rfl⟩⟩, by simp, Below.refl _ _⟩
  case round =>
    obtain ⟨k, hk, rfl, L, m, As, cs, rfl, hmk, hown, hsm, hbw⟩ := hrel
    obtain ⟨wo, hwo⟩ : ∃ x, x = wr := ⟨_, rfl⟩
    subst hwo
    by_cases hlt : k < n
    · have ki : (k : Int) < (n : Int) := by omega
      have hkl : k < l.length := by have := HA.out.2; omega
      obtain ⟨b, o, rfl, hbB, hcs⟩ := HA.out.1.pos (by omega)
      obtain ⟨⟨id, v⟩, hxv⟩ : ∃ f, f = l[k] := ⟨_, rfl⟩
      have hbW := HB6.out.trans (hbw.mono HB6.out.size)
      have HCW : Hid (∀ W, Below wo.heap.size wo W → ∀ q (h : q < l.length), W.cell? ⟨b, o + q * 2, none⟩ = some (.int .i64 l[q].1) ∧ W.cell? ⟨b, o + q * 2 + 1, none⟩ = some (.int .i64 l[q].2)) := Lib.hid (fun W hW q h => ⟨((hbW.trans (hW.mono hbW.size)).cell (p := ⟨b, o + q * 2, none⟩) hbB).trans (hcs q h).1, ((hbW.trans (hW.mono hbW.size)).cell (p := ⟨b, o + q * 2 + 1, none⟩) hbB).trans (hcs q h).2⟩)
      have d0 : wo.cell? ⟨b, o + k * 2, none⟩ = some (.int .i64 id) := by have := (HCW.out wo (Below.refl _ _) k hkl).1; rwa [← hxv] at this
      have d1 : wo.cell? ⟨b, o + k * 2 + 1, none⟩ = some (.int .i64 v) := by have := (HCW.out wo (Below.refl _ _) k hkl).2; rwa [← hxv] at this
      have HJ : Hid (k < n ∧ n ≤ 300) := Lib.hid ⟨hlt, HN.out⟩
      have wj : IntKind.i64.wrap ((k : Int) + 1) = (k : Int) + 1 := IntWalk.i64_in _ (by have := HN.out; omega)
      have HXV := Lib.hid hxv
      have HOWN := Lib.hid hown
      have HSM := Lib.hid hsm
      have HBW := Lib.hid hbw
      have HMK := Lib.hid hmk
      clear hcs hxv hown hsm hbw hbW hmk
      go_upto_region 18 with fail
      go_cut [13] from 83 to 132 (fun x wx => x = .bool (decide (1 ≤ id) && decide (id ≤ 6)) ∧ wo = wx)
      case first =>
        by_cases h1 : 1 ≤ id
        · by_cases h6 : id ≤ 6
          · go_wp2
            go_meet
            case rel => exact ⟨by simp [h1, h6], rfl⟩
          · go_wp2
            go_meet
            case rel => exact ⟨by simp [h1, h6], rfl⟩
        · go_wp2
          go_meet
          case rel => exact ⟨by simp; omega, rfl⟩
      case rest =>
        obtain ⟨rfl, rfl⟩ := hcut
        rename_i hKK
        refine hKK _ _ ?_
        clear hKK
        obtain ⟨T, hT⟩ : ∃ T, T = isLast (id, v) (l.drop (k + 1)) := ⟨_, rfl⟩
        have HT := Lib.hid hT
        have HTT : Hid (((decide (1 ≤ id) && decide (id ≤ 6)) && noneOf id (l.drop (k + 1))) = T) := Lib.hid (by rw [hT]; rfl)
        clear hT
        go_wp2_with fail
        go_loopw [13, 14] (fun b i w' => InR wo l n k id T b i w') (fun _ i _ => n - (intOf i).toNat)
        case atStart => exact ⟨k + 1, _, Nat.le_refl _, by have := HJ.out; omega, by go_num, rfl, HTT.out, Below.refl _ _⟩
        case round =>
          obtain ⟨q, x, hq1, hq2, rfl, rfl, htot, hbi⟩ := hrel
          by_cases hqn : q < n
          · have hql : q < l.length := by have := HA.out.2; omega
            obtain ⟨⟨id2, v2⟩, hxv2⟩ : ∃ f, f = l[q] := ⟨_, rfl⟩
            have f0 : wr.cell? ⟨b, o + q * 2, none⟩ = some (.int .i64 id2) := by have := (HCW.out wr hbi q hql).1; rwa [← hxv2] at this
            have g0 : wr.cell? ⟨b, o + k * 2, none⟩ = some (.int .i64 id) := by have := (HCW.out wr hbi k hkl).1; rwa [← HXV.out] at this
            have hnext : noneOf id (l.drop q) = (decide (id2 ≠ id) && noneOf id (l.drop (q + 1))) := by rw [drop_next hql, ← hxv2]; rfl
            rw [hnext] at htot
            have qi : (q : Int) < (n : Int) := by omega
            have wq : IntKind.i64.wrap ((q : Int) + 1) = (q : Int) + 1 := IntWalk.i64_in _ (by have := HN.out; omega)
            have HQ := Lib.hid (And.intro hq1 hqn)
            have HTO := Lib.hid htot
            have HBI := Lib.hid hbi
            clear hbi hxv2 hnext hql htot hq1 hq2
            go_upto_region 22 with fail
            cases x with
            | false =>
              go_quiet (fail)
              go_wp2
              go_roundw
              case rel => exact ⟨q + 1, false, by have := HQ.out; omega, by have := HQ.out; omega, by go_num, rfl, by have := HTO.out; simpa using this, below_drewN HBI.out _⟩
              case measure => have := HQ.out; simp [intOf]; omega
            | true =>
              go_quiet (fail)
              go_wp2
              go_roundw
              case rel => exact ⟨q + 1, decide (id2 ≠ id), by have := HQ.out; omega, by have := HQ.out; omega, by go_num, by simp [bne]; rfl, by have := HTO.out; simpa using this, below_drewN HBI.out _⟩
              case measure => have := HQ.out; simp [intOf]; omega
          · obtain rfl : q = n := by omega
            have hx : x = T := by
              rw [List.drop_eq_nil_of_le (by have := HA.out.2; omega)] at htot
              simpa [noneOf] using htot
            subst hx
            have HBI := Lib.hid hbi
            clear hbi htot
            cases x with
            | false =>
              have hsm2 : L ++ lastly (l.drop (k + 1)) = lastly l := by
                have := HSM.out
                rw [drop_next hkl, lastly, ← HXV.out, ← HT.out] at this
                simpa using this
              go_wp2
              go_roundw
              case rel => exact ⟨k + 1, by have := HJ.out; omega, by go_num, L, m, As, cs, rfl, by have := HMK.out; omega, row_keeps HOWN.out (Keeps.of_below (S := fun _ => False) HBI.out) (fun _ _ h => h), hsm2, HBW.out.trans (HBI.out.mono HBW.out.size)⟩
              case measure => have := HJ.out; simp [intOf]; omega
            | true =>
              have i0 : wr.cell? ⟨b, o + k * 2, none⟩ = some (.int .i64 id) := by have := (HCW.out wr HBI.out k hkl).1; rwa [← HXV.out] at this
              have i1 : wr.cell? ⟨b, o + k * 2 + 1, none⟩ = some (.int .i64 v) := by have := (HCW.out wr HBI.out k hkl).2; rwa [← HXV.out] at this
              have hsm2 : (L ++ [(id, v)]) ++ lastly (l.drop (k + 1)) = lastly l := by
                have := HSM.out
                rw [drop_next hkl, lastly, ← HXV.out, ← HT.out] at this
                simpa using this
              have HS2 := Lib.hid hsm2
              have hOW : wr.ownsRow w6.heap.size 33 2 (.slice As m cs) m (cS L) := row_keeps HOWN.out (Keeps.of_below (S := fun _ => False) HBI.out) (fun _ _ h => h)
              have hBX := HBW.out.trans (HBI.out.mono HBW.out.size)
              clear hsm2
              have hbA : Below wr.heap.size wr (wr.alloc (.cells #[.int .i64 id, .int .i64 v] 33)) := (Below.refl _ _).alloc (Nat.le_refl _) _
              have HOWA : Hid ((wr.alloc (.cells #[.int .i64 id, .int .i64 v] 33)).ownsRow w6.heap.size 33 2 (.slice As m cs) m (cS L)) := Lib.hid (row_keeps hOW (Keeps.of_below (S := fun _ => False) hbA) (fun _ _ h => h))
              have HBA := Lib.hid (hBX.trans (hbA.mono hBX.size))
              have HCE := Lib.hid (atS_newS wr id v)
              clear hOW hBX hbA
              go_wp2_with (first
                | (at_builtin; refine wpList_appendS rfl (.tmp 126) (.tmp 131) rfl w6.heap.size _ m L rfl HOWA.out ⟨wr.heap.size, 0, none⟩ [(id, v)] 1 rfl HCE.out (by have := HMK.out; have := HJ.out; simp; omega) HBA.out.size ?_
                   intro v9 w9 hown9 hg9
                   obtain ⟨A9, c9, rfl, _⟩ := rowS_shape hown9
                   have HB9 := Lib.hid (HBA.out.grown hg9 HBA.out.size (rowS_block HOWA.out))
                   have HOW9 := Lib.hid hown9
                   clear hown9 hg9))
              go_roundw
              case rel => exact ⟨k + 1, by have := HJ.out; omega, by go_num, L ++ [(id, v)], m + 1, A9, c9, rfl, by have := HMK.out; omega, HOW9.out, HS2.out, HB9.out⟩
              case measure => have := HJ.out; simp [intOf]; omega
    · obtain rfl : k = n := by omega
      have e : l.drop k = [] := List.drop_of_length_le (by have := HA.out.2; omega)
      rw [e, lastly, List.append_nil] at hsm
      subst hsm
      have ki : ¬ (k : Int) < (k : Int) := by omega
      obtain ⟨w7, hw7⟩ : ∃ x, x = wo := ⟨_, rfl⟩
      subst hw7
      have HAL : Hid (∀ W, Below w7.heap.size w7 W → Calls Try.prog 8 #[.agg #[.int .i64 4096, .int .i64 1, .int .i64 2147483647, .int .i64 65535, .int .i64 16384, .int .i64 2147483647], .slice As m cs] W fun e w' => e = .returned (.tuple #[.agg #[.int .i64 TX.table, .int .i64 TX.push, .int .i64 TX.streams, .int .i64 TX.window, .int .i64 TX.frame, .int .i64 TX.list], .agg #[.bool false, .bool false, .int .i64 0]]) ∧ Below W.heap.size W w') := Lib.hid (fun W h => by
        have hm : (lastly l).length = m := by have := hown.1; rw [cS_len] at this; omega
        have := zapply_f firstSt As (lastly l) m cs W ((AtS.of_own hown).up h) hm (by have := HN.out; omega)
        rw [HLL.out] at this
        exact this)
      have HB7 := Lib.hid (HB6.out.trans (hbw.mono HB6.out.size))
      have HX7 := Lib.hid (HX6.out.up hbw)
      clear hown hbw hlt hk hmk e a0 a1 a2 c0 c1 c2 c3 c4 c5 z0 z1 z2 e0 e1 e2 e3 e4 e5
      go_wp2_with fail
      with_reducible refine (HFI.out w7).mono ?_
      rintro e w8 ⟨rfl, hb8⟩
      have HB8 := Lib.hid (HB7.out.trans (hb8.mono HB7.out.size))
      have HE8 := Lib.hid hb8
      have HX8 := Lib.hid (HX7.out.up hb8)
      clear hb8
      go_wp2_with fail
      with_reducible refine (HAL.out w8 HE8.out).mono ?_
      rintro e w9 ⟨rfl, hb9⟩
      have HB9 := Lib.hid (HB8.out.trans (hb9.mono HB8.out.size))
      have HX9 := Lib.hid (HX8.out.up hb9)
      clear hb9
      obtain ⟨hk, hb5⟩ := kz_of w9 TX noFlt
      obtain ⟨w10, hw5⟩ : ∃ x, x = keptZ w9 TX noFlt := ⟨_, rfl⟩
      rw [← hw5] at hk hb5
      have hw5' : w10 = (w9.alloc (.cells #[.int .i64 TX.table, .int .i64 TX.push, .int .i64 TX.streams, .int .i64 TX.window, .int .i64 TX.frame, .int .i64 TX.list] 23)).alloc (.cells #[.bool false, .bool false, .int .i64 0] 27) := hw5
      have HB10 := Lib.hid (HB9.out.trans (hb5.mono HB9.out.size))
      have HW10 := Lib.hid hw5'
      obtain ⟨g2, hg⟩ : ∃ g, g = w9.heap.size := ⟨_, rfl⟩
      rw [← hg] at hk
      have HG10 := Lib.hid hg
      have HK10 := Lib.hid hk
      clear hb5 hw5 hw5' hg hk
      go_upto_region 26 with fail
      rw [← HW10.out, ← HG10.out]
      have hb910 : Below w9.heap.size w9 w10 := by rw [HW10.out]; exact ((Below.refl _ _).alloc (Nat.le_refl _) _).alloc (by simp) _
      have HX10 := Lib.hid (HX9.out.up hb910)
      clear hb910
      go_wp2_with fail
      with_reducible refine (HFST.out w10).mono ?_
      rintro e w11 ⟨rfl, hb11⟩
      have HB11 := Lib.hid (HB10.out.trans (hb11.mono HB10.out.size))
      obtain ⟨a0, a1, a2⟩ := (HK10.out.up hb11).flt
      obtain ⟨c0, c1, c2, c3, c4, c5⟩ := (HK10.out.up hb11).sets
      obtain ⟨e0, e1, e2, e3, e4, e5⟩ := (HX10.out.up hb11).sets
      simp only [noFlt] at a0
      clear hb11
      go_wp2
      go_ret
      exact ⟨by simp, HB11.out⟩
end setsLast
end Go.Proofs.Ytkjdjicchmfljaa
