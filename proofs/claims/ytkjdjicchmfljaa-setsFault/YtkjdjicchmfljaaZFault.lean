/- The walk of SetsFault. -/
import Derived.Test.YtkjdjicchmfljaaZFew
import Derived.Test.YtkjdjicchmfljaaZSteps
import Derived.Test.YtkjdjicchmfljaaZCut
import Derived.Test.YtkjdjicchmfljaaZRowK
namespace Go.Proofs.Ytkjdjicchmfljaa
open Go.RowKit Zs

theorem atS_kept {w : World} {b : Nat} (h : w.heap[b]? = some (.cells #[.int .i64 2, .int .i64 7] 33 (0, 0))) : AtS w (b + 1) (some ⟨b, 0, none⟩) [((2 : Int), (7 : Int))] := fun _ => ⟨b, 0, rfl, by omega, fun k hk => by
  obtain rfl : k = 0 := by simpa using hk
  exact ⟨cell_of_row _ b 0 _ 33 _ h, cell_of_row _ b 1 _ 33 _ h⟩⟩
theorem cutS_none {A : Option Addr} {c q : Nat} (h : A = none → c = 0) : cutS A c q = none → c - q = 0 := by
  intro hn
  unfold cutS at hn
  split at hn
  · omega
  · cases A with
    | none => have := h rfl; omega
    | some a => simp at hn
namespace setsFault
set_option maxRecDepth 100000 in
set_option maxHeartbeats 4000000 in
theorem walk_in (A : Option Addr) (l : List (Int × Int)) (n c p : Nat) (w : World) (TX TZ : St) (FX FZ : Flt) (cy : Nat) (hA : AtS w w.heap.size A l) (hl : l.length = n) (hc : A = none → c = 0) (hcl : n ≤ c) (hn : n ≤ 300) (hp : p ≤ n)
    (hX : apply firstSt l = (TX, FX)) (hZ : apply firstSt (l.take p) = (TZ, FZ)) (hY : apply firstSt (l.take p ++ (2, 7) :: l.drop p) = (zeroSt, ⟨true, true, cy⟩)) (hyz : FZ = ⟨true, true, cy⟩ ∧ FX = FZ ∨ FZ = noFlt ∧ cy = 1) : Calls Try.prog 6 #[.slice A n c, .int .i64 (p : Int)] w (YesZ w) := by
  have HFST := Lib.hid fun (W : World) => first13_any W
  have HFI := Lib.hid fun (W : World) => zfirst_is W
  obtain ⟨r, hr⟩ : ∃ r, r = n - p := ⟨_, rfl⟩
  have HAX : Hid (∀ W, Below w.heap.size w W → Calls Try.prog 8 #[.agg #[.int .i64 4096, .int .i64 1, .int .i64 2147483647, .int .i64 65535, .int .i64 16384, .int .i64 2147483647], .slice A n c] W fun e w' => e = .returned (.tuple #[.agg #[.int .i64 TX.table, .int .i64 TX.push, .int .i64 TX.streams, .int .i64 TX.window, .int .i64 TX.frame, .int .i64 TX.list], .agg #[.bool FX.bad, .bool FX.conn, .int .i64 (FX.code : Int)]]) ∧ Below W.heap.size W w') := Lib.hid (fun W h => by
    have := zapply_f firstSt A l n c W (hA.up h) hl (by omega)
    rw [hX] at this
    exact this)
  have HAZ : Hid (∀ W, Below w.heap.size w W → Calls Try.prog 8 #[.agg #[.int .i64 4096, .int .i64 1, .int .i64 2147483647, .int .i64 65535, .int .i64 16384, .int .i64 2147483647], .slice (cutS A c 0) p c] W fun e w' => e = .returned (.tuple #[.agg #[.int .i64 TZ.table, .int .i64 TZ.push, .int .i64 TZ.streams, .int .i64 TZ.window, .int .i64 TZ.frame, .int .i64 TZ.list], .agg #[.bool FZ.bad, .bool FZ.conn, .int .i64 (FZ.code : Int)]]) ∧ Below W.heap.size W w') := Lib.hid (fun W h => by
    have := zapply_f firstSt (cutS A c 0) (l.take p) p c W ((hA.up h).take (by omega)) (by rw [List.length_take]; omega) (by omega)
    rw [hZ] at this
    exact this)
  have HAY : Hid (∀ (B : Nat) (A' : Option Addr) (c' : Nat) (W : World), W.ownsRow B 33 2 (.slice A' (p + 1 + r) c') (p + 1 + r) (cS (l.take p ++ [((2 : Int), (7 : Int))] ++ l.drop p)) → Calls Try.prog 8 #[.agg #[.int .i64 4096, .int .i64 1, .int .i64 2147483647, .int .i64 65535, .int .i64 16384, .int .i64 2147483647], .slice A' (p + 1 + r) c'] W fun e w' => e = .returned (.tuple #[.agg #[.int .i64 0, .int .i64 0, .int .i64 0, .int .i64 0, .int .i64 0, .int .i64 0], .agg #[.bool true, .bool true, .int .i64 (cy : Int)]]) ∧ Below W.heap.size W w') := Lib.hid (fun B A' c' W h => by
    have := zapply_f firstSt A' (l.take p ++ [((2 : Int), (7 : Int))] ++ l.drop p) (p + 1 + r) c' W (AtS.of_own h) (by simp; omega) (by omega)
    rw [show l.take p ++ [((2 : Int), (7 : Int))] ++ l.drop p = l.take p ++ (2, 7) :: l.drop p by simp, hY] at this
    exact this)
  have hsp := fun (W : World) => slice_hS A n c p W (by omega)
  have hsq := fun (W : World) => slice_lS A n c p r W (by omega) hr.symm
  have ip0 : (0 : Int) ≤ (p : Int) := by omega
  have ipn : (p : Int) ≤ (n : Int) := by omega
  have ipc : (p : Int) ≤ (c : Int) := by omega
  have k1 : ¬ (300 : Int) < (n : Int) := by omega
  have k2 : ¬ (p : Int) < 0 := by omega
  have k3 : ¬ (n : Int) < (p : Int) := by omega
  have HPN : Hid (p ≤ 300 ∧ r ≤ 300) := Lib.hid (by omega)
  have HTL : Hid ((l.take p).length = p) := Lib.hid (by rw [List.length_take]; omega)
  have HDL : Hid ((l.drop p).length = r) := Lib.hid (by rw [List.length_drop]; omega)
  have HNC : Hid (cutS A c 0 = none → c = 0) := Lib.hid (fun h => by have := cutS_none hc h; omega)
  have HNC2 : Hid (cutS A c p = none → c - p = 0) := Lib.hid (fun h => cutS_none hc h)
  have HATW : Hid (∀ W, Below w.heap.size w W → AtS W W.heap.size (cutS A c 0) (l.take p) ∧ AtS W W.heap.size (cutS A c p) (l.drop p)) := Lib.hid (fun W h => ⟨(hA.up h).take (by omega), (hA.up h).drop (by omega)⟩)
  have HYZ := Lib.hid hyz
  clear hA hl hc hcl hn hp hX hZ hY hyz hr
  go_enter Try.func6, Try.ntmps6
  have HB0 := Lib.hid (Below.refl w.heap.size w)
  go_wp2_with fail
  with_reducible refine (HFST.out w).mono ?_
  rintro e w1 ⟨rfl, hb1⟩
  have HB1 := Lib.hid (HB0.out.trans (hb1.mono HB0.out.size))
  clear hb1
  go_wp2_with fail
  with_reducible refine (HFI.out w1).mono ?_
  rintro e w2 ⟨rfl, hb2⟩
  have HB2 := Lib.hid (HB1.out.trans (hb2.mono HB1.out.size))
  clear hb2
  go_wp2_with fail
  with_reducible refine (HAX.out w2 HB2.out).mono ?_
  rintro e w3 ⟨rfl, hb3⟩
  have HB3 := Lib.hid (HB2.out.trans (hb3.mono HB2.out.size))
  clear hb3
  obtain ⟨hk, hb5⟩ := kz_of w3 TX FX
  obtain ⟨w4, hw5⟩ : ∃ x, x = keptZ w3 TX FX := ⟨_, rfl⟩
  rw [← hw5] at hk hb5
  have hw5' : w4 = (w3.alloc (.cells #[.int .i64 TX.table, .int .i64 TX.push, .int .i64 TX.streams, .int .i64 TX.window, .int .i64 TX.frame, .int .i64 TX.list] 23)).alloc (.cells #[.bool FX.bad, .bool FX.conn, .int .i64 (FX.code : Int)] 27) := hw5
  have HB4 := Lib.hid (HB3.out.trans (hb5.mono HB3.out.size))
  have HW4 := Lib.hid hw5'
  obtain ⟨g1, hg⟩ : ∃ g, g = w3.heap.size := ⟨_, rfl⟩
  rw [← hg] at hk
  have HG4 := Lib.hid hg
  have HK4 := Lib.hid hk
  clear hb5 hw5 hw5' hg hk
  go_upto_region 6 with fail
  rw [← HW4.out, ← HG4.out]
  obtain ⟨w5, hw5⟩ : ∃ x, x = w4.alloc (.cells #[.int .i64 2, .int .i64 7] 33) := ⟨_, rfl⟩
  have hr5 : w5.heap[w4.heap.size]? = some (.cells #[.int .i64 2, .int .i64 7] 33 (0, 0)) := by rw [hw5]; exact heap_alloc_new w4 _
  have hb5 : Below w4.heap.size w4 w5 := by rw [hw5]; exact (Below.refl _ _).alloc (Nat.le_refl _) _
  obtain ⟨gk, hgk⟩ : ∃ g, g = w4.heap.size := ⟨_, rfl⟩
  rw [← hgk] at hr5
  have HW5 := Lib.hid hw5
  have HGK := Lib.hid hgk
  have HB5 := Lib.hid (HB4.out.trans (hb5.mono HB4.out.size))
  have HK5 := Lib.hid (HK4.out.up hb5)
  have HKC : Hid (∀ W, Below w5.heap.size w5 W → W.cell? ⟨gk, 0, none⟩ = some (.int .i64 2) ∧ W.cell? ⟨gk, 1, none⟩ = some (.int .i64 7)) := Lib.hid (fun W h => by
    have h2 := (h.block gk (lt_of_heapZ hr5)).trans hr5
    exact ⟨cell_of_row _ gk 0 _ 33 _ h2, cell_of_row _ gk 1 _ 33 _ h2⟩)
  clear hw5 hr5 hb5 hgk
  go_upto_region 7 with fail
  rw [← HW5.out, ← HGK.out]
  go_wp2_with fail
  go_cut [8] (fun x wx => ∃ A' c', x = .slice A' (p + 1 + r) c' ∧ wx.ownsRow w5.heap.size 33 2 (.slice A' (p + 1 + r) c') (p + 1 + r) (cS (l.take p ++ [((2 : Int), (7 : Int))] ++ l.drop p)) ∧ Below w5.heap.size w5 wx)
  case first =>
    refine wp_region_held_drew (S := fun w' => w'.cell? ⟨gk, 0, none⟩ = some (.int .i64 2) ∧ w'.cell? ⟨gk, 1, none⟩ = some (.int .i64 7)) (by kernel_rfl) (HKC.out _ (Below.refl _ _).drew) (fun hHeld => ?_)
    have hb0 : Below w5.heap.size w5 w5.drew := (Below.refl _ _).drew
    obtain ⟨y0, hy0⟩ : ∃ y0, y0 = w5.drew := ⟨_, rfl⟩
    rw [← hy0] at hb0 hHeld ⊢
    clear hy0
    refine wpAnyH_take (i := 1) (v := ?_) rfl (by kernel_rfl) (by kernel_rfl) (by kernel_rfl) (fun _ _ _ h => h) (Or.inl ⟨by rfl, ?_⟩) hHeld ?_
    rotate_left
    · intro w hSw
      obtain ⟨k0, k1⟩ := hSw
      try dsimp only at hSw
      go_simp
      try with_reducible rfl
    change wpAnyH _ _ _ _ _ _ _ (Act.put _ (some 37) _) _
    simp only [Act.put, List.setIfInBounds_toArray, List.set_cons_zero, List.set_cons_succ]
    refine wpAnyH_take (i := 2) (v := ?_) rfl (by kernel_rfl) (by kernel_rfl) (by kernel_rfl) (fun _ _ _ h => h) (Or.inl ⟨by rfl, ?_⟩) hHeld ?_
    rotate_left
    · intro w hSw
      obtain ⟨k0, k1⟩ := hSw
      try dsimp only at hSw
      go_simp
      try with_reducible rfl
    change wpAnyH _ _ _ _ _ _ _ (Act.put _ (some 38) _) _
    simp only [Act.put, List.setIfInBounds_toArray, List.set_cons_zero, List.set_cons_succ]
    refine wpAnyH_take (i := 3) (v := ?_) rfl (by kernel_rfl) (by kernel_rfl) (by kernel_rfl) (fun _ _ _ h => h) (Or.inl ⟨by rfl, ?_⟩) hHeld ?_
    rotate_left
    · intro w hSw
      obtain ⟨k0, k1⟩ := hSw
      try dsimp only at hSw
      go_simp
      try with_reducible rfl
    change wpAnyH _ _ _ _ _ _ _ (Act.put _ (some 39) _) _
    simp only [Act.put, List.setIfInBounds_toArray, List.set_cons_zero, List.set_cons_succ]
    refine wpAnyH_take (i := 5) (v := ?_) rfl (by kernel_rfl) (by kernel_rfl) (by kernel_rfl) (fun _ _ _ h => h) (Or.inl ⟨by rfl, ?_⟩) hHeld ?_
    rotate_left
    · intro w hSw
      obtain ⟨k0, k1⟩ := hSw
      try dsimp only at hSw
      go_simp
      try with_reducible rfl
    change wpAnyH _ _ _ _ _ _ _ (Act.put _ (some 41) _) _
    simp only [Act.put, List.setIfInBounds_toArray, List.set_cons_zero, List.set_cons_succ]
    refine wpAnyH_take (i := 8) (v := ?_) rfl (by kernel_rfl) (by kernel_rfl) (by kernel_rfl) (fun _ _ _ h => h) (Or.inl ⟨by rfl, ?_⟩) hHeld ?_
    rotate_left
    · intro w hSw
      obtain ⟨k0, k1⟩ := hSw
      try dsimp only at hSw
      go_simp
      try with_reducible rfl
    change wpAnyH _ _ _ _ _ _ _ (Act.put _ (some 44) _) _
    simp only [Act.put, List.setIfInBounds_toArray, List.set_cons_zero, List.set_cons_succ]
    refine wpAnyH_take (i := 9) (v := ?_) rfl (by kernel_rfl) (by kernel_rfl) (by kernel_rfl) (fun _ _ _ h => h) (Or.inl ⟨by rfl, ?_⟩) hHeld ?_
    rotate_left
    · intro w hSw
      obtain ⟨k0, k1⟩ := hSw
      try dsimp only at hSw
      go_simp
      try with_reducible rfl
    change wpAnyH _ _ _ _ _ _ _ (Act.put _ (some 45) _) _
    simp only [Act.put, List.setIfInBounds_toArray, List.set_cons_zero, List.set_cons_succ]
    refine wpAnyH_take (i := 10) (v := ?_) rfl (by kernel_rfl) (by kernel_rfl) (by kernel_rfl) (fun _ _ _ h => h) (Or.inl ⟨by rfl, ?_⟩) hHeld ?_
    rotate_left
    · intro w hSw
      obtain ⟨k0, k1⟩ := hSw
      try dsimp only at hSw
      go_simp
      try with_reducible rfl
    change wpAnyH _ _ _ _ _ _ _ (Act.put _ (some 46) _) _
    simp only [Act.put, List.setIfInBounds_toArray, List.set_cons_zero, List.set_cons_succ]
    refine held_nameZ (fun o0 q0 a0 ho hq0 hA0 => ?_)
    have HQP : Hid (∀ c a (d : Nat) v w, q0 (.panic c) (Act.put a (some d) v) w → q0 (.panic c) a w) := Lib.hid (by rw [hq0]; exact fun _ _ _ _ _ h => h)
    have KEBPQR : Hid (∀ (y : World) (ge : Nat) (bb : Nat) (Ap : Option Addr) (cp : Nat) (Aq : Option Addr) (cq : Nat) (Ar : Option Addr) (cr : Nat), Below w5.heap.size w5 y → y.ownsRow w5.heap.size 33 2 (.slice Ar (p + 1 + r) cr) (p + 1 + r) (cS (l.take p ++ [((2 : Int), (7 : Int))] ++ l.drop p)) → wpAnyH Try.prog .any o0 q0 (fun w' => w'.cell? ⟨gk, 0, none⟩ = some (.int .i64 2) ∧ w'.cell? ⟨gk, 1, none⟩ = some (.int .i64 7)) 0 #[true, true, true, true, true, true, true, true, true, true, true, true, true] ({ tmps := ((((((a0.tmps.setIfInBounds 36 (.slice (some ⟨ge, 0, none⟩) 0 0)).setIfInBounds 42 (.slice (some ⟨bb, 0, none⟩) 1 1)).setIfInBounds 40 (.slice Ap p cp)).setIfInBounds 43 (.slice Aq (p + 1) cq)).setIfInBounds 47 (.slice Ar (p + 1 + r) cr)).setIfInBounds 8 (.slice Ar (p + 1 + r) cr)), defers := [] } : Act) y) := Lib.hid (by
      intro y ge bb Ap cp Aq cq Ar cr hb hr
      rw [ho, hA0]
      simp only [List.setIfInBounds_toArray, List.set_cons_zero, List.set_cons_succ]
      have hHeld : (fun w' => w'.cell? ⟨gk, 0, none⟩ = some (.int .i64 2) ∧ w'.cell? ⟨gk, 1, none⟩ = some (.int .i64 7)) y := (HKC.out y hb)
      try dsimp only at hHeld
      refine wpAnyH_done (by kernel_rfl) ?_ _
      rw [hq0]
      go_wp2
      go_meet
      case rel => exact ⟨Ar, cr, rfl, hr, hb⟩)
    have KEBPQ : Hid (∀ (y : World) (ge : Nat) (bb : Nat) (Ap : Option Addr) (cp : Nat) (Aq : Option Addr) (cq : Nat), Below w5.heap.size w5 y → y.ownsRow w5.heap.size 33 2 (.slice Aq (p + 1) cq) (p + 1) (cS (l.take p ++ [((2 : Int), (7 : Int))])) → wpAnyH Try.prog .any o0 q0 (fun w' => w'.cell? ⟨gk, 0, none⟩ = some (.int .i64 2) ∧ w'.cell? ⟨gk, 1, none⟩ = some (.int .i64 7)) 2 #[true, true, true, true, true, true, true, true, true, true, true, false, false] ({ tmps := ((((a0.tmps.setIfInBounds 36 (.slice (some ⟨ge, 0, none⟩) 0 0)).setIfInBounds 42 (.slice (some ⟨bb, 0, none⟩) 1 1)).setIfInBounds 40 (.slice Ap p cp)).setIfInBounds 43 (.slice Aq (p + 1) cq)), defers := [] } : Act) y) := Lib.hid (by
      intro y ge bb Ap cp Aq cq hb hq
      rw [ho, hA0]
      simp only [List.setIfInBounds_toArray, List.set_cons_zero, List.set_cons_succ]
      have hHeld : (fun w' => w'.cell? ⟨gk, 0, none⟩ = some (.int .i64 2) ∧ w'.cell? ⟨gk, 1, none⟩ = some (.int .i64 7)) y := (HKC.out y hb)
      try dsimp only at hHeld
      refine wpAnyH_ready (rs := [11]) (by kernel_rfl) (by simp) ?_
      refine AllReadyH.cons rfl (fun K hK => ?_) ?_
      · refine step_appSA rfl (.tmp 43) (.tmp 46) rfl w5.heap.size (.slice Aq (p + 1) cq) (p + 1) (l.take p ++ [((2 : Int), (7 : Int))]) rfl hq (cutS A c p) (l.drop p) r (c - p) HDL.out rfl HNC2.out _ (HATW.out y (HB5.out.trans (hb.mono HB5.out.size))).2 (by rw [HDL.out]; have := HPN.out; omega) hb.size ?_
        intro v9 y' ho9 hg9
        have hb' := hb.grown hg9 hb.size (rowS_block hq)
        obtain ⟨Ar, cr, e9, _, _⟩ := rowS_shape ho9
        have hr' : y'.ownsRow w5.heap.size 33 2 (.slice Ar (p + 1 + r) cr) (p + 1 + r) (cS (l.take p ++ [((2 : Int), (7 : Int))] ++ l.drop p)) := by
          have h := ho9
          rw [e9, HDL.out] at h
          exact h
        rw [HDL.out] at e9
        subst e9
        refine hK.out _ _ (HKC.out y' hb') (fun hHeld => ?_)
        clear hK K
        refine wpAnyH_take (i := 12) (v := ?_) rfl (by kernel_rfl) (by kernel_rfl) (by kernel_rfl) (fun _ _ _ h => HQP.out _ _ _ _ _ h) (Or.inl ⟨by rfl, ?_⟩) hHeld ?_
        rotate_left
        · intro w hSw
          obtain ⟨k0, k1⟩ := hSw
          try dsimp only at hSw
          go_simp
          try with_reducible rfl
        change wpAnyH _ _ _ _ _ _ _ (Act.put _ (some 8) _) _
        simp only [Act.put, List.setIfInBounds_toArray]
        exact held_asZ ho (by kernel_rfl) (by rw [hA0]; kernel_rfl) (KEBPQR.out _ ge bb Ap cp Aq cq Ar cr hb' hr')
      exact AllReadyH.nil)
    have KEBP : Hid (∀ (y : World) (ge : Nat) (bb : Nat) (Ap : Option Addr) (cp : Nat), Below w5.heap.size w5 y → y.heap[bb]? = some (.cells #[.int .i64 2, .int .i64 7] 33 (0, 0)) → y.ownsRow w5.heap.size 33 2 (.slice Ap p cp) p (cS (l.take p)) → wpAnyH Try.prog .any o0 q0 (fun w' => w'.cell? ⟨gk, 0, none⟩ = some (.int .i64 2) ∧ w'.cell? ⟨gk, 1, none⟩ = some (.int .i64 7)) 3 #[true, true, true, true, true, true, true, false, true, true, true, false, false] ({ tmps := (((a0.tmps.setIfInBounds 36 (.slice (some ⟨ge, 0, none⟩) 0 0)).setIfInBounds 42 (.slice (some ⟨bb, 0, none⟩) 1 1)).setIfInBounds 40 (.slice Ap p cp)), defers := [] } : Act) y) := Lib.hid (by
      intro y ge bb Ap cp hb hbb hp
      rw [ho, hA0]
      simp only [List.setIfInBounds_toArray, List.set_cons_zero, List.set_cons_succ]
      have hHeld : (fun w' => w'.cell? ⟨gk, 0, none⟩ = some (.int .i64 2) ∧ w'.cell? ⟨gk, 1, none⟩ = some (.int .i64 7)) y := (HKC.out y hb)
      try dsimp only at hHeld
      refine wpAnyH_ready (rs := [7]) (by kernel_rfl) (by simp) ?_
      refine AllReadyH.cons rfl (fun K hK => ?_) ?_
      · refine step_appSA rfl (.tmp 40) (.tmp 42) rfl w5.heap.size (.slice Ap p cp) p (l.take p) rfl hp (some ⟨bb, 0, none⟩) [((2 : Int), (7 : Int))] 1 1 rfl rfl (fun h => by cases h) (bb + 1) (atS_kept hbb) (by have := HPN.out; simp; omega) hb.size ?_
        intro v9 y' ho9 hg9
        have hb' := hb.grown hg9 hb.size (rowS_block hp)
        obtain ⟨Aq, cq, e9, _, _⟩ := rowS_shape ho9
        have hq' : y'.ownsRow w5.heap.size 33 2 (.slice Aq (p + 1) cq) (p + 1) (cS (l.take p ++ [((2 : Int), (7 : Int))])) := by
          have h := ho9
          rw [e9] at h
          exact h
        subst e9
        refine hK.out _ _ (HKC.out y' hb') (fun hHeld => ?_)
        clear hK K
        exact held_asZ ho (by kernel_rfl) (by rw [hA0]; kernel_rfl) (KEBPQ.out _ ge bb Ap cp Aq cq hb' hq')
      exact AllReadyH.nil)
    have KEB : Hid (∀ (y : World) (ge : Nat) (bb : Nat), Below w5.heap.size w5 y → y.ownsRow w5.heap.size 33 2 (.slice (some ⟨ge, 0, none⟩) 0 0) 0 (cS []) → y.heap[bb]? = some (.cells #[.int .i64 2, .int .i64 7] 33 (0, 0)) → bb ≠ ge → wpAnyH Try.prog .any o0 q0 (fun w' => w'.cell? ⟨gk, 0, none⟩ = some (.int .i64 2) ∧ w'.cell? ⟨gk, 1, none⟩ = some (.int .i64 7)) 4 #[true, true, true, true, false, true, true, false, true, true, true, false, false] ({ tmps := ((a0.tmps.setIfInBounds 36 (.slice (some ⟨ge, 0, none⟩) 0 0)).setIfInBounds 42 (.slice (some ⟨bb, 0, none⟩) 1 1)), defers := [] } : Act) y) := Lib.hid (by
      intro y ge bb hb he hbb ne
      rw [ho, hA0]
      simp only [List.setIfInBounds_toArray, List.set_cons_zero, List.set_cons_succ]
      have hHeld : (fun w' => w'.cell? ⟨gk, 0, none⟩ = some (.int .i64 2) ∧ w'.cell? ⟨gk, 1, none⟩ = some (.int .i64 7)) y := (HKC.out y hb)
      try dsimp only at hHeld
      refine wpAnyH_ready (rs := [4]) (by kernel_rfl) (by simp) ?_
      refine AllReadyH.cons rfl (fun K hK => ?_) ?_
      · refine step_appSA rfl (.tmp 36) (.tmp 39) rfl w5.heap.size (.slice (some ⟨ge, 0, none⟩) 0 0) 0 [] rfl he (cutS A c 0) (l.take p) p c HTL.out rfl HNC.out _ (HATW.out y (HB5.out.trans (hb.mono HB5.out.size))).1 (by rw [HTL.out]; have := HPN.out; omega) hb.size ?_
        intro v9 y' ho9 hg9
        have hb' := hb.grown hg9 hb.size (rowS_block he)
        obtain ⟨Ap, cp, e9, _, _⟩ := rowS_shape ho9
        have hp' : y'.ownsRow w5.heap.size 33 2 (.slice Ap p cp) p (cS (l.take p)) := by
          have h := ho9
          rw [e9, HTL.out, Nat.zero_add, List.nil_append] at h
          exact h
        rw [HTL.out, Nat.zero_add] at e9
        subst e9
        have hbb' := (hg9.block bb (lt_of_heapZ hbb) (fun e => ne (Option.some.inj e))).trans hbb
        refine hK.out _ _ (HKC.out y' hb') (fun hHeld => ?_)
        clear hK K
        exact held_asZ ho (by kernel_rfl) (by rw [hA0]; kernel_rfl) (KEBP.out _ ge bb Ap cp hb' hbb' hp')
      exact AllReadyH.nil)
    have KEP : Hid (∀ (y : World) (ge : Nat) (Ap : Option Addr) (cp : Nat), Below w5.heap.size w5 y → y.ownsRow w5.heap.size 33 2 (.slice Ap p cp) p (cS (l.take p)) → wpAnyH Try.prog .any o0 q0 (fun w' => w'.cell? ⟨gk, 0, none⟩ = some (.int .i64 2) ∧ w'.cell? ⟨gk, 1, none⟩ = some (.int .i64 7)) 4 #[true, true, true, true, true, true, false, false, true, true, true, false, false] ({ tmps := ((a0.tmps.setIfInBounds 36 (.slice (some ⟨ge, 0, none⟩) 0 0)).setIfInBounds 40 (.slice Ap p cp)), defers := [] } : Act) y) := Lib.hid (by
      intro y ge Ap cp hb hp
      rw [ho, hA0]
      simp only [List.setIfInBounds_toArray, List.set_cons_zero, List.set_cons_succ]
      have hHeld : (fun w' => w'.cell? ⟨gk, 0, none⟩ = some (.int .i64 2) ∧ w'.cell? ⟨gk, 1, none⟩ = some (.int .i64 7)) y := (HKC.out y hb)
      try dsimp only at hHeld
      refine wpAnyH_ready (rs := [6]) (by kernel_rfl) (by simp) ?_
      refine AllReadyH.cons rfl (fun K hK => ?_) ?_
      · refine step_oneS rfl 41 rfl 2 7 rfl (fun bb y' hbb_ hx hbb' => ?_)
        have hb' := hb.trans (hx.mono hb.size)
        clear hbb_
        have hp' := row_keeps hp (Keeps.of_below (S := fun _ => False) hx) (fun _ _ h => h)
        refine hK.out _ _ (HKC.out y' hb') (fun hHeld => ?_)
        clear hK K
        exact held_asZ ho (by kernel_rfl) (by rw [hA0]; kernel_rfl) (KEBP.out _ ge bb Ap cp hb' hbb' hp')
      exact AllReadyH.nil)
    have KB : Hid (∀ (y : World) (bb : Nat), Below w5.heap.size w5 y → y.heap[bb]? = some (.cells #[.int .i64 2, .int .i64 7] 33 (0, 0)) → wpAnyH Try.prog .any o0 q0 (fun w' => w'.cell? ⟨gk, 0, none⟩ = some (.int .i64 2) ∧ w'.cell? ⟨gk, 1, none⟩ = some (.int .i64 7)) 5 #[false, true, true, true, false, true, true, false, true, true, true, false, false] ({ tmps := (a0.tmps.setIfInBounds 42 (.slice (some ⟨bb, 0, none⟩) 1 1)), defers := [] } : Act) y) := Lib.hid (by
      intro y bb hb hbb
      rw [ho, hA0]
      simp only [List.setIfInBounds_toArray, List.set_cons_zero, List.set_cons_succ]
      have hHeld : (fun w' => w'.cell? ⟨gk, 0, none⟩ = some (.int .i64 2) ∧ w'.cell? ⟨gk, 1, none⟩ = some (.int .i64 7)) y := (HKC.out y hb)
      try dsimp only at hHeld
      refine wpAnyH_ready (rs := [0]) (by kernel_rfl) (by simp) ?_
      refine AllReadyH.cons rfl (fun K hK => ?_) ?_
      · refine step_emptyW rfl rfl w5.heap.size hb.size (fun ge y' hge hx he' => ?_)
        have hb' := hb.trans (hx.mono hb.size)
        have ne : bb ≠ ge := by have := lt_of_heapZ hbb; omega
        clear hge
        have hbb' := (hx.block bb (lt_of_heapZ hbb)).trans hbb
        refine hK.out _ _ (HKC.out y' hb') (fun hHeld => ?_)
        clear hK K
        exact held_asZ ho (by kernel_rfl) (by rw [hA0]; kernel_rfl) (KEB.out _ ge bb hb' he' hbb' ne)
      exact AllReadyH.nil)
    have KE : Hid (∀ (y : World) (ge : Nat), Below w5.heap.size w5 y → y.ownsRow w5.heap.size 33 2 (.slice (some ⟨ge, 0, none⟩) 0 0) 0 (cS []) → wpAnyH Try.prog .any o0 q0 (fun w' => w'.cell? ⟨gk, 0, none⟩ = some (.int .i64 2) ∧ w'.cell? ⟨gk, 1, none⟩ = some (.int .i64 7)) 5 #[true, true, true, true, false, true, false, false, true, true, true, false, false] ({ tmps := (a0.tmps.setIfInBounds 36 (.slice (some ⟨ge, 0, none⟩) 0 0)), defers := [] } : Act) y) := Lib.hid (by
      intro y ge hb he
      rw [ho, hA0]
      simp only [List.setIfInBounds_toArray, List.set_cons_zero, List.set_cons_succ]
      have hHeld : (fun w' => w'.cell? ⟨gk, 0, none⟩ = some (.int .i64 2) ∧ w'.cell? ⟨gk, 1, none⟩ = some (.int .i64 7)) y := (HKC.out y hb)
      try dsimp only at hHeld
      refine wpAnyH_ready (rs := [4, 6]) (by kernel_rfl) (by simp) ?_
      refine AllReadyH.cons rfl (fun K hK => ?_) ?_
      · refine step_appSA rfl (.tmp 36) (.tmp 39) rfl w5.heap.size (.slice (some ⟨ge, 0, none⟩) 0 0) 0 [] rfl he (cutS A c 0) (l.take p) p c HTL.out rfl HNC.out _ (HATW.out y (HB5.out.trans (hb.mono HB5.out.size))).1 (by rw [HTL.out]; have := HPN.out; omega) hb.size ?_
        intro v9 y' ho9 hg9
        have hb' := hb.grown hg9 hb.size (rowS_block he)
        obtain ⟨Ap, cp, e9, _, _⟩ := rowS_shape ho9
        have hp' : y'.ownsRow w5.heap.size 33 2 (.slice Ap p cp) p (cS (l.take p)) := by
          have h := ho9
          rw [e9, HTL.out, Nat.zero_add, List.nil_append] at h
          exact h
        rw [HTL.out, Nat.zero_add] at e9
        subst e9
        refine hK.out _ _ (HKC.out y' hb') (fun hHeld => ?_)
        clear hK K
        exact held_asZ ho (by kernel_rfl) (by rw [hA0]; kernel_rfl) (KEP.out _ ge Ap cp hb' hp')
      refine AllReadyH.cons rfl (fun K hK => ?_) ?_
      · refine step_oneS rfl 41 rfl 2 7 rfl (fun bb y' hbb_ hx hbb' => ?_)
        have hb' := hb.trans (hx.mono hb.size)
        have ne : bb ≠ ge := by have := (he.lt ge rfl).2; omega
        clear hbb_
        have he' := row_keeps he (Keeps.of_below (S := fun _ => False) hx) (fun _ _ h => h)
        refine hK.out _ _ (HKC.out y' hb') (fun hHeld => ?_)
        clear hK K
        exact held_asZ ho (by kernel_rfl) (by rw [hA0]; kernel_rfl) (KEB.out _ ge bb hb' he' hbb' ne)
      exact AllReadyH.nil)
    have K : Hid (∀ (y : World), Below w5.heap.size w5 y → wpAnyH Try.prog .any o0 q0 (fun w' => w'.cell? ⟨gk, 0, none⟩ = some (.int .i64 2) ∧ w'.cell? ⟨gk, 1, none⟩ = some (.int .i64 7)) 6 #[false, true, true, true, false, true, false, false, true, true, true, false, false] (a0 : Act) y) := Lib.hid (by
      intro y  hb
      rw [ho, hA0]
      have hHeld : (fun w' => w'.cell? ⟨gk, 0, none⟩ = some (.int .i64 2) ∧ w'.cell? ⟨gk, 1, none⟩ = some (.int .i64 7)) y := (HKC.out y hb)
      try dsimp only at hHeld
      refine wpAnyH_ready (rs := [0, 6]) (by kernel_rfl) (by simp) ?_
      refine AllReadyH.cons rfl (fun K hK => ?_) ?_
      · refine step_emptyS rfl rfl w5.heap.size hb.size (fun ge y' hx he' => ?_)
        have hb' := hb.trans (hx.mono hb.size)
        refine hK.out _ _ (HKC.out y' hb') (fun hHeld => ?_)
        clear hK K
        exact held_asZ ho (by kernel_rfl) (by rw [hA0]; kernel_rfl) (KE.out _ ge hb' he')
      refine AllReadyH.cons rfl (fun K hK => ?_) ?_
      · refine step_oneS rfl 41 rfl 2 7 rfl (fun bb y' hbb_ hx hbb' => ?_)
        have hb' := hb.trans (hx.mono hb.size)
        clear hbb_
        refine hK.out _ _ (HKC.out y' hb') (fun hHeld => ?_)
        clear hK K
        exact held_asZ ho (by kernel_rfl) (by rw [hA0]; kernel_rfl) (KB.out _ bb hb' hbb')
      exact AllReadyH.nil)
    exact held_asZ rfl (by kernel_rfl) rfl (K.out y0 hb0)
  case rest =>
  obtain ⟨Am, cm, rfl, hm, hb6⟩ := hcut
  rename_i hKK
  refine hKK _ _ ?_
  clear hKK
  obtain ⟨w6, hw6⟩ : ∃ w6, w6 = wc := ⟨_, rfl⟩
  subst hw6
  have HM := Lib.hid hm
  have HB6 := Lib.hid (HB5.out.trans (hb6.mono HB5.out.size))
  have HK6 := Lib.hid (HK5.out.up' hb6)
  clear hm hb6 HKC
  go_wp2_with fail
  with_reducible refine (HFI.out w6).mono ?_
  rintro e w7 ⟨rfl, hb7⟩
  have HB7 := Lib.hid (HB6.out.trans (hb7.mono HB6.out.size))
  have HK7 := Lib.hid (HK6.out.up hb7)
  have HM7 := Lib.hid (row_keeps HM.out (Keeps.of_below (S := fun _ => False) hb7) (fun _ _ h => h))
  clear hb7
  go_wp2_with fail
  with_reducible refine (HAY.out _ _ _ w7 HM7.out).mono ?_
  rintro e w8 ⟨rfl, hb8⟩
  have HB8 := Lib.hid (HB7.out.trans (hb8.mono HB7.out.size))
  have HK8 := Lib.hid (HK7.out.up hb8)
  clear hb8
  obtain ⟨hk, hb5⟩ := kz_of w8 zeroSt (⟨true, true, cy⟩ : Flt)
  obtain ⟨w9, hw5⟩ : ∃ x, x = keptZ w8 zeroSt (⟨true, true, cy⟩ : Flt) := ⟨_, rfl⟩
  rw [← hw5] at hk hb5
  have hw5' : w9 = (w8.alloc (.cells #[.int .i64 0, .int .i64 0, .int .i64 0, .int .i64 0, .int .i64 0, .int .i64 0] 23)).alloc (.cells #[.bool true, .bool true, .int .i64 (cy : Int)] 27) := hw5
  have HB9 := Lib.hid (HB8.out.trans (hb5.mono HB8.out.size))
  have HW9 := Lib.hid hw5'
  obtain ⟨g2, hg⟩ : ∃ g, g = w8.heap.size := ⟨_, rfl⟩
  rw [← hg] at hk
  have HG9 := Lib.hid hg
  have HK9 := Lib.hid hk
  clear hb5 hw5 hw5' hg hk
  go_upto_region 9 with fail
  rw [← HW9.out, ← HG9.out]
  have HK9' := Lib.hid (HK8.out.up (show Below w8.heap.size w8 w9 by rw [HW9.out]; exact (kz_of w8 zeroSt ⟨true, true, cy⟩).2))
  have HAZ9 : Hid (∀ W, Below w9.heap.size w9 W → Calls Try.prog 8 #[.agg #[.int .i64 4096, .int .i64 1, .int .i64 2147483647, .int .i64 65535, .int .i64 16384, .int .i64 2147483647], .slice (cutS A c 0) p c] W fun e w' => e = .returned (.tuple #[.agg #[.int .i64 TZ.table, .int .i64 TZ.push, .int .i64 TZ.streams, .int .i64 TZ.window, .int .i64 TZ.frame, .int .i64 TZ.list], .agg #[.bool FZ.bad, .bool FZ.conn, .int .i64 (FZ.code : Int)]]) ∧ Below W.heap.size W w') := Lib.hid (fun W h => HAZ.out W (HB9.out.trans (h.mono HB9.out.size)))
  have HKC9 : Hid (∀ W, Below w9.heap.size w9 W → W.cell? ⟨g2 + 1, 0, none⟩ = some (.bool true)) := Lib.hid (fun W h => (HK9.out.up h).flt.1)
  go_wp2_with fail
  go_cut [11, 12] (fun x y wx => ∃ ga gf, x = .pointer (some ⟨ga, 0, none⟩) ∧ y = .pointer (some ⟨gf, 0, none⟩) ∧ wx.heap[ga]? = some (.cells #[.int .i64 TZ.table, .int .i64 TZ.push, .int .i64 TZ.streams, .int .i64 TZ.window, .int .i64 TZ.frame, .int .i64 TZ.list] 23 (0, 0)) ∧ wx.heap[gf]? = some (.cells #[.bool FZ.bad, .bool FZ.conn, .int .i64 (FZ.code : Int)] 27 (0, 0)) ∧ Below w9.heap.size w9 wx)
  case first =>
    refine wp_region_held_drew (S := fun w' => w'.cell? ⟨g2 + 1, 0, none⟩ = some (.bool true)) (by kernel_rfl) (HKC9.out _ (Below.refl _ _).drew) (fun hHeld => ?_)
    have hb0 : Below w9.heap.size w9 w9.drew := (Below.refl _ _).drew
    obtain ⟨y0, hy0⟩ : ∃ y0, y0 = w9.drew := ⟨_, rfl⟩
    rw [← hy0] at hb0 hHeld ⊢
    clear hy0
    refine wpAnyH_take (i := 1) (v := ?_) rfl (by kernel_rfl) (by kernel_rfl) (by kernel_rfl) (fun _ _ _ h => h) (Or.inl ⟨by rfl, ?_⟩) hHeld ?_
    rotate_left
    · intro w hSw
      try dsimp only at hSw
      go_simp
      try with_reducible rfl
    change wpAnyH _ _ _ _ _ _ _ (Act.put _ (some 56) _) _
    simp only [Act.put, List.setIfInBounds_toArray, List.set_cons_zero, List.set_cons_succ]
    refine wpAnyH_take (i := 2) (v := ?_) rfl (by kernel_rfl) (by kernel_rfl) (by kernel_rfl) (fun _ _ _ h => h) (Or.inl ⟨by rfl, ?_⟩) hHeld ?_
    rotate_left
    · intro w hSw
      try dsimp only at hSw
      go_simp
      try with_reducible rfl
    change wpAnyH _ _ _ _ _ _ _ (Act.put _ (some 57) _) _
    simp only [Act.put, List.setIfInBounds_toArray, List.set_cons_zero, List.set_cons_succ]
    refine wpAnyH_take (i := 3) (v := ?_) rfl (by kernel_rfl) (by kernel_rfl) (by kernel_rfl) (fun _ _ _ h => h) (Or.inl ⟨by rfl, ?_⟩) hHeld ?_
    rotate_left
    · intro w hSw
      try dsimp only at hSw
      go_simp
      try with_reducible rfl
    change wpAnyH _ _ _ _ _ _ _ (Act.put _ (some 58) _) _
    simp only [Act.put, List.setIfInBounds_toArray, List.set_cons_zero, List.set_cons_succ]
    refine held_nameZ (fun o0 q0 a0 ho hq0 hA0 => ?_)
    have HQP : Hid (∀ c a (d : Nat) v w, q0 (.panic c) (Act.put a (some d) v) w → q0 (.panic c) a w) := Lib.hid (by rw [hq0]; exact fun _ _ _ _ _ h => h)
    have KFAab : Hid (∀ (y : World) (ga : Nat) (gf : Nat), Below w9.heap.size w9 y → w9.heap.size ≤ ga → y.heap[ga]? = some (.cells #[.int .i64 0, .int .i64 0, .int .i64 0, .int .i64 0, .int .i64 0, .int .i64 0] 23 (0, 0)) → w9.heap.size ≤ gf → y.heap[gf]? = some (.cells #[.bool false, .bool false, .int .i64 0] 27 (0, 0)) → ga ≠ gf → wpAnyH Try.prog .any o0 q0 (fun w' => w'.cell? ⟨g2 + 1, 0, none⟩ = some (.bool true)) 2 #[true, true, true, true, true, true, true, true, true, true, false, false] ({ tmps := (((((((a0.tmps.setIfInBounds 55 (.agg #[.int .i64 4096, .int .i64 1, .int .i64 2147483647, .int .i64 65535, .int .i64 16384, .int .i64 2147483647])).setIfInBounds 59 (.tuple #[.agg #[.int .i64 TZ.table, .int .i64 TZ.push, .int .i64 TZ.streams, .int .i64 TZ.window, .int .i64 TZ.frame, .int .i64 TZ.list], .agg #[.bool FZ.bad, .bool FZ.conn, .int .i64 (FZ.code : Int)]])).setIfInBounds 54 (.tuple #[.agg #[.int .i64 TZ.table, .int .i64 TZ.push, .int .i64 TZ.streams, .int .i64 TZ.window, .int .i64 TZ.frame, .int .i64 TZ.list], .agg #[.bool FZ.bad, .bool FZ.conn, .int .i64 (FZ.code : Int)]])).setIfInBounds 60 (.agg #[.int .i64 TZ.table, .int .i64 TZ.push, .int .i64 TZ.streams, .int .i64 TZ.window, .int .i64 TZ.frame, .int .i64 TZ.list])).setIfInBounds 61 (.agg #[.bool FZ.bad, .bool FZ.conn, .int .i64 (FZ.code : Int)])).setIfInBounds 11 (.pointer (some ⟨ga, 0, none⟩))).setIfInBounds 12 (.pointer (some ⟨gf, 0, none⟩))), defers := [] } : Act) y) := Lib.hid (by
      intro y ga gf hb ga_0 ha gf_0 hf ne_ab
      rw [ho, hA0]
      simp only [List.setIfInBounds_toArray, List.set_cons_zero, List.set_cons_succ]
      have hHeld : (fun w' => w'.cell? ⟨g2 + 1, 0, none⟩ = some (.bool true)) y := (HKC9.out y hb)
      try dsimp only at hHeld
      refine wpAnyH_ready (rs := [10]) (by kernel_rfl) (by simp) ?_
      refine AllReadyH.cons rfl (fun K hK => ?_) AllReadyH.nil
      refine step_stS rfl (.tmp 11) (.tmp 60) rfl ga rfl _ _ _ _ _ _ rfl ha (fun yS hkS hrS => ?_)
      have hbS := hb.trans (hkS.below (fun k e => by omega) hb.size)
      have hfS := (hkS.block gf (lt_of_heapZ hf) (fun e => ne_ab e.symm)).trans hf
      refine hK.out _ _ (HKC9.out yS hbS) (fun hHeld => ?_)
      clear hK K
      refine wpAnyH_ready (rs := [11]) (by kernel_rfl) (by simp) ?_
      refine AllReadyH.cons rfl (fun K hK => ?_) AllReadyH.nil
      refine step_stF rfl (.tmp 12) (.tmp 61) rfl gf rfl _ _ _ rfl hfS (fun yT hkT hfT => ?_)
      have hbT := hbS.trans (hkT.below (fun k e => by omega) hbS.size)
      have hrT := (hkT.block ga (lt_of_heapZ hrS) (fun e => ne_ab e)).trans hrS
      refine hK.out _ _ (HKC9.out yT hbT) (fun hHeld => ?_)
      clear hK K
      refine wpAnyH_done (by kernel_rfl) ?_ _
      rw [hq0]
      go_wp2
      go_meet
      case rel => exact ⟨ga, gf, rfl, rfl, hrT, hfT, hbT⟩)
    have KFAa : Hid (∀ (y : World) (ga : Nat), Below w9.heap.size w9 y → w9.heap.size ≤ ga → y.heap[ga]? = some (.cells #[.int .i64 0, .int .i64 0, .int .i64 0, .int .i64 0, .int .i64 0, .int .i64 0] 23 (0, 0)) → wpAnyH Try.prog .any o0 q0 (fun w' => w'.cell? ⟨g2 + 1, 0, none⟩ = some (.bool true)) 3 #[true, true, true, true, true, true, true, true, true, false, false, false] ({ tmps := ((((((a0.tmps.setIfInBounds 55 (.agg #[.int .i64 4096, .int .i64 1, .int .i64 2147483647, .int .i64 65535, .int .i64 16384, .int .i64 2147483647])).setIfInBounds 59 (.tuple #[.agg #[.int .i64 TZ.table, .int .i64 TZ.push, .int .i64 TZ.streams, .int .i64 TZ.window, .int .i64 TZ.frame, .int .i64 TZ.list], .agg #[.bool FZ.bad, .bool FZ.conn, .int .i64 (FZ.code : Int)]])).setIfInBounds 54 (.tuple #[.agg #[.int .i64 TZ.table, .int .i64 TZ.push, .int .i64 TZ.streams, .int .i64 TZ.window, .int .i64 TZ.frame, .int .i64 TZ.list], .agg #[.bool FZ.bad, .bool FZ.conn, .int .i64 (FZ.code : Int)]])).setIfInBounds 60 (.agg #[.int .i64 TZ.table, .int .i64 TZ.push, .int .i64 TZ.streams, .int .i64 TZ.window, .int .i64 TZ.frame, .int .i64 TZ.list])).setIfInBounds 61 (.agg #[.bool FZ.bad, .bool FZ.conn, .int .i64 (FZ.code : Int)])).setIfInBounds 11 (.pointer (some ⟨ga, 0, none⟩))), defers := [] } : Act) y) := Lib.hid (by
      intro y ga hb ga_0 ha
      rw [ho, hA0]
      simp only [List.setIfInBounds_toArray, List.set_cons_zero, List.set_cons_succ]
      have hHeld : (fun w' => w'.cell? ⟨g2 + 1, 0, none⟩ = some (.bool true)) y := (HKC9.out y hb)
      try dsimp only at hHeld
      refine wpAnyH_ready (rs := [9]) (by kernel_rfl) (by simp) ?_
      refine AllReadyH.cons rfl (fun K hK => ?_) ?_
      · refine step_bF rfl rfl (fun gf y' hgf hx hf' => ?_)
        have gf_0 : w9.heap.size ≤ gf := by have := hb.size; omega
        have hb' := hb.trans (hx.mono hb.size)
        have ne_ab : ga ≠ gf := by have := lt_of_heapZ ha; omega
        clear hgf
        have ha' := (hx.block ga (lt_of_heapZ ha)).trans ha
        refine hK.out _ _ (HKC9.out y' hb') (fun hHeld => ?_)
        clear hK K
        exact held_asZ ho (by kernel_rfl) (by rw [hA0]; kernel_rfl) (KFAab.out _ ga gf hb' ga_0 ha' gf_0 hf' ne_ab)
      exact AllReadyH.nil)
    have KFAb : Hid (∀ (y : World) (gf : Nat), Below w9.heap.size w9 y → w9.heap.size ≤ gf → y.heap[gf]? = some (.cells #[.bool false, .bool false, .int .i64 0] 27 (0, 0)) → wpAnyH Try.prog .any o0 q0 (fun w' => w'.cell? ⟨g2 + 1, 0, none⟩ = some (.bool true)) 3 #[true, true, true, true, true, true, true, true, false, true, false, false] ({ tmps := ((((((a0.tmps.setIfInBounds 55 (.agg #[.int .i64 4096, .int .i64 1, .int .i64 2147483647, .int .i64 65535, .int .i64 16384, .int .i64 2147483647])).setIfInBounds 59 (.tuple #[.agg #[.int .i64 TZ.table, .int .i64 TZ.push, .int .i64 TZ.streams, .int .i64 TZ.window, .int .i64 TZ.frame, .int .i64 TZ.list], .agg #[.bool FZ.bad, .bool FZ.conn, .int .i64 (FZ.code : Int)]])).setIfInBounds 54 (.tuple #[.agg #[.int .i64 TZ.table, .int .i64 TZ.push, .int .i64 TZ.streams, .int .i64 TZ.window, .int .i64 TZ.frame, .int .i64 TZ.list], .agg #[.bool FZ.bad, .bool FZ.conn, .int .i64 (FZ.code : Int)]])).setIfInBounds 60 (.agg #[.int .i64 TZ.table, .int .i64 TZ.push, .int .i64 TZ.streams, .int .i64 TZ.window, .int .i64 TZ.frame, .int .i64 TZ.list])).setIfInBounds 61 (.agg #[.bool FZ.bad, .bool FZ.conn, .int .i64 (FZ.code : Int)])).setIfInBounds 12 (.pointer (some ⟨gf, 0, none⟩))), defers := [] } : Act) y) := Lib.hid (by
      intro y gf hb gf_0 hf
      rw [ho, hA0]
      simp only [List.setIfInBounds_toArray, List.set_cons_zero, List.set_cons_succ]
      have hHeld : (fun w' => w'.cell? ⟨g2 + 1, 0, none⟩ = some (.bool true)) y := (HKC9.out y hb)
      try dsimp only at hHeld
      refine wpAnyH_ready (rs := [8]) (by kernel_rfl) (by simp) ?_
      refine AllReadyH.cons rfl (fun K hK => ?_) ?_
      · refine step_aS rfl rfl (fun ga y' hga hx ha' => ?_)
        have ga_0 : w9.heap.size ≤ ga := by have := hb.size; omega
        have hb' := hb.trans (hx.mono hb.size)
        have ne_ab : ga ≠ gf := by have := lt_of_heapZ hf; omega
        clear hga
        have hf' := (hx.block gf (lt_of_heapZ hf)).trans hf
        refine hK.out _ _ (HKC9.out y' hb') (fun hHeld => ?_)
        clear hK K
        exact held_asZ ho (by kernel_rfl) (by rw [hA0]; kernel_rfl) (KFAab.out _ ga gf hb' ga_0 ha' gf_0 hf' ne_ab)
      exact AllReadyH.nil)
    have KFab : Hid (∀ (y : World) (ga : Nat) (gf : Nat), Below w9.heap.size w9 y → w9.heap.size ≤ ga → y.heap[ga]? = some (.cells #[.int .i64 0, .int .i64 0, .int .i64 0, .int .i64 0, .int .i64 0, .int .i64 0] 23 (0, 0)) → w9.heap.size ≤ gf → y.heap[gf]? = some (.cells #[.bool false, .bool false, .int .i64 0] 27 (0, 0)) → ga ≠ gf → wpAnyH Try.prog .any o0 q0 (fun w' => w'.cell? ⟨g2 + 1, 0, none⟩ = some (.bool true)) 6 #[true, true, true, true, false, false, false, false, true, true, false, false] ({ tmps := (((a0.tmps.setIfInBounds 55 (.agg #[.int .i64 4096, .int .i64 1, .int .i64 2147483647, .int .i64 65535, .int .i64 16384, .int .i64 2147483647])).setIfInBounds 11 (.pointer (some ⟨ga, 0, none⟩))).setIfInBounds 12 (.pointer (some ⟨gf, 0, none⟩))), defers := [] } : Act) y) := Lib.hid (by
      intro y ga gf hb ga_0 ha gf_0 hf ne_ab
      rw [ho, hA0]
      simp only [List.setIfInBounds_toArray, List.set_cons_zero, List.set_cons_succ]
      have hHeld : (fun w' => w'.cell? ⟨g2 + 1, 0, none⟩ = some (.bool true)) y := (HKC9.out y hb)
      try dsimp only at hHeld
      refine wpAnyH_ready (rs := [4]) (by kernel_rfl) (by simp) ?_
      refine AllReadyH.cons rfl (fun K hK => ?_) ?_
      · go_simp
        with_reducible refine (HAZ9.out y hb).mono ?_
        rintro e y' ⟨rfl, hx⟩
        have hb' := hb.trans (hx.mono hb.size)
        have ha' := (hx.block ga (lt_of_heapZ ha)).trans ha
        have hf' := (hx.block gf (lt_of_heapZ hf)).trans hf
        refine hK.out _ _ (HKC9.out y' hb') (fun hHeld => ?_)
        clear hK K
        refine wpAnyH_take (i := 5) (v := ?_) rfl (by kernel_rfl) (by kernel_rfl) (by kernel_rfl) (fun _ _ _ h => HQP.out _ _ _ _ _ h) (Or.inl ⟨by rfl, ?_⟩) hHeld ?_
        rotate_left
        · intro w hSw
          try dsimp only at hSw
          go_simp
          try with_reducible rfl
        change wpAnyH _ _ _ _ _ _ _ (Act.put _ (some 54) _) _
        simp only [Act.put, List.setIfInBounds_toArray, List.set_cons_zero, List.set_cons_succ]
        refine wpAnyH_take (i := 6) (v := ?_) rfl (by kernel_rfl) (by kernel_rfl) (by kernel_rfl) (fun _ _ _ h => HQP.out _ _ _ _ _ h) (Or.inl ⟨by rfl, ?_⟩) hHeld ?_
        rotate_left
        · intro w hSw
          try dsimp only at hSw
          go_simp
          try with_reducible rfl
        change wpAnyH _ _ _ _ _ _ _ (Act.put _ (some 60) _) _
        simp only [Act.put, List.setIfInBounds_toArray, List.set_cons_zero, List.set_cons_succ]
        refine wpAnyH_take (i := 7) (v := ?_) rfl (by kernel_rfl) (by kernel_rfl) (by kernel_rfl) (fun _ _ _ h => HQP.out _ _ _ _ _ h) (Or.inl ⟨by rfl, ?_⟩) hHeld ?_
        rotate_left
        · intro w hSw
          try dsimp only at hSw
          go_simp
          try with_reducible rfl
        change wpAnyH _ _ _ _ _ _ _ (Act.put _ (some 61) _) _
        simp only [Act.put, List.setIfInBounds_toArray, List.set_cons_zero, List.set_cons_succ]
        exact held_asZ ho (by kernel_rfl) (by rw [hA0]; kernel_rfl) (KFAab.out _ ga gf hb' ga_0 ha' gf_0 hf' ne_ab)
      exact AllReadyH.nil)
    have KFA : Hid (∀ (y : World), Below w9.heap.size w9 y → wpAnyH Try.prog .any o0 q0 (fun w' => w'.cell? ⟨g2 + 1, 0, none⟩ = some (.bool true)) 4 #[true, true, true, true, true, true, true, true, false, false, false, false] ({ tmps := (((((a0.tmps.setIfInBounds 55 (.agg #[.int .i64 4096, .int .i64 1, .int .i64 2147483647, .int .i64 65535, .int .i64 16384, .int .i64 2147483647])).setIfInBounds 59 (.tuple #[.agg #[.int .i64 TZ.table, .int .i64 TZ.push, .int .i64 TZ.streams, .int .i64 TZ.window, .int .i64 TZ.frame, .int .i64 TZ.list], .agg #[.bool FZ.bad, .bool FZ.conn, .int .i64 (FZ.code : Int)]])).setIfInBounds 54 (.tuple #[.agg #[.int .i64 TZ.table, .int .i64 TZ.push, .int .i64 TZ.streams, .int .i64 TZ.window, .int .i64 TZ.frame, .int .i64 TZ.list], .agg #[.bool FZ.bad, .bool FZ.conn, .int .i64 (FZ.code : Int)]])).setIfInBounds 60 (.agg #[.int .i64 TZ.table, .int .i64 TZ.push, .int .i64 TZ.streams, .int .i64 TZ.window, .int .i64 TZ.frame, .int .i64 TZ.list])).setIfInBounds 61 (.agg #[.bool FZ.bad, .bool FZ.conn, .int .i64 (FZ.code : Int)])), defers := [] } : Act) y) := Lib.hid (by
      intro y  hb
      rw [ho, hA0]
      simp only [List.setIfInBounds_toArray, List.set_cons_zero, List.set_cons_succ]
      have hHeld : (fun w' => w'.cell? ⟨g2 + 1, 0, none⟩ = some (.bool true)) y := (HKC9.out y hb)
      try dsimp only at hHeld
      refine wpAnyH_ready (rs := [8, 9]) (by kernel_rfl) (by simp) ?_
      refine AllReadyH.cons rfl (fun K hK => ?_) ?_
      · refine step_aS rfl rfl (fun ga y' hga hx ha' => ?_)
        have ga_0 : w9.heap.size ≤ ga := by have := hb.size; omega
        have hb' := hb.trans (hx.mono hb.size)
        clear hga
        refine hK.out _ _ (HKC9.out y' hb') (fun hHeld => ?_)
        clear hK K
        exact held_asZ ho (by kernel_rfl) (by rw [hA0]; kernel_rfl) (KFAa.out _ ga hb' ga_0 ha')
      refine AllReadyH.cons rfl (fun K hK => ?_) ?_
      · refine step_bF rfl rfl (fun gf y' hgf hx hf' => ?_)
        have gf_0 : w9.heap.size ≤ gf := by have := hb.size; omega
        have hb' := hb.trans (hx.mono hb.size)
        clear hgf
        refine hK.out _ _ (HKC9.out y' hb') (fun hHeld => ?_)
        clear hK K
        exact held_asZ ho (by kernel_rfl) (by rw [hA0]; kernel_rfl) (KFAb.out _ gf hb' gf_0 hf')
      exact AllReadyH.nil)
    have KFa : Hid (∀ (y : World) (ga : Nat), Below w9.heap.size w9 y → w9.heap.size ≤ ga → y.heap[ga]? = some (.cells #[.int .i64 0, .int .i64 0, .int .i64 0, .int .i64 0, .int .i64 0, .int .i64 0] 23 (0, 0)) → wpAnyH Try.prog .any o0 q0 (fun w' => w'.cell? ⟨g2 + 1, 0, none⟩ = some (.bool true)) 7 #[true, true, true, true, false, false, false, false, true, false, false, false] ({ tmps := ((a0.tmps.setIfInBounds 55 (.agg #[.int .i64 4096, .int .i64 1, .int .i64 2147483647, .int .i64 65535, .int .i64 16384, .int .i64 2147483647])).setIfInBounds 11 (.pointer (some ⟨ga, 0, none⟩))), defers := [] } : Act) y) := Lib.hid (by
      intro y ga hb ga_0 ha
      rw [ho, hA0]
      simp only [List.setIfInBounds_toArray, List.set_cons_zero, List.set_cons_succ]
      have hHeld : (fun w' => w'.cell? ⟨g2 + 1, 0, none⟩ = some (.bool true)) y := (HKC9.out y hb)
      try dsimp only at hHeld
      refine wpAnyH_ready (rs := [4, 9]) (by kernel_rfl) (by simp) ?_
      refine AllReadyH.cons rfl (fun K hK => ?_) ?_
      · go_simp
        with_reducible refine (HAZ9.out y hb).mono ?_
        rintro e y' ⟨rfl, hx⟩
        have hb' := hb.trans (hx.mono hb.size)
        have ha' := (hx.block ga (lt_of_heapZ ha)).trans ha
        refine hK.out _ _ (HKC9.out y' hb') (fun hHeld => ?_)
        clear hK K
        refine wpAnyH_take (i := 5) (v := ?_) rfl (by kernel_rfl) (by kernel_rfl) (by kernel_rfl) (fun _ _ _ h => HQP.out _ _ _ _ _ h) (Or.inl ⟨by rfl, ?_⟩) hHeld ?_
        rotate_left
        · intro w hSw
          try dsimp only at hSw
          go_simp
          try with_reducible rfl
        change wpAnyH _ _ _ _ _ _ _ (Act.put _ (some 54) _) _
        simp only [Act.put, List.setIfInBounds_toArray, List.set_cons_zero, List.set_cons_succ]
        refine wpAnyH_take (i := 6) (v := ?_) rfl (by kernel_rfl) (by kernel_rfl) (by kernel_rfl) (fun _ _ _ h => HQP.out _ _ _ _ _ h) (Or.inl ⟨by rfl, ?_⟩) hHeld ?_
        rotate_left
        · intro w hSw
          try dsimp only at hSw
          go_simp
          try with_reducible rfl
        change wpAnyH _ _ _ _ _ _ _ (Act.put _ (some 60) _) _
        simp only [Act.put, List.setIfInBounds_toArray, List.set_cons_zero, List.set_cons_succ]
        refine wpAnyH_take (i := 7) (v := ?_) rfl (by kernel_rfl) (by kernel_rfl) (by kernel_rfl) (fun _ _ _ h => HQP.out _ _ _ _ _ h) (Or.inl ⟨by rfl, ?_⟩) hHeld ?_
        rotate_left
        · intro w hSw
          try dsimp only at hSw
          go_simp
          try with_reducible rfl
        change wpAnyH _ _ _ _ _ _ _ (Act.put _ (some 61) _) _
        simp only [Act.put, List.setIfInBounds_toArray, List.set_cons_zero, List.set_cons_succ]
        exact held_asZ ho (by kernel_rfl) (by rw [hA0]; kernel_rfl) (KFAa.out _ ga hb' ga_0 ha')
      refine AllReadyH.cons rfl (fun K hK => ?_) ?_
      · refine step_bF rfl rfl (fun gf y' hgf hx hf' => ?_)
        have gf_0 : w9.heap.size ≤ gf := by have := hb.size; omega
        have hb' := hb.trans (hx.mono hb.size)
        have ne_ab : ga ≠ gf := by have := lt_of_heapZ ha; omega
        clear hgf
        have ha' := (hx.block ga (lt_of_heapZ ha)).trans ha
        refine hK.out _ _ (HKC9.out y' hb') (fun hHeld => ?_)
        clear hK K
        exact held_asZ ho (by kernel_rfl) (by rw [hA0]; kernel_rfl) (KFab.out _ ga gf hb' ga_0 ha' gf_0 hf' ne_ab)
      exact AllReadyH.nil)
    have KFb : Hid (∀ (y : World) (gf : Nat), Below w9.heap.size w9 y → w9.heap.size ≤ gf → y.heap[gf]? = some (.cells #[.bool false, .bool false, .int .i64 0] 27 (0, 0)) → wpAnyH Try.prog .any o0 q0 (fun w' => w'.cell? ⟨g2 + 1, 0, none⟩ = some (.bool true)) 7 #[true, true, true, true, false, false, false, false, false, true, false, false] ({ tmps := ((a0.tmps.setIfInBounds 55 (.agg #[.int .i64 4096, .int .i64 1, .int .i64 2147483647, .int .i64 65535, .int .i64 16384, .int .i64 2147483647])).setIfInBounds 12 (.pointer (some ⟨gf, 0, none⟩))), defers := [] } : Act) y) := Lib.hid (by
      intro y gf hb gf_0 hf
      rw [ho, hA0]
      simp only [List.setIfInBounds_toArray, List.set_cons_zero, List.set_cons_succ]
      have hHeld : (fun w' => w'.cell? ⟨g2 + 1, 0, none⟩ = some (.bool true)) y := (HKC9.out y hb)
      try dsimp only at hHeld
      refine wpAnyH_ready (rs := [4, 8]) (by kernel_rfl) (by simp) ?_
      refine AllReadyH.cons rfl (fun K hK => ?_) ?_
      · go_simp
        with_reducible refine (HAZ9.out y hb).mono ?_
        rintro e y' ⟨rfl, hx⟩
        have hb' := hb.trans (hx.mono hb.size)
        have hf' := (hx.block gf (lt_of_heapZ hf)).trans hf
        refine hK.out _ _ (HKC9.out y' hb') (fun hHeld => ?_)
        clear hK K
        refine wpAnyH_take (i := 5) (v := ?_) rfl (by kernel_rfl) (by kernel_rfl) (by kernel_rfl) (fun _ _ _ h => HQP.out _ _ _ _ _ h) (Or.inl ⟨by rfl, ?_⟩) hHeld ?_
        rotate_left
        · intro w hSw
          try dsimp only at hSw
          go_simp
          try with_reducible rfl
        change wpAnyH _ _ _ _ _ _ _ (Act.put _ (some 54) _) _
        simp only [Act.put, List.setIfInBounds_toArray, List.set_cons_zero, List.set_cons_succ]
        refine wpAnyH_take (i := 6) (v := ?_) rfl (by kernel_rfl) (by kernel_rfl) (by kernel_rfl) (fun _ _ _ h => HQP.out _ _ _ _ _ h) (Or.inl ⟨by rfl, ?_⟩) hHeld ?_
        rotate_left
        · intro w hSw
          try dsimp only at hSw
          go_simp
          try with_reducible rfl
        change wpAnyH _ _ _ _ _ _ _ (Act.put _ (some 60) _) _
        simp only [Act.put, List.setIfInBounds_toArray, List.set_cons_zero, List.set_cons_succ]
        refine wpAnyH_take (i := 7) (v := ?_) rfl (by kernel_rfl) (by kernel_rfl) (by kernel_rfl) (fun _ _ _ h => HQP.out _ _ _ _ _ h) (Or.inl ⟨by rfl, ?_⟩) hHeld ?_
        rotate_left
        · intro w hSw
          try dsimp only at hSw
          go_simp
          try with_reducible rfl
        change wpAnyH _ _ _ _ _ _ _ (Act.put _ (some 61) _) _
        simp only [Act.put, List.setIfInBounds_toArray, List.set_cons_zero, List.set_cons_succ]
        exact held_asZ ho (by kernel_rfl) (by rw [hA0]; kernel_rfl) (KFAb.out _ gf hb' gf_0 hf')
      refine AllReadyH.cons rfl (fun K hK => ?_) ?_
      · refine step_aS rfl rfl (fun ga y' hga hx ha' => ?_)
        have ga_0 : w9.heap.size ≤ ga := by have := hb.size; omega
        have hb' := hb.trans (hx.mono hb.size)
        have ne_ab : ga ≠ gf := by have := lt_of_heapZ hf; omega
        clear hga
        have hf' := (hx.block gf (lt_of_heapZ hf)).trans hf
        refine hK.out _ _ (HKC9.out y' hb') (fun hHeld => ?_)
        clear hK K
        exact held_asZ ho (by kernel_rfl) (by rw [hA0]; kernel_rfl) (KFab.out _ ga gf hb' ga_0 ha' gf_0 hf' ne_ab)
      exact AllReadyH.nil)
    have Kab : Hid (∀ (y : World) (ga : Nat) (gf : Nat), Below w9.heap.size w9 y → w9.heap.size ≤ ga → y.heap[ga]? = some (.cells #[.int .i64 0, .int .i64 0, .int .i64 0, .int .i64 0, .int .i64 0, .int .i64 0] 23 (0, 0)) → w9.heap.size ≤ gf → y.heap[gf]? = some (.cells #[.bool false, .bool false, .int .i64 0] 27 (0, 0)) → ga ≠ gf → wpAnyH Try.prog .any o0 q0 (fun w' => w'.cell? ⟨g2 + 1, 0, none⟩ = some (.bool true)) 7 #[false, true, true, true, false, false, false, false, true, true, false, false] ({ tmps := ((a0.tmps.setIfInBounds 11 (.pointer (some ⟨ga, 0, none⟩))).setIfInBounds 12 (.pointer (some ⟨gf, 0, none⟩))), defers := [] } : Act) y) := Lib.hid (by
      intro y ga gf hb ga_0 ha gf_0 hf ne_ab
      rw [ho, hA0]
      simp only [List.setIfInBounds_toArray, List.set_cons_zero, List.set_cons_succ]
      have hHeld : (fun w' => w'.cell? ⟨g2 + 1, 0, none⟩ = some (.bool true)) y := (HKC9.out y hb)
      try dsimp only at hHeld
      refine wpAnyH_ready (rs := [0]) (by kernel_rfl) (by simp) ?_
      refine AllReadyH.cons rfl (fun K hK => ?_) ?_
      · go_simp
        with_reducible refine (HFI.out y).mono ?_
        rintro e y' ⟨rfl, hx⟩
        have hb' := hb.trans (hx.mono hb.size)
        have ha' := (hx.block ga (lt_of_heapZ ha)).trans ha
        have hf' := (hx.block gf (lt_of_heapZ hf)).trans hf
        refine hK.out _ _ (HKC9.out y' hb') (fun hHeld => ?_)
        clear hK K
        exact held_asZ ho (by kernel_rfl) (by rw [hA0]; kernel_rfl) (KFab.out _ ga gf hb' ga_0 ha' gf_0 hf' ne_ab)
      exact AllReadyH.nil)
    have KF : Hid (∀ (y : World), Below w9.heap.size w9 y → wpAnyH Try.prog .any o0 q0 (fun w' => w'.cell? ⟨g2 + 1, 0, none⟩ = some (.bool true)) 8 #[true, true, true, true, false, false, false, false, false, false, false, false] ({ tmps := (a0.tmps.setIfInBounds 55 (.agg #[.int .i64 4096, .int .i64 1, .int .i64 2147483647, .int .i64 65535, .int .i64 16384, .int .i64 2147483647])), defers := [] } : Act) y) := Lib.hid (by
      intro y  hb
      rw [ho, hA0]
      simp only [List.setIfInBounds_toArray, List.set_cons_zero, List.set_cons_succ]
      have hHeld : (fun w' => w'.cell? ⟨g2 + 1, 0, none⟩ = some (.bool true)) y := (HKC9.out y hb)
      try dsimp only at hHeld
      refine wpAnyH_ready (rs := [4, 8, 9]) (by kernel_rfl) (by simp) ?_
      refine AllReadyH.cons rfl (fun K hK => ?_) ?_
      · go_simp
        with_reducible refine (HAZ9.out y hb).mono ?_
        rintro e y' ⟨rfl, hx⟩
        have hb' := hb.trans (hx.mono hb.size)
        refine hK.out _ _ (HKC9.out y' hb') (fun hHeld => ?_)
        clear hK K
        refine wpAnyH_take (i := 5) (v := ?_) rfl (by kernel_rfl) (by kernel_rfl) (by kernel_rfl) (fun _ _ _ h => HQP.out _ _ _ _ _ h) (Or.inl ⟨by rfl, ?_⟩) hHeld ?_
        rotate_left
        · intro w hSw
          try dsimp only at hSw
          go_simp
          try with_reducible rfl
        change wpAnyH _ _ _ _ _ _ _ (Act.put _ (some 54) _) _
        simp only [Act.put, List.setIfInBounds_toArray, List.set_cons_zero, List.set_cons_succ]
        refine wpAnyH_take (i := 6) (v := ?_) rfl (by kernel_rfl) (by kernel_rfl) (by kernel_rfl) (fun _ _ _ h => HQP.out _ _ _ _ _ h) (Or.inl ⟨by rfl, ?_⟩) hHeld ?_
        rotate_left
        · intro w hSw
          try dsimp only at hSw
          go_simp
          try with_reducible rfl
        change wpAnyH _ _ _ _ _ _ _ (Act.put _ (some 60) _) _
        simp only [Act.put, List.setIfInBounds_toArray, List.set_cons_zero, List.set_cons_succ]
        refine wpAnyH_take (i := 7) (v := ?_) rfl (by kernel_rfl) (by kernel_rfl) (by kernel_rfl) (fun _ _ _ h => HQP.out _ _ _ _ _ h) (Or.inl ⟨by rfl, ?_⟩) hHeld ?_
        rotate_left
        · intro w hSw
          try dsimp only at hSw
          go_simp
          try with_reducible rfl
        change wpAnyH _ _ _ _ _ _ _ (Act.put _ (some 61) _) _
        simp only [Act.put, List.setIfInBounds_toArray, List.set_cons_zero, List.set_cons_succ]
        exact held_asZ ho (by kernel_rfl) (by rw [hA0]; kernel_rfl) (KFA.out _  hb')
      refine AllReadyH.cons rfl (fun K hK => ?_) ?_
      · refine step_aS rfl rfl (fun ga y' hga hx ha' => ?_)
        have ga_0 : w9.heap.size ≤ ga := by have := hb.size; omega
        have hb' := hb.trans (hx.mono hb.size)
        clear hga
        refine hK.out _ _ (HKC9.out y' hb') (fun hHeld => ?_)
        clear hK K
        exact held_asZ ho (by kernel_rfl) (by rw [hA0]; kernel_rfl) (KFa.out _ ga hb' ga_0 ha')
      refine AllReadyH.cons rfl (fun K hK => ?_) ?_
      · refine step_bF rfl rfl (fun gf y' hgf hx hf' => ?_)
        have gf_0 : w9.heap.size ≤ gf := by have := hb.size; omega
        have hb' := hb.trans (hx.mono hb.size)
        clear hgf
        refine hK.out _ _ (HKC9.out y' hb') (fun hHeld => ?_)
        clear hK K
        exact held_asZ ho (by kernel_rfl) (by rw [hA0]; kernel_rfl) (KFb.out _ gf hb' gf_0 hf')
      exact AllReadyH.nil)
    have Ka : Hid (∀ (y : World) (ga : Nat), Below w9.heap.size w9 y → w9.heap.size ≤ ga → y.heap[ga]? = some (.cells #[.int .i64 0, .int .i64 0, .int .i64 0, .int .i64 0, .int .i64 0, .int .i64 0] 23 (0, 0)) → wpAnyH Try.prog .any o0 q0 (fun w' => w'.cell? ⟨g2 + 1, 0, none⟩ = some (.bool true)) 8 #[false, true, true, true, false, false, false, false, true, false, false, false] ({ tmps := (a0.tmps.setIfInBounds 11 (.pointer (some ⟨ga, 0, none⟩))), defers := [] } : Act) y) := Lib.hid (by
      intro y ga hb ga_0 ha
      rw [ho, hA0]
      simp only [List.setIfInBounds_toArray, List.set_cons_zero, List.set_cons_succ]
      have hHeld : (fun w' => w'.cell? ⟨g2 + 1, 0, none⟩ = some (.bool true)) y := (HKC9.out y hb)
      try dsimp only at hHeld
      refine wpAnyH_ready (rs := [0, 9]) (by kernel_rfl) (by simp) ?_
      refine AllReadyH.cons rfl (fun K hK => ?_) ?_
      · go_simp
        with_reducible refine (HFI.out y).mono ?_
        rintro e y' ⟨rfl, hx⟩
        have hb' := hb.trans (hx.mono hb.size)
        have ha' := (hx.block ga (lt_of_heapZ ha)).trans ha
        refine hK.out _ _ (HKC9.out y' hb') (fun hHeld => ?_)
        clear hK K
        exact held_asZ ho (by kernel_rfl) (by rw [hA0]; kernel_rfl) (KFa.out _ ga hb' ga_0 ha')
      refine AllReadyH.cons rfl (fun K hK => ?_) ?_
      · refine step_bF rfl rfl (fun gf y' hgf hx hf' => ?_)
        have gf_0 : w9.heap.size ≤ gf := by have := hb.size; omega
        have hb' := hb.trans (hx.mono hb.size)
        have ne_ab : ga ≠ gf := by have := lt_of_heapZ ha; omega
        clear hgf
        have ha' := (hx.block ga (lt_of_heapZ ha)).trans ha
        refine hK.out _ _ (HKC9.out y' hb') (fun hHeld => ?_)
        clear hK K
        exact held_asZ ho (by kernel_rfl) (by rw [hA0]; kernel_rfl) (Kab.out _ ga gf hb' ga_0 ha' gf_0 hf' ne_ab)
      exact AllReadyH.nil)
    have Kb : Hid (∀ (y : World) (gf : Nat), Below w9.heap.size w9 y → w9.heap.size ≤ gf → y.heap[gf]? = some (.cells #[.bool false, .bool false, .int .i64 0] 27 (0, 0)) → wpAnyH Try.prog .any o0 q0 (fun w' => w'.cell? ⟨g2 + 1, 0, none⟩ = some (.bool true)) 8 #[false, true, true, true, false, false, false, false, false, true, false, false] ({ tmps := (a0.tmps.setIfInBounds 12 (.pointer (some ⟨gf, 0, none⟩))), defers := [] } : Act) y) := Lib.hid (by
      intro y gf hb gf_0 hf
      rw [ho, hA0]
      simp only [List.setIfInBounds_toArray, List.set_cons_zero, List.set_cons_succ]
      have hHeld : (fun w' => w'.cell? ⟨g2 + 1, 0, none⟩ = some (.bool true)) y := (HKC9.out y hb)
      try dsimp only at hHeld
      refine wpAnyH_ready (rs := [0, 8]) (by kernel_rfl) (by simp) ?_
      refine AllReadyH.cons rfl (fun K hK => ?_) ?_
      · go_simp
        with_reducible refine (HFI.out y).mono ?_
        rintro e y' ⟨rfl, hx⟩
        have hb' := hb.trans (hx.mono hb.size)
        have hf' := (hx.block gf (lt_of_heapZ hf)).trans hf
        refine hK.out _ _ (HKC9.out y' hb') (fun hHeld => ?_)
        clear hK K
        exact held_asZ ho (by kernel_rfl) (by rw [hA0]; kernel_rfl) (KFb.out _ gf hb' gf_0 hf')
      refine AllReadyH.cons rfl (fun K hK => ?_) ?_
      · refine step_aS rfl rfl (fun ga y' hga hx ha' => ?_)
        have ga_0 : w9.heap.size ≤ ga := by have := hb.size; omega
        have hb' := hb.trans (hx.mono hb.size)
        have ne_ab : ga ≠ gf := by have := lt_of_heapZ hf; omega
        clear hga
        have hf' := (hx.block gf (lt_of_heapZ hf)).trans hf
        refine hK.out _ _ (HKC9.out y' hb') (fun hHeld => ?_)
        clear hK K
        exact held_asZ ho (by kernel_rfl) (by rw [hA0]; kernel_rfl) (Kab.out _ ga gf hb' ga_0 ha' gf_0 hf' ne_ab)
      exact AllReadyH.nil)
    have K : Hid (∀ (y : World), Below w9.heap.size w9 y → wpAnyH Try.prog .any o0 q0 (fun w' => w'.cell? ⟨g2 + 1, 0, none⟩ = some (.bool true)) 9 #[false, true, true, true, false, false, false, false, false, false, false, false] (a0 : Act) y) := Lib.hid (by
      intro y  hb
      rw [ho, hA0]
      have hHeld : (fun w' => w'.cell? ⟨g2 + 1, 0, none⟩ = some (.bool true)) y := (HKC9.out y hb)
      try dsimp only at hHeld
      refine wpAnyH_ready (rs := [0, 8, 9]) (by kernel_rfl) (by simp) ?_
      refine AllReadyH.cons rfl (fun K hK => ?_) ?_
      · go_simp
        with_reducible refine (HFI.out y).mono ?_
        rintro e y' ⟨rfl, hx⟩
        have hb' := hb.trans (hx.mono hb.size)
        refine hK.out _ _ (HKC9.out y' hb') (fun hHeld => ?_)
        clear hK K
        exact held_asZ ho (by kernel_rfl) (by rw [hA0]; kernel_rfl) (KF.out _  hb')
      refine AllReadyH.cons rfl (fun K hK => ?_) ?_
      · refine step_aS rfl rfl (fun ga y' hga hx ha' => ?_)
        have ga_0 : w9.heap.size ≤ ga := by have := hb.size; omega
        have hb' := hb.trans (hx.mono hb.size)
        clear hga
        refine hK.out _ _ (HKC9.out y' hb') (fun hHeld => ?_)
        clear hK K
        exact held_asZ ho (by kernel_rfl) (by rw [hA0]; kernel_rfl) (Ka.out _ ga hb' ga_0 ha')
      refine AllReadyH.cons rfl (fun K hK => ?_) ?_
      · refine step_bF rfl rfl (fun gf y' hgf hx hf' => ?_)
        have gf_0 : w9.heap.size ≤ gf := by have := hb.size; omega
        have hb' := hb.trans (hx.mono hb.size)
        clear hgf
        refine hK.out _ _ (HKC9.out y' hb') (fun hHeld => ?_)
        clear hK K
        exact held_asZ ho (by kernel_rfl) (by rw [hA0]; kernel_rfl) (Kb.out _ gf hb' gf_0 hf')
      exact AllReadyH.nil)
    exact held_asZ rfl (by kernel_rfl) rfl (K.out y0 hb0)
  case rest =>
  obtain ⟨ga, gf, rfl, rfl, hz1, hz2, hb10⟩ := hcut
  rename_i hKK
  refine hKK _ _ ?_
  clear hKK
  obtain ⟨w10, hw10⟩ : ∃ w6, w6 = wc := ⟨_, rfl⟩
  subst hw10
  have HB10 := Lib.hid (HB9.out.trans (hb10.mono HB9.out.size))
  have HX10 := Lib.hid (HK9'.out.up hb10)
  have HY10 := Lib.hid (HK9.out.up hb10)
  have HZ10 := Lib.hid hz2
  obtain ⟨c0, c1, c2, c3, c4, c5⟩ := HY10.out.sets
  obtain ⟨d0, d1, d2⟩ := HY10.out.flt
  simp only [zeroSt] at c0 c1 c2 c3 c4 c5
  simp only [] at d0 d1 d2
  have b0 : w10.cell? ⟨gf, 0, none⟩ = some (.bool FZ.bad) := cell_of_row _ gf 0 _ 27 _ HZ10.out
  clear hz1 hz2 hb10 HAX HAY HAZ HAZ9
  rcases HYZ.out with ⟨e1, e2⟩ | ⟨e1, e2⟩
  · have hx := HX10.out
    have hz := HZ10.out
    rw [e2] at hx
    rw [e1] at hx hz b0
    simp only [] at hz b0
    have HX := Lib.hid hx
    have HZ := Lib.hid hz
    clear hx hz e1 e2 HYZ
    go_wp2_with fail
    with_reducible refine (HFST.out w10).mono ?_
    rintro e w11 ⟨rfl, hb11⟩
    have HB11 := Lib.hid (HB10.out.trans (hb11.mono HB10.out.size))
    obtain ⟨a0, a1, a2⟩ := (HX.out.up hb11).flt
    obtain ⟨f0, f1, f2⟩ := (HY10.out.up hb11).flt
    have hz := (hb11.block gf (lt_of_heapZ HZ.out)).trans HZ.out
    have z0 := cell_of_row _ gf 0 _ 27 _ hz
    have z1 := cell_of_row _ gf 1 _ 27 _ hz
    have z2 := cell_of_row _ gf 2 _ 27 _ hz
    simp only [] at a0 a1 a2 f0 f1 f2 z0 z1 z2
    clear hb11 hz c0 c1 c2 c3 c4 c5 d0 d1 d2 b0
    go_wp2
    go_ret
    exact ⟨by simp, HB11.out⟩
  · rw [e1] at b0
    simp only [noFlt] at b0
    have HCY := Lib.hid e2
    clear e1 e2 HYZ
    go_wp2_with fail
    with_reducible refine (HFST.out w10).mono ?_
    rintro e w11 ⟨rfl, hb11⟩
    have HB11 := Lib.hid (HB10.out.trans (hb11.mono HB10.out.size))
    obtain ⟨f0, f1, f2⟩ := (HY10.out.up hb11).flt
    simp only [] at f0 f1 f2
    rw [HCY.out] at f2
    clear hb11 c0 c1 c2 c3 c4 c5 d0 d1 d2 b0
    go_wp2
    go_ret
    exact ⟨by simp, HB11.out⟩
end setsFault
end Go.Proofs.Ytkjdjicchmfljaa
