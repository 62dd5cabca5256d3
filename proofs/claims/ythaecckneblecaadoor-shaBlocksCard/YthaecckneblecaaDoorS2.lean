/- Contract of the program's schedule: the 64 words of a block. -/
import Derived.Test.YthaecckneblecaaDoorS1
import Derived.Test.YthaecckneblecaaDoorOne
import Derived.Laws.CopyOwn
namespace Go.Proofs.YthaecckneblecaaDoor
open Go.RowKit Sh

theorem Bk.setRow {w : World} {g : Nat} {T : TypeId} {l : List Nat} (h : Bk w g T l) (l' : List Nat) : Bk (w.setRow g (cn .u32 l').toArray) g T l' := setRow_heap w g _ _ T _ h
theorem Bk.farRow {w : World} {g g' : Nat} {T : TypeId} {l : List Nat} (h : Bk w g T l) (hg : g' ≠ g) (cs : Array Value) : Bk (w.setRow g' cs) g T l := by
  unfold Bk World.setRow
  rw [Array.getElem?_modify, if_neg hg]
  exact h
theorem cn_all (k : IntKind) (l : List Nat) : (cn k l).toArray.all (·.oneCell') = true := by
  rw [Array.all_eq_true_iff_forall_mem]
  intro v hv
  exact cn_one k l v (by simpa using hv)
theorem cellFar (w : World) (g i j : Nat) (u v : Value) (hij : i ≠ j) (h : w.cell? ⟨g, i, none⟩ = some v) : (w.setCell ⟨g, j, none⟩ u).cell? ⟨g, i, none⟩ = some v :=
  (World.cell?_setCell_other w ⟨g, j, none⟩ ⟨g, i, none⟩ u (by rintro e; injection e with _ e; exact hij e.symm)).trans h
/-- The two arrays of schedule: the answer's, the words'. -/
structure Sch (w : World) (W : List Nat) (wr : World) : Prop where
  br : Bk wr w.heap.size 38 (List.replicate 64 0)
  bw : Bk wr (w.heap.size + 1) 38 W
  bl : Below w.heap.size w wr
theorem Sch.drewN {w wr : World} {W : List Nat} (f : Sch w W wr) (n : Nat) : Sch w W (wr.drewN n) := ⟨f.br, f.bw, below_drewN f.bl n⟩
theorem Sch.put {w wr : World} {W : List Nat} (f : Sch w W wr) (n x : Nat) : Sch w (W.set n x) (wr.setCell ⟨w.heap.size + 1, n, none⟩ (.int .u32 (x : Int))) :=
  ⟨f.br.far (by show w.heap.size ≠ w.heap.size + 1; omega) _, f.bw.set n x, f.bl.setCell (by show w.heap.size ≤ w.heap.size + 1; omega) _⟩
def ScA (w : World) (m : List Nat) (i : Value) (wr : World) : Prop := ∃ n : Nat, n ≤ 16 ∧ i = .int .i64 n ∧ Sch w (wS m n ++ List.replicate (64 - n) 0) wr
def ScB (w : World) (m : List Nat) (i : Value) (wr : World) : Prop := ∃ n : Nat, 16 ≤ n ∧ n ≤ 64 ∧ i = .int .i64 n ∧ Sch w (wS m n ++ List.replicate (64 - n) 0) wr
theorem wordAt_at (ab ao n N c r0 X : Nat) (i : Int) (m : List Nat) (w : World) (hi : i = (r0 : Int)) (hc : ∀ i (h : i < m.length), w.cell? ⟨ab, ao + i, none⟩ = some (.int .u8 (m[i] : Int))) (hm : ∀ x ∈ m, x < 256) (hN : m.length = N) (hl : N ≤ 1000000) (hr : r0 = 4 * n) (hn : r0 + 4 ≤ N) (hX : X = word m n) :
    Calls Tryd.prog 28 #[.slice (some ⟨ab, ao, none⟩) N c, .int .i64 i] w (Drawn (.int .u32 (X : Int)) w) := by
  subst hi
  exact wordAt_any ab ao n N c r0 X m w hc hm hN hl hr hn hX
set_option maxRecDepth 100000 in
set_option maxHeartbeats 4000000 in
theorem schedule_any (m : List Nat) (A : Option Addr) (c : Nat) (w : World) (hA : At .u8 w w.heap.size A m) (hm : ∀ x ∈ m, x < 256) (hml : m.length = 64) :
    Calls Tryd.prog 25 #[.slice A 64 c] w fun e w' => e = .returned (.agg (cn .u32 (wS m 64)).toArray) ∧ Below w.heap.size w w' := by
  obtain ⟨ab, ao, rfl, hab, hc⟩ := hA.pos (by omega)
  have HC := Lib.hid hc
  have HML := Lib.hid hml
  have HM := Lib.hid hm
  clear hc hml hm hA
  go_enter Tryd.func25, Tryd.ntmps25
  go_wp2
  have h4 : Sch w (List.replicate 64 0) ((w.alloc (.cells (cn .u32 (List.replicate 64 0)).toArray 38)).alloc (.cells (cn .u32 (List.replicate 64 0)).toArray 38)) :=
    ⟨(Bk.new w _ _).alloc _ (by simp), by
      have := Bk.new (w.alloc (.cells (cn .u32 (List.replicate 64 0)).toArray 38)) 38 (List.replicate 64 0)
      simpa using this, ((Below.refl _ _).alloc (Nat.le_refl _) _).alloc (by simp) _⟩
  change Code.wp _ _ _ _ ((w.alloc (.cells (cn .u32 (List.replicate 64 0)).toArray 38)).alloc (.cells (cn .u32 (List.replicate 64 0)).toArray 38))
  generalize (w.alloc (.cells (cn .u32 (List.replicate 64 0)).toArray 38)).alloc (.cells (cn .u32 (List.replicate 64 0)).toArray 38) = w4 at h4 ⊢
  go_loopw [8] (fun i wr => ScA w m i wr) (fun i _ => 16 - (intOf i).toNat)
  case atStart => exact ⟨0, by omega, rfl, h4⟩
  case round =>
    clear h4
    obtain ⟨n, hn, rfl, h4⟩ := hrel
    have hwl := wS_len m n
    by_cases hlt : n < 16
    · obtain ⟨X, hX⟩ : ∃ X, X = word m n := ⟨_, rfl⟩
      have HWL := Lib.hid hwl
      have HX := Lib.hid hX
      have HK : Hid (∀ w', w' = wr → Calls Tryd.prog 28 #[.slice (some ⟨ab, ao, none⟩) 64 c, .int .i64 (4 * (n : Int))] w' (Drawn (.int .u32 (X : Int)) w')) := by
        apply Lib.hid
        intro w' hw'
        subst hw'
        exact wordAt_at ab ao n 64 c (4 * n) X (4 * (n : Int)) m w' (by omega) (fun i hi => (h4.bl.cell (p := ⟨ab, ao + i, none⟩) hab).trans (HC.out i hi)) HM.out HML.out (by omega) rfl (by omega) hX
      have hf := h4.bw.free n
      obtain ⟨u, hu⟩ : ∃ u, wr.cell? ⟨w.heap.size + 1, n, none⟩ = some u := ⟨_, h4.bw.cell n (by rw [List.length_append, HWL.out, List.length_replicate]; omega)⟩
      have HF := Lib.hid h4
      have i4 : (n : Int) < 16 := by omega
      clear h4 hX hwl
      go_wp2_with fail
      with_reducible refine (HK.out _ rfl).mono ?_
      rintro e w' ⟨rfl, d, rfl⟩
      have hu' : (wr.drewN d).cell? ⟨w.heap.size + 1, n, none⟩ = some u := hu
      have hf' : (wr.drewN d).frozen? ⟨w.heap.size + 1, n, none⟩ = false := hf
      have HF' : Hid (Sch w (wS m n ++ List.replicate (64 - n) 0) (wr.drewN d)) := Lib.hid (HF.out.drewN d)
      clear HF hu hf HK
      generalize wr.drewN d = w3 at hu' hf' HF' ⊢
      have i5 : (n : Int) < 64 := by omega
      go_wp2
      go_roundw
      case rel =>
        refine ⟨n + 1, by omega, by go_num, ?_⟩
        have := HF'.out.put n X
        rw [set_tail _ _ _ (by omega) HWL.out] at this
        rw [wS, if_pos hlt, ← HX.out]
        exact this
      case measure => simp [intOf]; omega
    · have hn16 : n = 16 := by omega
      rw [show ((n : Nat) : Int) = 16 by omega]
      subst hn16
      clear hwl
      go_wp2
      go_loopw [5] (fun i wr => ScB w m i wr) (fun i _ => 64 - (intOf i).toNat)
      case atStart => exact ⟨16, by omega, by omega, rfl, h4⟩
      case round =>
        clear h4
        obtain ⟨n, hn1, hn, rfl, h4⟩ := hrel
        by_cases hlt : n < 64
        · have hwl := wS_len m n
          have g : ∀ j, j < n → ∃ x : Nat, x < 4294967296 ∧ x = (wS m n).getD j 0 ∧ wr.cell? ⟨w.heap.size + 1, j, none⟩ = some (.int .u32 (x : Int)) := fun j hj => by
            have hjl : j < (wS m n ++ List.replicate (64 - n) 0).length := by rw [List.length_append, hwl, List.length_replicate]; omega
            refine ⟨(wS m n).getD j 0, getD_lt (wS_wd m HM.out n) j, rfl, ?_⟩
            rw [h4.bw.cell j hjl, at_front _ n j _ hj hwl hjl]
          obtain ⟨y16, b16, e16, c16⟩ := g (n - 16) (by omega)
          obtain ⟨y15, b15, e15, c15⟩ := g (n - 15) (by omega)
          obtain ⟨y7, b7, e7, c7⟩ := g (n - 7) (by omega)
          obtain ⟨y2, b2, e2, c2⟩ := g (n - 2) (by omega)
          have E16 := Lib.hid e16
          have E15 := Lib.hid e15
          have E7 := Lib.hid e7
          have E2 := Lib.hid e2
          have HWL := Lib.hid hwl
          clear e16 e15 e7 e2 g hwl
          obtain ⟨q16, hq16⟩ : ∃ q, q = n - 16 := ⟨_, rfl⟩
          obtain ⟨q15, hq15⟩ : ∃ q, q = n - 15 := ⟨_, rfl⟩
          obtain ⟨q7, hq7⟩ : ∃ q, q = n - 7 := ⟨_, rfl⟩
          obtain ⟨q2, hq2⟩ : ∃ q, q = n - 2 := ⟨_, rfl⟩
          rw [← hq16] at c16
          rw [← hq15] at c15
          rw [← hq7] at c7
          rw [← hq2] at c2
          have w16 : IntKind.i64.wrap (q16 : Int) = (q16 : Int) := IntWalk.i64_in _ (by omega)
          have w15 : IntKind.i64.wrap (q15 : Int) = (q15 : Int) := IntWalk.i64_in _ (by omega)
          have w7 : IntKind.i64.wrap (q7 : Int) = (q7 : Int) := IntWalk.i64_in _ (by omega)
          have w2 : IntKind.i64.wrap (q2 : Int) = (q2 : Int) := IntWalk.i64_in _ (by omega)
          have v16 : (n : Int) - 16 = (q16 : Int) := by omega
          have v15 : (n : Int) - 15 = (q15 : Int) := by omega
          have v7 : (n : Int) - 7 = (q7 : Int) := by omega
          have v2 : (n : Int) - 2 = (q2 : Int) := by omega
          have l16 : q16 < 64 := by omega
          have l15 : q15 < 64 := by omega
          have l7 : q7 < 64 := by omega
          have l2 : q2 < 64 := by omega
          have i16 : (q16 : Int) < 64 := by omega
          have i15 : (q15 : Int) < 64 := by omega
          have i7 : (q7 : Int) < 64 := by omega
          have i2 : (q2 : Int) < 64 := by omega
          have i4 : (n : Int) < 64 := by omega
          have N16 : Hid (q16 ≠ n) := Lib.hid (by omega)
          have N7 : Hid (q7 ≠ n) := Lib.hid (by omega)
          clear hq16 hq15 hq7 hq2
          obtain ⟨S0, hS0⟩ : ∃ a, a = s0 y15 := ⟨_, rfl⟩
          obtain ⟨S1, hS1⟩ : ∃ a, a = s1 y2 := ⟨_, rfl⟩
          have T0 := Lib.hid fun w => shifted7 y15 S0 w b15 (by rw [hS0, s0])
          have T1 := Lib.hid fun w => shifted17 y2 S1 w b2 (by rw [hS1, s1])
          obtain ⟨p1, hp1⟩ : ∃ a, a = (y16 + y7) % 4294967296 := ⟨_, rfl⟩
          obtain ⟨p2, hp2⟩ : ∃ a, a = (p1 + S0) % 4294967296 := ⟨_, rfl⟩
          obtain ⟨p3, hp3⟩ : ∃ a, a = (p2 + S1) % 4294967296 := ⟨_, rfl⟩
          have u1 := add_rule hp1
          have u1' := add_rule' hp1
          have u2 := add_rule hp2
          have u2' := add_rule' hp2
          have u3 := add_rule hp3
          have u3' := add_rule' hp3
          have HX : Hid (p3 = (y16 + s0 y15 + y7 + s1 y2) % 4294967296) := by
            apply Lib.hid
            rw [← hS0, ← hS1]
            omega
          clear hS0 hS1 hp1 hp2 hp3
          have hf := h4.bw.free n
          obtain ⟨u, hu⟩ : ∃ u, wr.cell? ⟨w.heap.size + 1, n, none⟩ = some u := ⟨_, h4.bw.cell n (by rw [List.length_append, HWL.out, List.length_replicate]; omega)⟩
          have HF := Lib.hid h4
          clear h4
          go_wp2
          go_quiet (fail)
          go_wp2
          have c16' : (wr.drewN nq).cell? ⟨w.heap.size + 1, q16, none⟩ = some (.int .u32 (y16 : Int)) := c16
          have c7' : (wr.drewN nq).cell? ⟨w.heap.size + 1, q7, none⟩ = some (.int .u32 (y7 : Int)) := c7
          have hu' : (wr.drewN nq).cell? ⟨w.heap.size + 1, n, none⟩ = some u := hu
          have hf' : (wr.drewN nq).frozen? ⟨w.heap.size + 1, n, none⟩ = false := hf
          have HF' : Hid (Sch w (wS m n ++ List.replicate (64 - n) 0) (wr.drewN nq)) := Lib.hid (HF.out.drewN nq)
          clear c16 c15 c7 c2 hu hf HF
          generalize wr.drewN nq = w3 at c16' c7' hu' hf' HF' ⊢
          go_region_held3 (fun w' => w'.cell? ⟨w.heap.size + 1, q16, none⟩ = some (.int .u32 (y16 : Int)) ∧ w'.cell? ⟨w.heap.size + 1, q7, none⟩ = some (.int .u32 (y7 : Int)))
            (first
              | exact ⟨c16', c7'⟩
              | exact ⟨cellFar _ _ _ _ _ _ N16.out c16', cellFar _ _ _ _ _ _ N7.out c7'⟩)
            (first
              | ((with_reducible refine (T0.out _).mono ?_); rintro e w6 ⟨rfl, d6, rfl⟩)
              | ((with_reducible refine (T1.out _).mono ?_); rintro e w7 ⟨rfl, d7, rfl⟩))
          go_wp2
          go_roundw
          case rel =>
            refine ⟨n + 1, by omega, by omega, by go_num, ?_⟩
            have := (HF'.out.drewN (1 + d6 + d7)).put n p3
            rw [set_tail _ _ _ hlt HWL.out] at this
            rw [wS, if_neg (show ¬ n < 16 by omega), ← E16.out, ← E15.out, ← E7.out, ← E2.out, ← HX.out]
            exact this
          case measure => simp [intOf]; omega
        · have hn64 : n = 64 := by omega
          rw [show ((n : Nat) : Int) = 64 by omega]
          subst hn64
          have hb : Bk wr (w.heap.size + 1) 38 (wS m 64) := by
            have := h4.bw
            rw [List.replicate_zero, List.append_nil] at this
            exact this
          have HL := Lib.hid (wS_len m 64)
          have hbr := Lib.hid h4.br
          have hbl := Lib.hid h4.bl
          clear h4
          go_wp2_with (first
            | (refine wpList_load_row rfl 38 (.tmp 3) rfl (w.heap.size + 1) rfl 38 _ (0, 0) _ hb Tryd.underlying38 rfl (by rw [size64]; simp [cn, HL.out]) ?_)
            | (refine wpList_store_row rfl 38 (.tmp 2) (.tmp 47) rfl w.heap.size (cn .u32 (wS m 64)).toArray rfl rfl 38 _ hbr.out (by rw [size64]; simp [cn, HL.out]) (by simp [cn, HL.out]) (cn_all _ _) ?_))
          refine bodyPost_ret (results_cell_row Tryd.results25 _ _ w.heap.size 38 _ (0, 0) _ rfl (hbr.out.setRow (wS m 64)) Tryd.underlying38 rfl (by rw [size64]; simp [cn, HL.out])) rfl ⟨rfl, ?_⟩
          exact below_setRow hbl.out (Nat.le_refl _) _
end Go.Proofs.YthaecckneblecaaDoor
