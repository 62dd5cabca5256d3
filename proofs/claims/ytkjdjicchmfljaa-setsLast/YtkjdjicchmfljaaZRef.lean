/- The document's First and Apply. -/
import Derived.Test.YtkjdjicchmfljaaZPost
import Derived.Deep.DeepCutAuto
import Derived.BigQuiet
namespace Go.Proofs.Ytkjdjicchmfljaa
open Go.RowKit Zs

/-- The three blocks of a walk over Apply: the settings, what comes out, what is wrong. -/
def T3 (W : World) (g : Nat) (cs : Array Value) : Prop := W.heap[g]? = some (.cells cs 23 (0, 0)) ∧ W.heap[g + 1]? = some (.cells #[.int .i64 0, .int .i64 0, .int .i64 0, .int .i64 0, .int .i64 0, .int .i64 0] 23 (0, 0)) ∧ W.heap[g + 1 + 1]? = some (.cells #[.bool false, .bool false, .int .i64 0] 27 (0, 0))
def stc (s : St) : Array Value := #[.int .i64 s.table, .int .i64 s.push, .int .i64 s.streams, .int .i64 s.window, .int .i64 s.frame, .int .i64 s.list]
theorem t3_of (w : World) (cs : Array Value) : T3 (((w.alloc (.cells cs 23)).alloc (.cells #[.int .i64 0, .int .i64 0, .int .i64 0, .int .i64 0, .int .i64 0, .int .i64 0] 23)).alloc (.cells #[.bool false, .bool false, .int .i64 0] 27)) w.heap.size cs ∧ Below w.heap.size w (((w.alloc (.cells cs 23)).alloc (.cells #[.int .i64 0, .int .i64 0, .int .i64 0, .int .i64 0, .int .i64 0, .int .i64 0] 23)).alloc (.cells #[.bool false, .bool false, .int .i64 0] 27)) := by
  obtain ⟨w1, h1⟩ : ∃ x, x = w.alloc (.cells cs 23) := ⟨_, rfl⟩
  obtain ⟨w2, h2⟩ : ∃ x, x = w1.alloc (.cells #[.int .i64 0, .int .i64 0, .int .i64 0, .int .i64 0, .int .i64 0, .int .i64 0] 23) := ⟨_, rfl⟩
  have s1 : w1.heap.size = w.heap.size + 1 := by rw [h1]; simp
  have s2 : w2.heap.size = w.heap.size + 1 + 1 := by rw [h2]; simp [s1]
  have q1 : w1.heap[w.heap.size]? = some (.cells cs 23 (0, 0)) := by rw [h1]; exact heap_alloc_new w _
  have q2 : w2.heap[w.heap.size + 1]? = some (.cells #[.int .i64 0, .int .i64 0, .int .i64 0, .int .i64 0, .int .i64 0, .int .i64 0] 23 (0, 0)) := by rw [h2, ← s1]; exact heap_alloc_new w1 _
  have b1 : Below w.heap.size w w1 := by rw [h1]; exact (Below.refl _ _).alloc (Nat.le_refl _) _
  have b2 : Below w1.heap.size w1 w2 := by rw [h2]; exact (Below.refl _ _).alloc (Nat.le_refl _) _
  have b3 : Below w2.heap.size w2 (w2.alloc (.cells #[.bool false, .bool false, .int .i64 0] 27)) := (Below.refl _ _).alloc (Nat.le_refl _) _
  rw [← h1, ← h2]
  exact ⟨⟨(b3.block _ (by omega)).trans ((b2.block _ (by omega)).trans q1), (b3.block _ (by omega)).trans q2, by rw [← s2]; exact heap_alloc_new w2 _⟩, (b1.trans (b2.mono (by omega))).trans (b3.mono (by omega))⟩
theorem T3.up {W W' : World} {g : Nat} {cs : Array Value} (h : T3 W g cs) (hb : Below W.heap.size W W') : T3 W' g cs := ⟨(hb.block _ (lt_of_heapZ h.1)).trans h.1, (hb.block _ (lt_of_heapZ h.2.1)).trans h.2.1, (hb.block _ (lt_of_heapZ h.2.2)).trans h.2.2⟩
theorem T3.set {W : World} {g : Nat} {cs : Array Value} (h : T3 W g cs) (i : Nat) (u : Value) : T3 (W.setCell ⟨g, i, none⟩ u) g (cs.setIfInBounds i u) := by
  have hf := fun (k : Nat) (hk : k ≠ g) => Below.heap_setCell W ⟨g, i, none⟩ u k hk
  exact ⟨heap_setCell_same W g i cs 23 u h.1, (hf (g + 1) (by omega)).trans h.2.1, (hf (g + 1 + 1) (by omega)).trans h.2.2⟩
/-- Behind j settings. -/
def ZR (w : World) (g n : Nat) (s0 : St) (l : List (Int × Int)) (i : Value) (wr : World) : Prop :=
  ∃ (j : Nat) (s : St), j ≤ n ∧ i = .int .i64 (j : Int) ∧ T3 wr g (stc s) ∧ apply s0 l = apply s (l.drop j) ∧ Below w.heap.size w wr
theorem rzfault_any (code : Int) (conn : Bool) (w : World) : Calls Try.prog 14 #[.int .i64 code, .bool conn] w fun e w' => e = .returned (.agg #[.bool true, .bool conn, .int .i64 code]) ∧ Below w.heap.size w w' := by
  go_enter Try.func14, Try.ntmps14
  go_wp2
  refine bodyPost_ret (v := .agg #[.bool true, .bool conn, .int .i64 code]) (by simp [results, Try.results14, go_sem]) rfl ?_
  exact ⟨rfl, (Below.refl _ _).alloc (Nat.le_refl _) _⟩
set_option maxRecDepth 100000 in
theorem rzfirst_any (w : World) : Calls Try.prog 11 #[] w (SPost w firstSt) := by
  go_enter Try.func11, Try.ntmps11
  go_wp2
  refine bodyPost_ret (v := stv firstSt) (by simp [results, Try.results11, go_sem, stv, firstSt]) rfl ?_
  exact ⟨rfl, (Below.refl _ _).alloc (Nat.le_refl _) _⟩
set_option maxRecDepth 100000 in
set_option maxHeartbeats 4000000 in
theorem rzapply_any (s0 : St) (A : Option Addr) (l : List (Int × Int)) (n c : Nat) (w : World) (hA : AtS w w.heap.size A l) (hl : l.length = n) (hn : n ≤ 1000) : Calls Try.prog 9 #[stv s0, .slice A n c] w (APost w (apply s0 l)) := by
  unfold stv
  obtain ⟨T0, hb1⟩ := t3_of w (stc s0)
  obtain ⟨g, hg⟩ : ∃ g, g = w.heap.size := ⟨_, rfl⟩
  obtain ⟨w1, hw1⟩ : ∃ x, x = (((w.alloc (.cells #[.int .i64 s0.table, .int .i64 s0.push, .int .i64 s0.streams, .int .i64 s0.window, .int .i64 s0.frame, .int .i64 s0.list] 23)).alloc (.cells #[.int .i64 0, .int .i64 0, .int .i64 0, .int .i64 0, .int .i64 0, .int .i64 0] 23)).alloc (.cells #[.bool false, .bool false, .int .i64 0] 27)) := ⟨_, rfl⟩
  simp only [stc] at T0 hb1
  rw [← hw1, ← hg] at T0
  rw [← hw1] at hb1
  have HA := Lib.hid hA
  have HL := Lib.hid hl
  have HNN := Lib.hid hn
  have HG := Lib.hid hg
  have HW := Lib.hid hw1
  have HST : Hid (ZR w g n s0 l (.int .i64 0) w1) := Lib.hid ⟨0, s0, Nat.zero_le _, rfl, T0, by rw [List.drop_zero], hb1⟩
  clear hA hl hn hg hw1 T0 hb1
  go_enter Try.func9, Try.ntmps9
  go_upto_region 1 with fail
  rw [← HW.out, ← HG.out]
  go_wp2
  go_loopw [6] (fun i wr => ZR w g n s0 l i wr) (fun i _ => n - (intOf i).toNat)
  case atStart => exact HST.out
  case round =>
    obtain ⟨j, s, hj, rfl, T, hap, hbw⟩ := hrel
    by_cases hlt : j < n
    · have hjl : j < l.length := by have := HL.out; omega
      obtain ⟨b, o, rfl, hbB, hcs⟩ := HA.out.pos (by omega)
      obtain ⟨⟨x, v⟩, hxv⟩ : ∃ f, f = l[j] := ⟨_, rfl⟩
      obtain ⟨c0, c1⟩ := hcs j hjl
      rw [← hxv] at c0 c1
      simp only [] at c0 c1
      have d0 : wr.cell? ⟨b, o + j * 2, none⟩ = some (.int .i64 x) := (hbw.cell (p := ⟨b, o + j * 2, none⟩) hbB).trans c0
      have d1 : wr.cell? ⟨b, o + j * 2 + 1, none⟩ = some (.int .i64 v) := (hbw.cell (p := ⟨b, o + j * 2 + 1, none⟩) hbB).trans c1
      rw [drop_next hjl, ← hxv] at hap
      have ki : (j : Int) < (n : Int) := by omega
      have HJ : Hid (j < n) := Lib.hid hlt
      have wj : IntKind.i64.wrap ((j : Int) + 1) = (j : Int) + 1 := IntWalk.i64_in _ (by have := HNN.out; omega)
      clear hcs c0 c1 hxv hjl
      obtain ⟨m, hm⟩ : ∃ m, m = cap v := ⟨_, rfl⟩
      have om : (if 2147483647 < v then 2147483647 else v) = m := hm.symm
      by_cases hx1 : x = 1
      · have k1 : (x == 1) = true := by rw [hx1]; rfl
        have ho : one s (x, v) = ({ s with table := m }, 0) := by simp [one, hx1, hm]
        clear hx1 hm 
        have HT := Lib.hid (show T3 (wr.setCell ⟨g, 0, none⟩ (.int .i64 m)) g (stc { s with table := m }) from T.set 0 _)
        have HA2 := Lib.hid (hap.trans (apply_ok _ ho))
        have HB2 := Lib.hid (hbw.setCell (p := ⟨g, 0, none⟩) (show w.heap.size ≤ g by have := HG.out; omega) (.int .i64 m))
        have p0 : wr.cell? ⟨g, 0, none⟩ = some (.int .i64 s.table) := cell_of_row _ g 0 _ 23 _ T.1
        have z0 : wr.frozen? ⟨g, 0, none⟩ = false := frozen_of_row _ g 0 _ 23 T.1
        clear T hap hbw ho hlt hj
        go_wp2
        go_roundw
        case rel => exact ⟨j + 1, _, by have := HJ.out; omega, by go_num, HT.out, HA2.out, HB2.out⟩
        case measure => simp [intOf]; have := HJ.out; omega
      by_cases hx2 : x = 2
      · have k1 : (x == 1) = false := by rw [beq_eq_false_iff_ne]; exact hx1
        have k2 : (x == 2) = true := by rw [hx2]; rfl
        by_cases hv0 : v < 0
        · have ho : one s (x, v) = (zeroSt, 1) := by simp [one, hx2, hv0]
          clear hx2 hm hx1
          have HA2 := Lib.hid (hap.trans (apply_no _ ho (by decide)))
          have HT := Lib.hid T
          have HB2 := Lib.hid hbw
          have HF9 := Lib.hid (rzfault_any 1 true wr)
          clear T hap hbw ho hlt hj
          go_wp2_with fail
          with_reducible refine (HF9.out).mono ?_
          rintro e w9 ⟨rfl, hb9⟩
          have T9 := HT.out.up hb9
          have r0 : w9.cell? ⟨g + 1, 0, none⟩ = some (.int .i64 0) := cell_of_row _ (g + 1) 0 _ 23 _ T9.2.1
          have f0 : w9.frozen? ⟨g + 1, 0, none⟩ = false := frozen_of_row _ (g + 1) 0 _ 23 T9.2.1
          have r1 : w9.cell? ⟨g + 1, 1, none⟩ = some (.int .i64 0) := cell_of_row _ (g + 1) 1 _ 23 _ T9.2.1
          have f1 : w9.frozen? ⟨g + 1, 1, none⟩ = false := frozen_of_row _ (g + 1) 1 _ 23 T9.2.1
          have r2 : w9.cell? ⟨g + 1, 2, none⟩ = some (.int .i64 0) := cell_of_row _ (g + 1) 2 _ 23 _ T9.2.1
          have f2 : w9.frozen? ⟨g + 1, 2, none⟩ = false := frozen_of_row _ (g + 1) 2 _ 23 T9.2.1
          have r3 : w9.cell? ⟨g + 1, 3, none⟩ = some (.int .i64 0) := cell_of_row _ (g + 1) 3 _ 23 _ T9.2.1
          have f3 : w9.frozen? ⟨g + 1, 3, none⟩ = false := frozen_of_row _ (g + 1) 3 _ 23 T9.2.1
          have r4 : w9.cell? ⟨g + 1, 4, none⟩ = some (.int .i64 0) := cell_of_row _ (g + 1) 4 _ 23 _ T9.2.1
          have f4 : w9.frozen? ⟨g + 1, 4, none⟩ = false := frozen_of_row _ (g + 1) 4 _ 23 T9.2.1
          have r5 : w9.cell? ⟨g + 1, 5, none⟩ = some (.int .i64 0) := cell_of_row _ (g + 1) 5 _ 23 _ T9.2.1
          have f5 : w9.frozen? ⟨g + 1, 5, none⟩ = false := frozen_of_row _ (g + 1) 5 _ 23 T9.2.1
          have t0 : w9.cell? ⟨g + 1 + 1, 0, none⟩ = some (.bool false) := cell_of_row _ (g + 1 + 1) 0 _ 27 _ T9.2.2
          have u0 : w9.frozen? ⟨g + 1 + 1, 0, none⟩ = false := frozen_of_row _ (g + 1 + 1) 0 _ 27 T9.2.2
          have t1 : w9.cell? ⟨g + 1 + 1, 1, none⟩ = some (.bool false) := cell_of_row _ (g + 1 + 1) 1 _ 27 _ T9.2.2
          have u1 : w9.frozen? ⟨g + 1 + 1, 1, none⟩ = false := frozen_of_row _ (g + 1 + 1) 1 _ 27 T9.2.2
          have t2 : w9.cell? ⟨g + 1 + 1, 2, none⟩ = some (.int .i64 0) := cell_of_row _ (g + 1 + 1) 2 _ 27 _ T9.2.2
          have u2 : w9.frozen? ⟨g + 1 + 1, 2, none⟩ = false := frozen_of_row _ (g + 1 + 1) 2 _ 27 T9.2.2
          have hb2 := HB2.out.trans (hb9.mono HB2.out.size)
          have HN : Hid (APost w (apply s0 l) (.returned (.tuple #[.agg #[.int .i64 0, .int .i64 0, .int .i64 0, .int .i64 0, .int .i64 0, .int .i64 0], .agg #[.bool true, .bool true, .int .i64 1]])) (((((((((w9.setCell ⟨g + 1, 0, none⟩ (.int .i64 0)).setCell ⟨g + 1, 1, none⟩ (.int .i64 0)).setCell ⟨g + 1, 2, none⟩ (.int .i64 0)).setCell ⟨g + 1, 3, none⟩ (.int .i64 0)).setCell ⟨g + 1, 4, none⟩ (.int .i64 0)).setCell ⟨g + 1, 5, none⟩ (.int .i64 0)).setCell ⟨g + 1 + 1, 0, none⟩ (.bool true)).setCell ⟨g + 1 + 1, 1, none⟩ (.bool true)).setCell ⟨g + 1 + 1, 2, none⟩ (.int .i64 1))) := Lib.hid ⟨by rw [HA2.out]; rfl, (by
            have h1 : w.heap.size ≤ g + 1 := by have := HG.out; omega
            have h2 : w.heap.size ≤ g + 1 + 1 := by have := HG.out; omega
            repeat' (first | (with_reducible exact hb2) | (with_reducible refine Below.setCell ?_ ?_ _) | (with_reducible exact h1) | (with_reducible exact h2)))⟩
          clear T9 hb9 hb2
          go_wp2
          refine bodyPost_ret (v := .tuple #[.agg #[.int .i64 0, .int .i64 0, .int .i64 0, .int .i64 0, .int .i64 0, .int .i64 0], .agg #[.bool true, .bool true, .int .i64 1]]) (by simp [results, Try.results9, go_sem, r0, r1, r2, r3, r4, r5, t0, t1, t2]) rfl HN.out
        by_cases hv1 : 1 < v
        · have ho : one s (x, v) = (zeroSt, 1) := by simp [one, hx2, hv1]
          clear hx2 hm hx1
          have HA2 := Lib.hid (hap.trans (apply_no _ ho (by decide)))
          have HT := Lib.hid T
          have HB2 := Lib.hid hbw
          have HF9 := Lib.hid (rzfault_any 1 true wr)
          clear T hap hbw ho hlt hj
          go_wp2_with fail
          with_reducible refine (HF9.out).mono ?_
          rintro e w9 ⟨rfl, hb9⟩
          have T9 := HT.out.up hb9
          have r0 : w9.cell? ⟨g + 1, 0, none⟩ = some (.int .i64 0) := cell_of_row _ (g + 1) 0 _ 23 _ T9.2.1
          have f0 : w9.frozen? ⟨g + 1, 0, none⟩ = false := frozen_of_row _ (g + 1) 0 _ 23 T9.2.1
          have r1 : w9.cell? ⟨g + 1, 1, none⟩ = some (.int .i64 0) := cell_of_row _ (g + 1) 1 _ 23 _ T9.2.1
          have f1 : w9.frozen? ⟨g + 1, 1, none⟩ = false := frozen_of_row _ (g + 1) 1 _ 23 T9.2.1
          have r2 : w9.cell? ⟨g + 1, 2, none⟩ = some (.int .i64 0) := cell_of_row _ (g + 1) 2 _ 23 _ T9.2.1
          have f2 : w9.frozen? ⟨g + 1, 2, none⟩ = false := frozen_of_row _ (g + 1) 2 _ 23 T9.2.1
          have r3 : w9.cell? ⟨g + 1, 3, none⟩ = some (.int .i64 0) := cell_of_row _ (g + 1) 3 _ 23 _ T9.2.1
          have f3 : w9.frozen? ⟨g + 1, 3, none⟩ = false := frozen_of_row _ (g + 1) 3 _ 23 T9.2.1
          have r4 : w9.cell? ⟨g + 1, 4, none⟩ = some (.int .i64 0) := cell_of_row _ (g + 1) 4 _ 23 _ T9.2.1
          have f4 : w9.frozen? ⟨g + 1, 4, none⟩ = false := frozen_of_row _ (g + 1) 4 _ 23 T9.2.1
          have r5 : w9.cell? ⟨g + 1, 5, none⟩ = some (.int .i64 0) := cell_of_row _ (g + 1) 5 _ 23 _ T9.2.1
          have f5 : w9.frozen? ⟨g + 1, 5, none⟩ = false := frozen_of_row _ (g + 1) 5 _ 23 T9.2.1
          have t0 : w9.cell? ⟨g + 1 + 1, 0, none⟩ = some (.bool false) := cell_of_row _ (g + 1 + 1) 0 _ 27 _ T9.2.2
          have u0 : w9.frozen? ⟨g + 1 + 1, 0, none⟩ = false := frozen_of_row _ (g + 1 + 1) 0 _ 27 T9.2.2
          have t1 : w9.cell? ⟨g + 1 + 1, 1, none⟩ = some (.bool false) := cell_of_row _ (g + 1 + 1) 1 _ 27 _ T9.2.2
          have u1 : w9.frozen? ⟨g + 1 + 1, 1, none⟩ = false := frozen_of_row _ (g + 1 + 1) 1 _ 27 T9.2.2
          have t2 : w9.cell? ⟨g + 1 + 1, 2, none⟩ = some (.int .i64 0) := cell_of_row _ (g + 1 + 1) 2 _ 27 _ T9.2.2
          have u2 : w9.frozen? ⟨g + 1 + 1, 2, none⟩ = false := frozen_of_row _ (g + 1 + 1) 2 _ 27 T9.2.2
          have hb2 := HB2.out.trans (hb9.mono HB2.out.size)
          have HN : Hid (APost w (apply s0 l) (.returned (.tuple #[.agg #[.int .i64 0, .int .i64 0, .int .i64 0, .int .i64 0, .int .i64 0, .int .i64 0], .agg #[.bool true, .bool true, .int .i64 1]])) (((((((((w9.setCell ⟨g + 1, 0, none⟩ (.int .i64 0)).setCell ⟨g + 1, 1, none⟩ (.int .i64 0)).setCell ⟨g + 1, 2, none⟩ (.int .i64 0)).setCell ⟨g + 1, 3, none⟩ (.int .i64 0)).setCell ⟨g + 1, 4, none⟩ (.int .i64 0)).setCell ⟨g + 1, 5, none⟩ (.int .i64 0)).setCell ⟨g + 1 + 1, 0, none⟩ (.bool true)).setCell ⟨g + 1 + 1, 1, none⟩ (.bool true)).setCell ⟨g + 1 + 1, 2, none⟩ (.int .i64 1))) := Lib.hid ⟨by rw [HA2.out]; rfl, (by
            have h1 : w.heap.size ≤ g + 1 := by have := HG.out; omega
            have h2 : w.heap.size ≤ g + 1 + 1 := by have := HG.out; omega
            repeat' (first | (with_reducible exact hb2) | (with_reducible refine Below.setCell ?_ ?_ _) | (with_reducible exact h1) | (with_reducible exact h2)))⟩
          clear T9 hb9 hb2
          go_wp2
          refine bodyPost_ret (v := .tuple #[.agg #[.int .i64 0, .int .i64 0, .int .i64 0, .int .i64 0, .int .i64 0, .int .i64 0], .agg #[.bool true, .bool true, .int .i64 1]]) (by simp [results, Try.results9, go_sem, r0, r1, r2, r3, r4, r5, t0, t1, t2]) rfl HN.out
        have ho : one s (x, v) = ({ s with push := v }, 0) := by simp [one, hx2]; omega
        clear hx2 hm hx1
        have HT := Lib.hid (show T3 (wr.setCell ⟨g, 1, none⟩ (.int .i64 v)) g (stc { s with push := v }) from T.set 1 _)
        have HA2 := Lib.hid (hap.trans (apply_ok _ ho))
        have HB2 := Lib.hid (hbw.setCell (p := ⟨g, 1, none⟩) (show w.heap.size ≤ g by have := HG.out; omega) (.int .i64 v))
        have p1 : wr.cell? ⟨g, 1, none⟩ = some (.int .i64 s.push) := cell_of_row _ g 1 _ 23 _ T.1
        have z1 : wr.frozen? ⟨g, 1, none⟩ = false := frozen_of_row _ g 1 _ 23 T.1
        clear T hap hbw ho hlt hj
        go_wp2
        go_roundw
        case rel => exact ⟨j + 1, _, by have := HJ.out; omega, by go_num, HT.out, HA2.out, HB2.out⟩
        case measure => simp [intOf]; have := HJ.out; omega
      by_cases hx3 : x = 3
      · have k1 : (x == 1) = false := by rw [beq_eq_false_iff_ne]; exact hx1
        have k2 : (x == 2) = false := by rw [beq_eq_false_iff_ne]; exact hx2
        have k3 : (x == 3) = true := by rw [hx3]; rfl
        have ho : one s (x, v) = ({ s with streams := m }, 0) := by simp [one, hx3, hm]
        clear hx3 hm hx1 hx2
        have HT := Lib.hid (show T3 (wr.setCell ⟨g, 2, none⟩ (.int .i64 m)) g (stc { s with streams := m }) from T.set 2 _)
        have HA2 := Lib.hid (hap.trans (apply_ok _ ho))
        have HB2 := Lib.hid (hbw.setCell (p := ⟨g, 2, none⟩) (show w.heap.size ≤ g by have := HG.out; omega) (.int .i64 m))
        have p2 : wr.cell? ⟨g, 2, none⟩ = some (.int .i64 s.streams) := cell_of_row _ g 2 _ 23 _ T.1
        have z2 : wr.frozen? ⟨g, 2, none⟩ = false := frozen_of_row _ g 2 _ 23 T.1
        clear T hap hbw ho hlt hj
        go_wp2
        go_roundw
        case rel => exact ⟨j + 1, _, by have := HJ.out; omega, by go_num, HT.out, HA2.out, HB2.out⟩
        case measure => simp [intOf]; have := HJ.out; omega
      by_cases hx4 : x = 4
      · have k1 : (x == 1) = false := by rw [beq_eq_false_iff_ne]; exact hx1
        have k2 : (x == 2) = false := by rw [beq_eq_false_iff_ne]; exact hx2
        have k3 : (x == 3) = false := by rw [beq_eq_false_iff_ne]; exact hx3
        have k4 : (x == 4) = true := by rw [hx4]; rfl
        by_cases hv0 : 2147483647 < v
        · have ho : one s (x, v) = (zeroSt, 3) := by simp [one, hx4, hv0]
          clear hx4 hm hx1 hx2 hx3
          have HA2 := Lib.hid (hap.trans (apply_no _ ho (by decide)))
          have HT := Lib.hid T
          have HB2 := Lib.hid hbw
          have HF9 := Lib.hid (rzfault_any 3 true wr)
          clear T hap hbw ho hlt hj
          go_wp2_with fail
          with_reducible refine (HF9.out).mono ?_
          rintro e w9 ⟨rfl, hb9⟩
          have T9 := HT.out.up hb9
          have r0 : w9.cell? ⟨g + 1, 0, none⟩ = some (.int .i64 0) := cell_of_row _ (g + 1) 0 _ 23 _ T9.2.1
          have f0 : w9.frozen? ⟨g + 1, 0, none⟩ = false := frozen_of_row _ (g + 1) 0 _ 23 T9.2.1
          have r1 : w9.cell? ⟨g + 1, 1, none⟩ = some (.int .i64 0) := cell_of_row _ (g + 1) 1 _ 23 _ T9.2.1
          have f1 : w9.frozen? ⟨g + 1, 1, none⟩ = false := frozen_of_row _ (g + 1) 1 _ 23 T9.2.1
          have r2 : w9.cell? ⟨g + 1, 2, none⟩ = some (.int .i64 0) := cell_of_row _ (g + 1) 2 _ 23 _ T9.2.1
          have f2 : w9.frozen? ⟨g + 1, 2, none⟩ = false := frozen_of_row _ (g + 1) 2 _ 23 T9.2.1
          have r3 : w9.cell? ⟨g + 1, 3, none⟩ = some (.int .i64 0) := cell_of_row _ (g + 1) 3 _ 23 _ T9.2.1
          have f3 : w9.frozen? ⟨g + 1, 3, none⟩ = false := frozen_of_row _ (g + 1) 3 _ 23 T9.2.1
          have r4 : w9.cell? ⟨g + 1, 4, none⟩ = some (.int .i64 0) := cell_of_row _ (g + 1) 4 _ 23 _ T9.2.1
          have f4 : w9.frozen? ⟨g + 1, 4, none⟩ = false := frozen_of_row _ (g + 1) 4 _ 23 T9.2.1
          have r5 : w9.cell? ⟨g + 1, 5, none⟩ = some (.int .i64 0) := cell_of_row _ (g + 1) 5 _ 23 _ T9.2.1
          have f5 : w9.frozen? ⟨g + 1, 5, none⟩ = false := frozen_of_row _ (g + 1) 5 _ 23 T9.2.1
          have t0 : w9.cell? ⟨g + 1 + 1, 0, none⟩ = some (.bool false) := cell_of_row _ (g + 1 + 1) 0 _ 27 _ T9.2.2
          have u0 : w9.frozen? ⟨g + 1 + 1, 0, none⟩ = false := frozen_of_row _ (g + 1 + 1) 0 _ 27 T9.2.2
          have t1 : w9.cell? ⟨g + 1 + 1, 1, none⟩ = some (.bool false) := cell_of_row _ (g + 1 + 1) 1 _ 27 _ T9.2.2
          have u1 : w9.frozen? ⟨g + 1 + 1, 1, none⟩ = false := frozen_of_row _ (g + 1 + 1) 1 _ 27 T9.2.2
          have t2 : w9.cell? ⟨g + 1 + 1, 2, none⟩ = some (.int .i64 0) := cell_of_row _ (g + 1 + 1) 2 _ 27 _ T9.2.2
          have u2 : w9.frozen? ⟨g + 1 + 1, 2, none⟩ = false := frozen_of_row _ (g + 1 + 1) 2 _ 27 T9.2.2
          have hb2 := HB2.out.trans (hb9.mono HB2.out.size)
          have HN : Hid (APost w (apply s0 l) (.returned (.tuple #[.agg #[.int .i64 0, .int .i64 0, .int .i64 0, .int .i64 0, .int .i64 0, .int .i64 0], .agg #[.bool true, .bool true, .int .i64 3]])) (((((((((w9.setCell ⟨g + 1, 0, none⟩ (.int .i64 0)).setCell ⟨g + 1, 1, none⟩ (.int .i64 0)).setCell ⟨g + 1, 2, none⟩ (.int .i64 0)).setCell ⟨g + 1, 3, none⟩ (.int .i64 0)).setCell ⟨g + 1, 4, none⟩ (.int .i64 0)).setCell ⟨g + 1, 5, none⟩ (.int .i64 0)).setCell ⟨g + 1 + 1, 0, none⟩ (.bool true)).setCell ⟨g + 1 + 1, 1, none⟩ (.bool true)).setCell ⟨g + 1 + 1, 2, none⟩ (.int .i64 3))) := Lib.hid ⟨by rw [HA2.out]; rfl, (by
            have h1 : w.heap.size ≤ g + 1 := by have := HG.out; omega
            have h2 : w.heap.size ≤ g + 1 + 1 := by have := HG.out; omega
            repeat' (first | (with_reducible exact hb2) | (with_reducible refine Below.setCell ?_ ?_ _) | (with_reducible exact h1) | (with_reducible exact h2)))⟩
          clear T9 hb9 hb2
          go_wp2
          refine bodyPost_ret (v := .tuple #[.agg #[.int .i64 0, .int .i64 0, .int .i64 0, .int .i64 0, .int .i64 0, .int .i64 0], .agg #[.bool true, .bool true, .int .i64 3]]) (by simp [results, Try.results9, go_sem, r0, r1, r2, r3, r4, r5, t0, t1, t2]) rfl HN.out
        have ho : one s (x, v) = ({ s with window := v }, 0) := by simp [one, hx4, hv0]
        clear hx4 hm hx1 hx2 hx3
        have HT := Lib.hid (show T3 (wr.setCell ⟨g, 3, none⟩ (.int .i64 v)) g (stc { s with window := v }) from T.set 3 _)
        have HA2 := Lib.hid (hap.trans (apply_ok _ ho))
        have HB2 := Lib.hid (hbw.setCell (p := ⟨g, 3, none⟩) (show w.heap.size ≤ g by have := HG.out; omega) (.int .i64 v))
        have p3 : wr.cell? ⟨g, 3, none⟩ = some (.int .i64 s.window) := cell_of_row _ g 3 _ 23 _ T.1
        have z3 : wr.frozen? ⟨g, 3, none⟩ = false := frozen_of_row _ g 3 _ 23 T.1
        clear T hap hbw ho hlt hj
        go_wp2
        go_roundw
        case rel => exact ⟨j + 1, _, by have := HJ.out; omega, by go_num, HT.out, HA2.out, HB2.out⟩
        case measure => simp [intOf]; have := HJ.out; omega
      by_cases hx5 : x = 5
      · have k1 : (x == 1) = false := by rw [beq_eq_false_iff_ne]; exact hx1
        have k2 : (x == 2) = false := by rw [beq_eq_false_iff_ne]; exact hx2
        have k3 : (x == 3) = false := by rw [beq_eq_false_iff_ne]; exact hx3
        have k4 : (x == 4) = false := by rw [beq_eq_false_iff_ne]; exact hx4
        have k5 : (x == 5) = true := by rw [hx5]; rfl
        by_cases hv0 : v < 16384
        · have ho : one s (x, v) = (zeroSt, 1) := by simp [one, hx5, hv0]
          clear hx5 hm hx1 hx2 hx3 hx4
          have HA2 := Lib.hid (hap.trans (apply_no _ ho (by decide)))
          have HT := Lib.hid T
          have HB2 := Lib.hid hbw
          have HF9 := Lib.hid (rzfault_any 1 true wr)
          clear T hap hbw ho hlt hj
          go_wp2_with fail
          with_reducible refine (HF9.out).mono ?_
          rintro e w9 ⟨rfl, hb9⟩
          have T9 := HT.out.up hb9
          have r0 : w9.cell? ⟨g + 1, 0, none⟩ = some (.int .i64 0) := cell_of_row _ (g + 1) 0 _ 23 _ T9.2.1
          have f0 : w9.frozen? ⟨g + 1, 0, none⟩ = false := frozen_of_row _ (g + 1) 0 _ 23 T9.2.1
          have r1 : w9.cell? ⟨g + 1, 1, none⟩ = some (.int .i64 0) := cell_of_row _ (g + 1) 1 _ 23 _ T9.2.1
          have f1 : w9.frozen? ⟨g + 1, 1, none⟩ = false := frozen_of_row _ (g + 1) 1 _ 23 T9.2.1
          have r2 : w9.cell? ⟨g + 1, 2, none⟩ = some (.int .i64 0) := cell_of_row _ (g + 1) 2 _ 23 _ T9.2.1
          have f2 : w9.frozen? ⟨g + 1, 2, none⟩ = false := frozen_of_row _ (g + 1) 2 _ 23 T9.2.1
          have r3 : w9.cell? ⟨g + 1, 3, none⟩ = some (.int .i64 0) := cell_of_row _ (g + 1) 3 _ 23 _ T9.2.1
          have f3 : w9.frozen? ⟨g + 1, 3, none⟩ = false := frozen_of_row _ (g + 1) 3 _ 23 T9.2.1
          have r4 : w9.cell? ⟨g + 1, 4, none⟩ = some (.int .i64 0) := cell_of_row _ (g + 1) 4 _ 23 _ T9.2.1
          have f4 : w9.frozen? ⟨g + 1, 4, none⟩ = false := frozen_of_row _ (g + 1) 4 _ 23 T9.2.1
          have r5 : w9.cell? ⟨g + 1, 5, none⟩ = some (.int .i64 0) := cell_of_row _ (g + 1) 5 _ 23 _ T9.2.1
          have f5 : w9.frozen? ⟨g + 1, 5, none⟩ = false := frozen_of_row _ (g + 1) 5 _ 23 T9.2.1
          have t0 : w9.cell? ⟨g + 1 + 1, 0, none⟩ = some (.bool false) := cell_of_row _ (g + 1 + 1) 0 _ 27 _ T9.2.2
          have u0 : w9.frozen? ⟨g + 1 + 1, 0, none⟩ = false := frozen_of_row _ (g + 1 + 1) 0 _ 27 T9.2.2
          have t1 : w9.cell? ⟨g + 1 + 1, 1, none⟩ = some (.bool false) := cell_of_row _ (g + 1 + 1) 1 _ 27 _ T9.2.2
          have u1 : w9.frozen? ⟨g + 1 + 1, 1, none⟩ = false := frozen_of_row _ (g + 1 + 1) 1 _ 27 T9.2.2
          have t2 : w9.cell? ⟨g + 1 + 1, 2, none⟩ = some (.int .i64 0) := cell_of_row _ (g + 1 + 1) 2 _ 27 _ T9.2.2
          have u2 : w9.frozen? ⟨g + 1 + 1, 2, none⟩ = false := frozen_of_row _ (g + 1 + 1) 2 _ 27 T9.2.2
          have hb2 := HB2.out.trans (hb9.mono HB2.out.size)
          have HN : Hid (APost w (apply s0 l) (.returned (.tuple #[.agg #[.int .i64 0, .int .i64 0, .int .i64 0, .int .i64 0, .int .i64 0, .int .i64 0], .agg #[.bool true, .bool true, .int .i64 1]])) (((((((((w9.setCell ⟨g + 1, 0, none⟩ (.int .i64 0)).setCell ⟨g + 1, 1, none⟩ (.int .i64 0)).setCell ⟨g + 1, 2, none⟩ (.int .i64 0)).setCell ⟨g + 1, 3, none⟩ (.int .i64 0)).setCell ⟨g + 1, 4, none⟩ (.int .i64 0)).setCell ⟨g + 1, 5, none⟩ (.int .i64 0)).setCell ⟨g + 1 + 1, 0, none⟩ (.bool true)).setCell ⟨g + 1 + 1, 1, none⟩ (.bool true)).setCell ⟨g + 1 + 1, 2, none⟩ (.int .i64 1))) := Lib.hid ⟨by rw [HA2.out]; rfl, (by
            have h1 : w.heap.size ≤ g + 1 := by have := HG.out; omega
            have h2 : w.heap.size ≤ g + 1 + 1 := by have := HG.out; omega
            repeat' (first | (with_reducible exact hb2) | (with_reducible refine Below.setCell ?_ ?_ _) | (with_reducible exact h1) | (with_reducible exact h2)))⟩
          clear T9 hb9 hb2
          go_wp2
          refine bodyPost_ret (v := .tuple #[.agg #[.int .i64 0, .int .i64 0, .int .i64 0, .int .i64 0, .int .i64 0, .int .i64 0], .agg #[.bool true, .bool true, .int .i64 1]]) (by simp [results, Try.results9, go_sem, r0, r1, r2, r3, r4, r5, t0, t1, t2]) rfl HN.out
        by_cases hv1 : 16777215 < v
        · have ho : one s (x, v) = (zeroSt, 1) := by simp [one, hx5, hv1]
          clear hx5 hm hx1 hx2 hx3 hx4
          have HA2 := Lib.hid (hap.trans (apply_no _ ho (by decide)))
          have HT := Lib.hid T
          have HB2 := Lib.hid hbw
          have HF9 := Lib.hid (rzfault_any 1 true wr)
          clear T hap hbw ho hlt hj
          go_wp2_with fail
          with_reducible refine (HF9.out).mono ?_
          rintro e w9 ⟨rfl, hb9⟩
          have T9 := HT.out.up hb9
          have r0 : w9.cell? ⟨g + 1, 0, none⟩ = some (.int .i64 0) := cell_of_row _ (g + 1) 0 _ 23 _ T9.2.1
          have f0 : w9.frozen? ⟨g + 1, 0, none⟩ = false := frozen_of_row _ (g + 1) 0 _ 23 T9.2.1
          have r1 : w9.cell? ⟨g + 1, 1, none⟩ = some (.int .i64 0) := cell_of_row _ (g + 1) 1 _ 23 _ T9.2.1
          have f1 : w9.frozen? ⟨g + 1, 1, none⟩ = false := frozen_of_row _ (g + 1) 1 _ 23 T9.2.1
          have r2 : w9.cell? ⟨g + 1, 2, none⟩ = some (.int .i64 0) := cell_of_row _ (g + 1) 2 _ 23 _ T9.2.1
          have f2 : w9.frozen? ⟨g + 1, 2, none⟩ = false := frozen_of_row _ (g + 1) 2 _ 23 T9.2.1
          have r3 : w9.cell? ⟨g + 1, 3, none⟩ = some (.int .i64 0) := cell_of_row _ (g + 1) 3 _ 23 _ T9.2.1
          have f3 : w9.frozen? ⟨g + 1, 3, none⟩ = false := frozen_of_row _ (g + 1) 3 _ 23 T9.2.1
          have r4 : w9.cell? ⟨g + 1, 4, none⟩ = some (.int .i64 0) := cell_of_row _ (g + 1) 4 _ 23 _ T9.2.1
          have f4 : w9.frozen? ⟨g + 1, 4, none⟩ = false := frozen_of_row _ (g + 1) 4 _ 23 T9.2.1
          have r5 : w9.cell? ⟨g + 1, 5, none⟩ = some (.int .i64 0) := cell_of_row _ (g + 1) 5 _ 23 _ T9.2.1
          have f5 : w9.frozen? ⟨g + 1, 5, none⟩ = false := frozen_of_row _ (g + 1) 5 _ 23 T9.2.1
          have t0 : w9.cell? ⟨g + 1 + 1, 0, none⟩ = some (.bool false) := cell_of_row _ (g + 1 + 1) 0 _ 27 _ T9.2.2
          have u0 : w9.frozen? ⟨g + 1 + 1, 0, none⟩ = false := frozen_of_row _ (g + 1 + 1) 0 _ 27 T9.2.2
          have t1 : w9.cell? ⟨g + 1 + 1, 1, none⟩ = some (.bool false) := cell_of_row _ (g + 1 + 1) 1 _ 27 _ T9.2.2
          have u1 : w9.frozen? ⟨g + 1 + 1, 1, none⟩ = false := frozen_of_row _ (g + 1 + 1) 1 _ 27 T9.2.2
          have t2 : w9.cell? ⟨g + 1 + 1, 2, none⟩ = some (.int .i64 0) := cell_of_row _ (g + 1 + 1) 2 _ 27 _ T9.2.2
          have u2 : w9.frozen? ⟨g + 1 + 1, 2, none⟩ = false := frozen_of_row _ (g + 1 + 1) 2 _ 27 T9.2.2
          have hb2 := HB2.out.trans (hb9.mono HB2.out.size)
          have HN : Hid (APost w (apply s0 l) (.returned (.tuple #[.agg #[.int .i64 0, .int .i64 0, .int .i64 0, .int .i64 0, .int .i64 0, .int .i64 0], .agg #[.bool true, .bool true, .int .i64 1]])) (((((((((w9.setCell ⟨g + 1, 0, none⟩ (.int .i64 0)).setCell ⟨g + 1, 1, none⟩ (.int .i64 0)).setCell ⟨g + 1, 2, none⟩ (.int .i64 0)).setCell ⟨g + 1, 3, none⟩ (.int .i64 0)).setCell ⟨g + 1, 4, none⟩ (.int .i64 0)).setCell ⟨g + 1, 5, none⟩ (.int .i64 0)).setCell ⟨g + 1 + 1, 0, none⟩ (.bool true)).setCell ⟨g + 1 + 1, 1, none⟩ (.bool true)).setCell ⟨g + 1 + 1, 2, none⟩ (.int .i64 1))) := Lib.hid ⟨by rw [HA2.out]; rfl, (by
            have h1 : w.heap.size ≤ g + 1 := by have := HG.out; omega
            have h2 : w.heap.size ≤ g + 1 + 1 := by have := HG.out; omega
            repeat' (first | (with_reducible exact hb2) | (with_reducible refine Below.setCell ?_ ?_ _) | (with_reducible exact h1) | (with_reducible exact h2)))⟩
          clear T9 hb9 hb2
          go_wp2
          refine bodyPost_ret (v := .tuple #[.agg #[.int .i64 0, .int .i64 0, .int .i64 0, .int .i64 0, .int .i64 0, .int .i64 0], .agg #[.bool true, .bool true, .int .i64 1]]) (by simp [results, Try.results9, go_sem, r0, r1, r2, r3, r4, r5, t0, t1, t2]) rfl HN.out
        have ho : one s (x, v) = ({ s with frame := v }, 0) := by simp [one, hx5]; omega
        clear hx5 hm hx1 hx2 hx3 hx4
        have HT := Lib.hid (show T3 (wr.setCell ⟨g, 4, none⟩ (.int .i64 v)) g (stc { s with frame := v }) from T.set 4 _)
        have HA2 := Lib.hid (hap.trans (apply_ok _ ho))
        have HB2 := Lib.hid (hbw.setCell (p := ⟨g, 4, none⟩) (show w.heap.size ≤ g by have := HG.out; omega) (.int .i64 v))
        have p4 : wr.cell? ⟨g, 4, none⟩ = some (.int .i64 s.frame) := cell_of_row _ g 4 _ 23 _ T.1
        have z4 : wr.frozen? ⟨g, 4, none⟩ = false := frozen_of_row _ g 4 _ 23 T.1
        clear T hap hbw ho hlt hj
        go_wp2
        go_roundw
        case rel => exact ⟨j + 1, _, by have := HJ.out; omega, by go_num, HT.out, HA2.out, HB2.out⟩
        case measure => simp [intOf]; have := HJ.out; omega
      by_cases hx6 : x = 6
      · have k1 : (x == 1) = false := by rw [beq_eq_false_iff_ne]; exact hx1
        have k2 : (x == 2) = false := by rw [beq_eq_false_iff_ne]; exact hx2
        have k3 : (x == 3) = false := by rw [beq_eq_false_iff_ne]; exact hx3
        have k4 : (x == 4) = false := by rw [beq_eq_false_iff_ne]; exact hx4
        have k5 : (x == 5) = false := by rw [beq_eq_false_iff_ne]; exact hx5
        have k6 : (x == 6) = true := by rw [hx6]; rfl
        have ho : one s (x, v) = ({ s with list := m }, 0) := by simp [one, hx6, hm]
        clear hx6 hm hx1 hx2 hx3 hx4 hx5
        have HT := Lib.hid (show T3 (wr.setCell ⟨g, 5, none⟩ (.int .i64 m)) g (stc { s with list := m }) from T.set 5 _)
        have HA2 := Lib.hid (hap.trans (apply_ok _ ho))
        have HB2 := Lib.hid (hbw.setCell (p := ⟨g, 5, none⟩) (show w.heap.size ≤ g by have := HG.out; omega) (.int .i64 m))
        have p5 : wr.cell? ⟨g, 5, none⟩ = some (.int .i64 s.list) := cell_of_row _ g 5 _ 23 _ T.1
        have z5 : wr.frozen? ⟨g, 5, none⟩ = false := frozen_of_row _ g 5 _ 23 T.1
        clear T hap hbw ho hlt hj
        go_wp2
        go_roundw
        case rel => exact ⟨j + 1, _, by have := HJ.out; omega, by go_num, HT.out, HA2.out, HB2.out⟩
        case measure => simp [intOf]; have := HJ.out; omega
      have k1 : (x == 1) = false := by rw [beq_eq_false_iff_ne]; exact hx1
      have k2 : (x == 2) = false := by rw [beq_eq_false_iff_ne]; exact hx2
      have k3 : (x == 3) = false := by rw [beq_eq_false_iff_ne]; exact hx3
      have k4 : (x == 4) = false := by rw [beq_eq_false_iff_ne]; exact hx4
      have k5 : (x == 5) = false := by rw [beq_eq_false_iff_ne]; exact hx5
      have k6 : (x == 6) = false := by rw [beq_eq_false_iff_ne]; exact hx6
      have ho : one s (x, v) = (s, 0) := by simp [one, hx1, hx2, hx3, hx4, hx5, hx6]
      clear hx1 hx2 hx3 hx4 hx5 hx6 hm
      have HT := Lib.hid T
      have HA2 := Lib.hid (hap.trans (apply_ok _ ho))
      have HB2 := Lib.hid hbw
      clear T hap hbw ho hlt hj
      go_wp2
      go_roundw
      case rel => exact ⟨j + 1, _, by have := HJ.out; omega, by go_num, HT.out, HA2.out, HB2.out⟩
      case measure => simp [intOf]; have := HJ.out; omega
    · obtain rfl : j = n := by omega
      have e : l.drop j = [] := List.drop_of_length_le (by have := HL.out; omega)
      rw [e] at hap
      have ki : ¬ (j : Int) < (j : Int) := by omega
      have p0 : wr.cell? ⟨g, 0, none⟩ = some (.int .i64 s.table) := cell_of_row _ g 0 _ 23 _ T.1
      have z0 : wr.frozen? ⟨g, 0, none⟩ = false := frozen_of_row _ g 0 _ 23 T.1
      have p1 : wr.cell? ⟨g, 1, none⟩ = some (.int .i64 s.push) := cell_of_row _ g 1 _ 23 _ T.1
      have z1 : wr.frozen? ⟨g, 1, none⟩ = false := frozen_of_row _ g 1 _ 23 T.1
      have p2 : wr.cell? ⟨g, 2, none⟩ = some (.int .i64 s.streams) := cell_of_row _ g 2 _ 23 _ T.1
      have z2 : wr.frozen? ⟨g, 2, none⟩ = false := frozen_of_row _ g 2 _ 23 T.1
      have p3 : wr.cell? ⟨g, 3, none⟩ = some (.int .i64 s.window) := cell_of_row _ g 3 _ 23 _ T.1
      have z3 : wr.frozen? ⟨g, 3, none⟩ = false := frozen_of_row _ g 3 _ 23 T.1
      have p4 : wr.cell? ⟨g, 4, none⟩ = some (.int .i64 s.frame) := cell_of_row _ g 4 _ 23 _ T.1
      have z4 : wr.frozen? ⟨g, 4, none⟩ = false := frozen_of_row _ g 4 _ 23 T.1
      have p5 : wr.cell? ⟨g, 5, none⟩ = some (.int .i64 s.list) := cell_of_row _ g 5 _ 23 _ T.1
      have z5 : wr.frozen? ⟨g, 5, none⟩ = false := frozen_of_row _ g 5 _ 23 T.1
      have r0 : wr.cell? ⟨g + 1, 0, none⟩ = some (.int .i64 0) := cell_of_row _ (g + 1) 0 _ 23 _ T.2.1
      have f0 : wr.frozen? ⟨g + 1, 0, none⟩ = false := frozen_of_row _ (g + 1) 0 _ 23 T.2.1
      have r1 : wr.cell? ⟨g + 1, 1, none⟩ = some (.int .i64 0) := cell_of_row _ (g + 1) 1 _ 23 _ T.2.1
      have f1 : wr.frozen? ⟨g + 1, 1, none⟩ = false := frozen_of_row _ (g + 1) 1 _ 23 T.2.1
      have r2 : wr.cell? ⟨g + 1, 2, none⟩ = some (.int .i64 0) := cell_of_row _ (g + 1) 2 _ 23 _ T.2.1
      have f2 : wr.frozen? ⟨g + 1, 2, none⟩ = false := frozen_of_row _ (g + 1) 2 _ 23 T.2.1
      have r3 : wr.cell? ⟨g + 1, 3, none⟩ = some (.int .i64 0) := cell_of_row _ (g + 1) 3 _ 23 _ T.2.1
      have f3 : wr.frozen? ⟨g + 1, 3, none⟩ = false := frozen_of_row _ (g + 1) 3 _ 23 T.2.1
      have r4 : wr.cell? ⟨g + 1, 4, none⟩ = some (.int .i64 0) := cell_of_row _ (g + 1) 4 _ 23 _ T.2.1
      have f4 : wr.frozen? ⟨g + 1, 4, none⟩ = false := frozen_of_row _ (g + 1) 4 _ 23 T.2.1
      have r5 : wr.cell? ⟨g + 1, 5, none⟩ = some (.int .i64 0) := cell_of_row _ (g + 1) 5 _ 23 _ T.2.1
      have f5 : wr.frozen? ⟨g + 1, 5, none⟩ = false := frozen_of_row _ (g + 1) 5 _ 23 T.2.1
      have t0 : wr.cell? ⟨g + 1 + 1, 0, none⟩ = some (.bool false) := cell_of_row _ (g + 1 + 1) 0 _ 27 _ T.2.2
      have u0 : wr.frozen? ⟨g + 1 + 1, 0, none⟩ = false := frozen_of_row _ (g + 1 + 1) 0 _ 27 T.2.2
      have t1 : wr.cell? ⟨g + 1 + 1, 1, none⟩ = some (.bool false) := cell_of_row _ (g + 1 + 1) 1 _ 27 _ T.2.2
      have u1 : wr.frozen? ⟨g + 1 + 1, 1, none⟩ = false := frozen_of_row _ (g + 1 + 1) 1 _ 27 T.2.2
      have t2 : wr.cell? ⟨g + 1 + 1, 2, none⟩ = some (.int .i64 0) := cell_of_row _ (g + 1 + 1) 2 _ 27 _ T.2.2
      have u2 : wr.frozen? ⟨g + 1 + 1, 2, none⟩ = false := frozen_of_row _ (g + 1 + 1) 2 _ 27 T.2.2
      have HN : Hid (APost w (apply s0 l) (.returned (.tuple #[.agg #[.int .i64 s.table, .int .i64 s.push, .int .i64 s.streams, .int .i64 s.window, .int .i64 s.frame, .int .i64 s.list], .agg #[.bool false, .bool false, .int .i64 0]])) (((((((((wr.setCell ⟨g + 1, 0, none⟩ (.int .i64 s.table)).setCell ⟨g + 1, 1, none⟩ (.int .i64 s.push)).setCell ⟨g + 1, 2, none⟩ (.int .i64 s.streams)).setCell ⟨g + 1, 3, none⟩ (.int .i64 s.window)).setCell ⟨g + 1, 4, none⟩ (.int .i64 s.frame)).setCell ⟨g + 1, 5, none⟩ (.int .i64 s.list)).setCell ⟨g + 1 + 1, 0, none⟩ (.bool false)).setCell ⟨g + 1 + 1, 1, none⟩ (.bool false)).setCell ⟨g + 1 + 1, 2, none⟩ (.int .i64 0))) := Lib.hid ⟨by rw [hap]; rfl, (by
        have h1 : w.heap.size ≤ g + 1 := by have := HG.out; omega
        have h2 : w.heap.size ≤ g + 1 + 1 := by have := HG.out; omega
        repeat' (first | (with_reducible exact hbw) | (with_reducible refine Below.setCell ?_ ?_ _) | (with_reducible exact h1) | (with_reducible exact h2)))⟩
      clear T hap hbw hlt hj e
      go_wp2
      refine bodyPost_ret (v := .tuple #[.agg #[.int .i64 s.table, .int .i64 s.push, .int .i64 s.streams, .int .i64 s.window, .int .i64 s.frame, .int .i64 s.list], .agg #[.bool false, .bool false, .int .i64 0]]) (by simp [results, Try.results9, go_sem, r0, r1, r2, r3, r4, r5, t0, t1, t2]) rfl HN.out
end Go.Proofs.Ytkjdjicchmfljaa
