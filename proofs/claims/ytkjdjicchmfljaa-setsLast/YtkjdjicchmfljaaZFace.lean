/- Apply over the landed code. -/
import Derived.Test.YtkjdjicchmfljaaZFaceA
namespace Go.Proofs.Ytkjdjicchmfljaa
open Go.RowKit Zs

set_option maxRecDepth 100000 in
set_option maxHeartbeats 4000000 in
theorem zapply_f (s0 : St) (A : Option Addr) (l : List (Int × Int)) (n c : Nat) (w : World) (hA : AtS w w.heap.size A l) (hl : l.length = n) (hn : n ≤ 1000) : Calls Try.prog 8 #[stv s0, .slice A n c] w (APost w (apply s0 l)) := by
  unfold stv
  obtain ⟨T0, hb1⟩ := t3_of w (stc s0)
  obtain ⟨g, hg⟩ : ∃ g, g = w.heap.size := ⟨_, rfl⟩
  obtain ⟨w1, hw1⟩ : ∃ x, x = (((w.alloc (.cells #[.int .i64 s0.table, .int .i64 s0.push, .int .i64 s0.streams, .int .i64 s0.window, .int .i64 s0.frame, .int .i64 s0.list] 23)).alloc (.cells #[.int .i64 0, .int .i64 0, .int .i64 0, .int .i64 0, .int .i64 0, .int .i64 0] 23)).alloc (.cells #[.bool false, .bool false, .int .i64 0] 27)) := ⟨_, rfl⟩
  simp only [stc] at T0 hb1
  rw [← hw1, ← hg] at T0
  rw [← hw1] at hb1
  have HA := Lib.hid hA
  have HL := Lib.hid hl
  have HNN := Lib.hid hn
  have HG := Lib.hid hg
  have HW := Lib.hid hw1
  have HST : Hid (ZR w g n s0 l (.int .i64 0) w1) := Lib.hid ⟨0, s0, Nat.zero_le _, rfl, T0, by rw [List.drop_zero], hb1⟩
  clear hA hl hn hg hw1 T0 hb1
  go_enter Try.func8, Try.ntmps8
  go_upto_region 1 with fail
  rw [← HW.out, ← HG.out]
  go_wp2
  go_loopw [11] (fun i wr => ZR w g n s0 l i wr) (fun i _ => n - (intOf i).toNat)
  case atStart => exact HST.out
  case round =>
    obtain ⟨j, s, hj, rfl, T, hap, hbw⟩ := hrel
    obtain ⟨wo, hwo⟩ : ∃ z, z = wr := ⟨_, rfl⟩
    subst hwo
    by_cases hlt : j < n
    · have hjl : j < l.length := by have := HL.out; omega
      obtain ⟨b, o, rfl, hbB, hcs⟩ := HA.out.pos (by omega)
      obtain ⟨⟨x, v⟩, hxv⟩ : ∃ f, f = l[j] := ⟨_, rfl⟩
      obtain ⟨c0, c1⟩ := hcs j hjl
      rw [← hxv] at c0 c1
      simp only [] at c0 c1
      have d0 : wo.cell? ⟨b, o + j * 2, none⟩ = some (.int .i64 x) := (hbw.cell (p := ⟨b, o + j * 2, none⟩) hbB).trans c0
      have d1 : wo.cell? ⟨b, o + j * 2 + 1, none⟩ = some (.int .i64 v) := (hbw.cell (p := ⟨b, o + j * 2 + 1, none⟩) hbB).trans c1
      rw [drop_next hjl, ← hxv] at hap
      have ki : (j : Int) < (n : Int) := by omega
      have HJ : Hid (j < n) := Lib.hid hlt
      have wj : IntKind.i64.wrap ((j : Int) + 1) = (j : Int) + 1 := IntWalk.i64_in _ (by have := HNN.out; omega)
      obtain ⟨hk2, hb2⟩ := box2 wo x v
      obtain ⟨w2, hw2⟩ : ∃ z, z = wo.alloc (.cells #[.int .i64 x, .int .i64 v] 33) := ⟨_, rfl⟩
      rw [← hw2] at hk2 hb2
      have T2 := T.up hb2
      have hbw2 : Below w.heap.size w w2 := hbw.trans (hb2.mono hbw.size)
      obtain ⟨h, hh⟩ : ∃ h, h = wo.heap.size := ⟨_, rfl⟩
      have e0 : w2.cell? ⟨h, 0, none⟩ = some (.int .i64 x) := by rw [hh]; exact cell_of_row _ wo.heap.size 0 _ 33 _ hk2
      have e1 : w2.cell? ⟨h, 1, none⟩ = some (.int .i64 v) := by rw [hh]; exact cell_of_row _ wo.heap.size 1 _ 33 _ hk2
      have hh2 : h < w2.heap.size := by rw [hh]; exact lt_of_heapZ hk2
      have HH := Lib.hid hh
      have HW2 := Lib.hid hw2
      have HE := Lib.hid (And.intro hh2 (And.intro e0 e1))
      have HT2 := Lib.hid T2
      have HBW2 := Lib.hid hbw2
      have HAP := Lib.hid hap
      clear hcs c0 c1 hxv hjl T hap hbw hlt hj hk2 hb2 hw2 T2 hbw2 hh hh2 e0 e1
      go_upto_region 4 with fail
      rw [← HW2.out, ← HH.out]
      obtain ⟨he, e0, e1⟩ := HE.out
      clear d0 d1
      go_wp2_with fail
      with_reducible refine (wrong_f x v w2).mono ?_
      rintro e w9 ⟨rfl, hb9⟩
      have y0 : w9.cell? ⟨h, 0, none⟩ = some (.int .i64 x) := (hb9.cell (p := ⟨h, 0, none⟩) he).trans e0
      have y1 : w9.cell? ⟨h, 1, none⟩ = some (.int .i64 v) := (hb9.cell (p := ⟨h, 1, none⟩) he).trans e1
      have T9 := HT2.out.up hb9
      have hbw9 := HBW2.out.trans (hb9.mono HBW2.out.size)
      have HBW9 := Lib.hid hbw9
      have HT9 := Lib.hid T9
      clear hb9 e0 e1 he hbw9
      by_cases hq0 : wrg x v = 0
      · have ho := one_wth s x v hq0
        rw [hq0]
        obtain ⟨s2, hs2⟩ : ∃ z, z = wth s x v := ⟨_, rfl⟩
        rw [← hs2] at ho
        have HA2 := Lib.hid (HAP.out.trans (apply_ok _ ho))
        have HFW : Hid (Calls Try.prog 13 #[.agg #[.int .i64 s.table, .int .i64 s.push, .int .i64 s.streams, .int .i64 s.window, .int .i64 s.frame, .int .i64 s.list], .agg #[.int .i64 x, .int .i64 v]] w9 fun e w' => e = .returned (.agg #[.int .i64 s2.table, .int .i64 s2.push, .int .i64 s2.streams, .int .i64 s2.window, .int .i64 s2.frame, .int .i64 s2.list]) ∧ Below w9.heap.size w9 w') := Lib.hid (by rw [hs2]; exact with_f s x v w9)
        have p0 : w9.cell? ⟨g, 0, none⟩ = some (.int .i64 s.table) := cell_of_row _ g 0 _ 23 _ T9.1
        have z0 : w9.frozen? ⟨g, 0, none⟩ = false := frozen_of_row _ g 0 _ 23 T9.1
        have p1 : w9.cell? ⟨g, 1, none⟩ = some (.int .i64 s.push) := cell_of_row _ g 1 _ 23 _ T9.1
        have z1 : w9.frozen? ⟨g, 1, none⟩ = false := frozen_of_row _ g 1 _ 23 T9.1
        have p2 : w9.cell? ⟨g, 2, none⟩ = some (.int .i64 s.streams) := cell_of_row _ g 2 _ 23 _ T9.1
        have z2 : w9.frozen? ⟨g, 2, none⟩ = false := frozen_of_row _ g 2 _ 23 T9.1
        have p3 : w9.cell? ⟨g, 3, none⟩ = some (.int .i64 s.window) := cell_of_row _ g 3 _ 23 _ T9.1
        have z3 : w9.frozen? ⟨g, 3, none⟩ = false := frozen_of_row _ g 3 _ 23 T9.1
        have p4 : w9.cell? ⟨g, 4, none⟩ = some (.int .i64 s.frame) := cell_of_row _ g 4 _ 23 _ T9.1
        have z4 : w9.frozen? ⟨g, 4, none⟩ = false := frozen_of_row _ g 4 _ 23 T9.1
        have p5 : w9.cell? ⟨g, 5, none⟩ = some (.int .i64 s.list) := cell_of_row _ g 5 _ 23 _ T9.1
        have z5 : w9.frozen? ⟨g, 5, none⟩ = false := frozen_of_row _ g 5 _ 23 T9.1
        clear ho hs2 hq0 T9
        go_wp2_with fail
        with_reducible refine (HFW.out).mono ?_
        rintro e w10 ⟨rfl, hb10⟩
        have T10 := HT9.out.up hb10
        have hbw10 := HBW9.out.trans (hb10.mono HBW9.out.size)
        clear p0 z0 p1 z1 p2 z2 p3 z3 p4 z4 p5 z5 y0 y1
        have p0 : w10.cell? ⟨g, 0, none⟩ = some (.int .i64 s.table) := cell_of_row _ g 0 _ 23 _ T10.1
        have z0 : w10.frozen? ⟨g, 0, none⟩ = false := frozen_of_row _ g 0 _ 23 T10.1
        have p1 : w10.cell? ⟨g, 1, none⟩ = some (.int .i64 s.push) := cell_of_row _ g 1 _ 23 _ T10.1
        have z1 : w10.frozen? ⟨g, 1, none⟩ = false := frozen_of_row _ g 1 _ 23 T10.1
        have p2 : w10.cell? ⟨g, 2, none⟩ = some (.int .i64 s.streams) := cell_of_row _ g 2 _ 23 _ T10.1
        have z2 : w10.frozen? ⟨g, 2, none⟩ = false := frozen_of_row _ g 2 _ 23 T10.1
        have p3 : w10.cell? ⟨g, 3, none⟩ = some (.int .i64 s.window) := cell_of_row _ g 3 _ 23 _ T10.1
        have z3 : w10.frozen? ⟨g, 3, none⟩ = false := frozen_of_row _ g 3 _ 23 T10.1
        have p4 : w10.cell? ⟨g, 4, none⟩ = some (.int .i64 s.frame) := cell_of_row _ g 4 _ 23 _ T10.1
        have z4 : w10.frozen? ⟨g, 4, none⟩ = false := frozen_of_row _ g 4 _ 23 T10.1
        have p5 : w10.cell? ⟨g, 5, none⟩ = some (.int .i64 s.list) := cell_of_row _ g 5 _ 23 _ T10.1
        have z5 : w10.frozen? ⟨g, 5, none⟩ = false := frozen_of_row _ g 5 _ 23 T10.1
        have HT11 : Hid (T3 ((((((w10.setCell ⟨g, 0, none⟩ (.int .i64 s2.table)).setCell ⟨g, 1, none⟩ (.int .i64 s2.push)).setCell ⟨g, 2, none⟩ (.int .i64 s2.streams)).setCell ⟨g, 3, none⟩ (.int .i64 s2.window)).setCell ⟨g, 4, none⟩ (.int .i64 s2.frame)).setCell ⟨g, 5, none⟩ (.int .i64 s2.list)) g (stc s2)) := Lib.hid (by simpa [stc] using (((((T10.set 0 (.int .i64 s2.table)).set 1 (.int .i64 s2.push)).set 2 (.int .i64 s2.streams)).set 3 (.int .i64 s2.window)).set 4 (.int .i64 s2.frame)).set 5 (.int .i64 s2.list))
        have HB11 : Hid (Below w.heap.size w ((((((w10.setCell ⟨g, 0, none⟩ (.int .i64 s2.table)).setCell ⟨g, 1, none⟩ (.int .i64 s2.push)).setCell ⟨g, 2, none⟩ (.int .i64 s2.streams)).setCell ⟨g, 3, none⟩ (.int .i64 s2.window)).setCell ⟨g, 4, none⟩ (.int .i64 s2.frame)).setCell ⟨g, 5, none⟩ (.int .i64 s2.list))) := Lib.hid (by
          have h1 : w.heap.size ≤ g := by have := HG.out; omega
          repeat' (first | (with_reducible exact hbw10) | (with_reducible refine Below.setCell ?_ ?_ _) | (with_reducible exact h1)))
        clear T10 hb10 hbw10
        go_wp2
        go_roundw
        case rel => exact ⟨j + 1, s2, by have := HJ.out; omega, by go_num, HT11.out, HA2.out, HB11.out⟩
        case measure => simp [intOf]; have := HJ.out; omega
      · have ho := one_wrg s x v hq0
        obtain ⟨q, hq⟩ : ∃ q, q = wrg x v := ⟨_, rfl⟩
        rw [← hq] at ho hq0 ⊢
        have n0 : ((q : Int) != 0) = true := by rw [bne_iff_ne]; omega
        have u0' : ¬ (q : Int) = 0 := by omega
        have HA2 := Lib.hid (HAP.out.trans (apply_no _ ho hq0))
        have r0 : w9.cell? ⟨g + 1, 0, none⟩ = some (.int .i64 0) := cell_of_row _ (g + 1) 0 _ 23 _ T9.2.1
        have f0 : w9.frozen? ⟨g + 1, 0, none⟩ = false := frozen_of_row _ (g + 1) 0 _ 23 T9.2.1
        have r1 : w9.cell? ⟨g + 1, 1, none⟩ = some (.int .i64 0) := cell_of_row _ (g + 1) 1 _ 23 _ T9.2.1
        have f1 : w9.frozen? ⟨g + 1, 1, none⟩ = false := frozen_of_row _ (g + 1) 1 _ 23 T9.2.1
        have r2 : w9.cell? ⟨g + 1, 2, none⟩ = some (.int .i64 0) := cell_of_row _ (g + 1) 2 _ 23 _ T9.2.1
        have f2 : w9.frozen? ⟨g + 1, 2, none⟩ = false := frozen_of_row _ (g + 1) 2 _ 23 T9.2.1
        have r3 : w9.cell? ⟨g + 1, 3, none⟩ = some (.int .i64 0) := cell_of_row _ (g + 1) 3 _ 23 _ T9.2.1
        have f3 : w9.frozen? ⟨g + 1, 3, none⟩ = false := frozen_of_row _ (g + 1) 3 _ 23 T9.2.1
        have r4 : w9.cell? ⟨g + 1, 4, none⟩ = some (.int .i64 0) := cell_of_row _ (g + 1) 4 _ 23 _ T9.2.1
        have f4 : w9.frozen? ⟨g + 1, 4, none⟩ = false := frozen_of_row _ (g + 1) 4 _ 23 T9.2.1
        have r5 : w9.cell? ⟨g + 1, 5, none⟩ = some (.int .i64 0) := cell_of_row _ (g + 1) 5 _ 23 _ T9.2.1
        have f5 : w9.frozen? ⟨g + 1, 5, none⟩ = false := frozen_of_row _ (g + 1) 5 _ 23 T9.2.1
        have t0 : w9.cell? ⟨g + 1 + 1, 0, none⟩ = some (.bool false) := cell_of_row _ (g + 1 + 1) 0 _ 27 _ T9.2.2
        have u0 : w9.frozen? ⟨g + 1 + 1, 0, none⟩ = false := frozen_of_row _ (g + 1 + 1) 0 _ 27 T9.2.2
        have t1 : w9.cell? ⟨g + 1 + 1, 1, none⟩ = some (.bool false) := cell_of_row _ (g + 1 + 1) 1 _ 27 _ T9.2.2
        have u1 : w9.frozen? ⟨g + 1 + 1, 1, none⟩ = false := frozen_of_row _ (g + 1 + 1) 1 _ 27 T9.2.2
        have t2 : w9.cell? ⟨g + 1 + 1, 2, none⟩ = some (.int .i64 0) := cell_of_row _ (g + 1 + 1) 2 _ 27 _ T9.2.2
        have u2 : w9.frozen? ⟨g + 1 + 1, 2, none⟩ = false := frozen_of_row _ (g + 1 + 1) 2 _ 27 T9.2.2
        have hb2 := HBW9.out
        have HN : Hid (APost w (apply s0 l) (.returned (.tuple #[.agg #[.int .i64 0, .int .i64 0, .int .i64 0, .int .i64 0, .int .i64 0, .int .i64 0], .agg #[.bool true, .bool true, .int .i64 (q : Int)]])) (((((((((w9.setCell ⟨g + 1, 0, none⟩ (.int .i64 0)).setCell ⟨g + 1, 1, none⟩ (.int .i64 0)).setCell ⟨g + 1, 2, none⟩ (.int .i64 0)).setCell ⟨g + 1, 3, none⟩ (.int .i64 0)).setCell ⟨g + 1, 4, none⟩ (.int .i64 0)).setCell ⟨g + 1, 5, none⟩ (.int .i64 0)).setCell ⟨g + 1 + 1, 0, none⟩ (.bool true)).setCell ⟨g + 1 + 1, 1, none⟩ (.bool true)).setCell ⟨g + 1 + 1, 2, none⟩ (.int .i64 (q : Int)))) := Lib.hid ⟨by rw [HA2.out]; rfl, (by
          have h1 : w.heap.size ≤ g + 1 := by have := HG.out; omega
          have h2 : w.heap.size ≤ g + 1 + 1 := by have := HG.out; omega
          repeat' (first | (with_reducible exact hb2) | (with_reducible refine Below.setCell ?_ ?_ _) | (with_reducible exact h1) | (with_reducible exact h2)))⟩
        clear ho hq hq0 T9 hb2 y0 y1
        go_wp2
        refine bodyPost_ret (v := .tuple #[.agg #[.int .i64 0, .int .i64 0, .int .i64 0, .int .i64 0, .int .i64 0, .int .i64 0], .agg #[.bool true, .bool true, .int .i64 (q : Int)]]) (by simp [results, Try.results8, go_sem, r0, r1, r2, r3, r4, r5, t0, t1, t2]) rfl HN.out
    · obtain rfl : j = n := by omega
      have e : l.drop j = [] := List.drop_of_length_le (by have := HL.out; omega)
      rw [e] at hap
      have ki : ¬ (j : Int) < (j : Int) := by omega
      have p0 : wo.cell? ⟨g, 0, none⟩ = some (.int .i64 s.table) := cell_of_row _ g 0 _ 23 _ T.1
      have z0 : wo.frozen? ⟨g, 0, none⟩ = false := frozen_of_row _ g 0 _ 23 T.1
      have p1 : wo.cell? ⟨g, 1, none⟩ = some (.int .i64 s.push) := cell_of_row _ g 1 _ 23 _ T.1
      have z1 : wo.frozen? ⟨g, 1, none⟩ = false := frozen_of_row _ g 1 _ 23 T.1
      have p2 : wo.cell? ⟨g, 2, none⟩ = some (.int .i64 s.streams) := cell_of_row _ g 2 _ 23 _ T.1
      have z2 : wo.frozen? ⟨g, 2, none⟩ = false := frozen_of_row _ g 2 _ 23 T.1
      have p3 : wo.cell? ⟨g, 3, none⟩ = some (.int .i64 s.window) := cell_of_row _ g 3 _ 23 _ T.1
      have z3 : wo.frozen? ⟨g, 3, none⟩ = false := frozen_of_row _ g 3 _ 23 T.1
      have p4 : wo.cell? ⟨g, 4, none⟩ = some (.int .i64 s.frame) := cell_of_row _ g 4 _ 23 _ T.1
      have z4 : wo.frozen? ⟨g, 4, none⟩ = false := frozen_of_row _ g 4 _ 23 T.1
      have p5 : wo.cell? ⟨g, 5, none⟩ = some (.int .i64 s.list) := cell_of_row _ g 5 _ 23 _ T.1
      have z5 : wo.frozen? ⟨g, 5, none⟩ = false := frozen_of_row _ g 5 _ 23 T.1
      have r0 : wo.cell? ⟨g + 1, 0, none⟩ = some (.int .i64 0) := cell_of_row _ (g + 1) 0 _ 23 _ T.2.1
      have f0 : wo.frozen? ⟨g + 1, 0, none⟩ = false := frozen_of_row _ (g + 1) 0 _ 23 T.2.1
      have r1 : wo.cell? ⟨g + 1, 1, none⟩ = some (.int .i64 0) := cell_of_row _ (g + 1) 1 _ 23 _ T.2.1
      have f1 : wo.frozen? ⟨g + 1, 1, none⟩ = false := frozen_of_row _ (g + 1) 1 _ 23 T.2.1
      have r2 : wo.cell? ⟨g + 1, 2, none⟩ = some (.int .i64 0) := cell_of_row _ (g + 1) 2 _ 23 _ T.2.1
      have f2 : wo.frozen? ⟨g + 1, 2, none⟩ = false := frozen_of_row _ (g + 1) 2 _ 23 T.2.1
      have r3 : wo.cell? ⟨g + 1, 3, none⟩ = some (.int .i64 0) := cell_of_row _ (g + 1) 3 _ 23 _ T.2.1
      have f3 : wo.frozen? ⟨g + 1, 3, none⟩ = false := frozen_of_row _ (g + 1) 3 _ 23 T.2.1
      have r4 : wo.cell? ⟨g + 1, 4, none⟩ = some (.int .i64 0) := cell_of_row _ (g + 1) 4 _ 23 _ T.2.1
      have f4 : wo.frozen? ⟨g + 1, 4, none⟩ = false := frozen_of_row _ (g + 1) 4 _ 23 T.2.1
      have r5 : wo.cell? ⟨g + 1, 5, none⟩ = some (.int .i64 0) := cell_of_row _ (g + 1) 5 _ 23 _ T.2.1
      have f5 : wo.frozen? ⟨g + 1, 5, none⟩ = false := frozen_of_row _ (g + 1) 5 _ 23 T.2.1
      have t0 : wo.cell? ⟨g + 1 + 1, 0, none⟩ = some (.bool false) := cell_of_row _ (g + 1 + 1) 0 _ 27 _ T.2.2
      have u0 : wo.frozen? ⟨g + 1 + 1, 0, none⟩ = false := frozen_of_row _ (g + 1 + 1) 0 _ 27 T.2.2
      have t1 : wo.cell? ⟨g + 1 + 1, 1, none⟩ = some (.bool false) := cell_of_row _ (g + 1 + 1) 1 _ 27 _ T.2.2
      have u1 : wo.frozen? ⟨g + 1 + 1, 1, none⟩ = false := frozen_of_row _ (g + 1 + 1) 1 _ 27 T.2.2
      have t2 : wo.cell? ⟨g + 1 + 1, 2, none⟩ = some (.int .i64 0) := cell_of_row _ (g + 1 + 1) 2 _ 27 _ T.2.2
      have u2 : wo.frozen? ⟨g + 1 + 1, 2, none⟩ = false := frozen_of_row _ (g + 1 + 1) 2 _ 27 T.2.2
      have HN : Hid (APost w (apply s0 l) (.returned (.tuple #[.agg #[.int .i64 s.table, .int .i64 s.push, .int .i64 s.streams, .int .i64 s.window, .int .i64 s.frame, .int .i64 s.list], .agg #[.bool false, .bool false, .int .i64 0]])) (((((((((wo.setCell ⟨g + 1, 0, none⟩ (.int .i64 s.table)).setCell ⟨g + 1, 1, none⟩ (.int .i64 s.push)).setCell ⟨g + 1, 2, none⟩ (.int .i64 s.streams)).setCell ⟨g + 1, 3, none⟩ (.int .i64 s.window)).setCell ⟨g + 1, 4, none⟩ (.int .i64 s.frame)).setCell ⟨g + 1, 5, none⟩ (.int .i64 s.list)).setCell ⟨g + 1 + 1, 0, none⟩ (.bool false)).setCell ⟨g + 1 + 1, 1, none⟩ (.bool false)).setCell ⟨g + 1 + 1, 2, none⟩ (.int .i64 0))) := Lib.hid ⟨by rw [hap]; rfl, (by
        have h1 : w.heap.size ≤ g + 1 := by have := HG.out; omega
        have h2 : w.heap.size ≤ g + 1 + 1 := by have := HG.out; omega
        repeat' (first | (with_reducible exact hbw) | (with_reducible refine Below.setCell ?_ ?_ _) | (with_reducible exact h1) | (with_reducible exact h2)))⟩
      clear T hap hbw hlt hj e
      go_wp2
      refine bodyPost_ret (v := .tuple #[.agg #[.int .i64 s.table, .int .i64 s.push, .int .i64 s.streams, .int .i64 s.window, .int .i64 s.frame, .int .i64 s.list], .agg #[.bool false, .bool false, .int .i64 0]]) (by simp [results, Try.results8, go_sem, r0, r1, r2, r3, r4, r5, t0, t1, t2]) rfl HN.out
end Go.Proofs.Ytkjdjicchmfljaa
