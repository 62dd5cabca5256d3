/- The walk of SetsTells. -/
import Derived.Test.YtkjdjicchmfljaaZFew
import Derived.Test.YtkjdjicchmfljaaZRef
namespace Go.Proofs.Ytkjdjicchmfljaa
open Go.RowKit Zs
namespace setsTells
theorem rzfirst_is (w : World) : Calls Try.prog 11 #[] w fun e w' => e = .returned (.agg #[.int .i64 4096, .int .i64 1, .int .i64 2147483647, .int .i64 65535, .int .i64 16384, .int .i64 2147483647]) ∧ Below w.heap.size w w' := rzfirst_any w
set_option maxRecDepth 100000 in
set_option maxHeartbeats 4000000 in
theorem walk_out (s : St) (A : Option Addr) (n c : Nat) (w : World) (h : 300 < n) : Calls Try.prog 3 #[stv s, .slice A n c] w (YesZ w) := by
  have HFST := Lib.hid fun (W : World) => first13_any W
  have k0 : (300 : Int) < (n : Int) := by omega
  clear h
  unfold stv
  obtain ⟨w0, hw0⟩ : ∃ x, x = w.alloc (.cells #[.int .i64 s.table, .int .i64 s.push, .int .i64 s.streams, .int .i64 s.window, .int .i64 s.frame, .int .i64 s.list] 23) := ⟨_, rfl⟩
  have hr0 : w0.heap[w.heap.size]? = some (.cells #[.int .i64 s.table, .int .i64 s.push, .int .i64 s.streams, .int .i64 s.window, .int .i64 s.frame, .int .i64 s.list] 23 (0, 0)) := by rw [hw0]; exact heap_alloc_new w _
  have hb0 : Below w.heap.size w w0 := by rw [hw0]; exact (Below.refl _ _).alloc (Nat.le_refl _) _
  obtain ⟨q, hq⟩ : ∃ g, g = w.heap.size := ⟨_, rfl⟩
  have HQ := Lib.hid hq
  rw [← hq] at hr0
  have HX : Hid (∀ W, Below w0.heap.size w0 W → W.cell? ⟨q, 0, none⟩ = some (.int .i64 s.table) ∧ W.cell? ⟨q, 1, none⟩ = some (.int .i64 s.push) ∧ W.cell? ⟨q, 2, none⟩ = some (.int .i64 s.streams) ∧ W.cell? ⟨q, 3, none⟩ = some (.int .i64 s.window) ∧ W.cell? ⟨q, 4, none⟩ = some (.int .i64 s.frame) ∧ W.cell? ⟨q, 5, none⟩ = some (.int .i64 s.list)) := Lib.hid (fun W h => by
    have h2 := (h.block q (lt_of_heapZ hr0)).trans hr0
    exact ⟨cell_of_row _ q 0 _ 23 _ h2, cell_of_row _ q 1 _ 23 _ h2, cell_of_row _ q 2 _ 23 _ h2, cell_of_row _ q 3 _ 23 _ h2, cell_of_row _ q 4 _ 23 _ h2, cell_of_row _ q 5 _ 23 _ h2⟩)
  have HB0 := Lib.hid hb0
  have HW0 := Lib.hid hw0
  clear hw0 hr0 hb0 hq
  have HE0 := Lib.hid (Below.refl w0.heap.size w0)
  go_enter Try.func3, Try.ntmps3
  go_upto_region 1 with fail
  rw [← HW0.out, ← HQ.out]
  go_wp2_with fail
  with_reducible refine (HFST.out w0).mono ?_
  rintro e w1 ⟨rfl, hb1⟩
  have HB1 := Lib.hid (HB0.out.trans (hb1.mono HB0.out.size))
  have HE1 := Lib.hid (HE0.out.trans (hb1.mono HE0.out.size))
  clear hb1
  go_wp2_with fail
  with_reducible refine (HFST.out w1).mono ?_
  rintro e w2 ⟨rfl, hb2⟩
  have HB2 := Lib.hid (HB1.out.trans (hb2.mono HB1.out.size))
  have HE2 := Lib.hid (HE1.out.trans (hb2.mono HE1.out.size))
  clear hb2
  go_wp2_with fail
  go_ret
  exact ⟨rfl, HB2.out⟩
set_option maxRecDepth 100000 in
set_option maxHeartbeats 4000000 in
theorem walk_in (s : St) (A : Option Addr) (l : List (Int × Int)) (n c : Nat) (w : World) (hA : AtS w w.heap.size A l) (hl : l.length = n) (hn : n ≤ 300) : Calls Try.prog 3 #[stv s, .slice A n c] w (YesZ w) := by
  have HFST := Lib.hid fun (W : World) => first13_any W
  have HFI := Lib.hid fun (W : World) => zfirst_is W
  have HRF := Lib.hid fun (W : World) => rzfirst_is W
  obtain ⟨⟨T, F⟩, hTF⟩ : ∃ r, r = apply s l := ⟨_, rfl⟩
  have HAP : Hid (∀ W, Below w.heap.size w W → Calls Try.prog 8 #[.agg #[.int .i64 s.table, .int .i64 s.push, .int .i64 s.streams, .int .i64 s.window, .int .i64 s.frame, .int .i64 s.list], .slice A n c] W fun e w' => e = .returned (.tuple #[.agg #[.int .i64 T.table, .int .i64 T.push, .int .i64 T.streams, .int .i64 T.window, .int .i64 T.frame, .int .i64 T.list], .agg #[.bool F.bad, .bool F.conn, .int .i64 (F.code : Int)]]) ∧ Below W.heap.size W w') := Lib.hid (fun W h => by
    have := zapply_f s A l n c W (hA.up h) hl (by omega)
    rw [← hTF] at this
    exact this)
  have HRA : Hid (∀ W, Below w.heap.size w W → Calls Try.prog 9 #[.agg #[.int .i64 s.table, .int .i64 s.push, .int .i64 s.streams, .int .i64 s.window, .int .i64 s.frame, .int .i64 s.list], .slice A n c] W fun e w' => e = .returned (.tuple #[.agg #[.int .i64 T.table, .int .i64 T.push, .int .i64 T.streams, .int .i64 T.window, .int .i64 T.frame, .int .i64 T.list], .agg #[.bool F.bad, .bool F.conn, .int .i64 (F.code : Int)]]) ∧ Below W.heap.size W w') := Lib.hid (fun W h => by
    have := rzapply_any s A l n c W (hA.up h) hl (by omega)
    rw [← hTF] at this
    exact this)
  have k0 : ¬ (300 : Int) < (n : Int) := by omega
  clear hA hl hn hTF
  unfold stv
  obtain ⟨w0, hw0⟩ : ∃ x, x = w.alloc (.cells #[.int .i64 s.table, .int .i64 s.push, .int .i64 s.streams, .int .i64 s.window, .int .i64 s.frame, .int .i64 s.list] 23) := ⟨_, rfl⟩
  have hr0 : w0.heap[w.heap.size]? = some (.cells #[.int .i64 s.table, .int .i64 s.push, .int .i64 s.streams, .int .i64 s.window, .int .i64 s.frame, .int .i64 s.list] 23 (0, 0)) := by rw [hw0]; exact heap_alloc_new w _
  have hb0 : Below w.heap.size w w0 := by rw [hw0]; exact (Below.refl _ _).alloc (Nat.le_refl _) _
  obtain ⟨q, hq⟩ : ∃ g, g = w.heap.size := ⟨_, rfl⟩
  have HQ := Lib.hid hq
  rw [← hq] at hr0
  have HX : Hid (∀ W, Below w0.heap.size w0 W → W.cell? ⟨q, 0, none⟩ = some (.int .i64 s.table) ∧ W.cell? ⟨q, 1, none⟩ = some (.int .i64 s.push) ∧ W.cell? ⟨q, 2, none⟩ = some (.int .i64 s.streams) ∧ W.cell? ⟨q, 3, none⟩ = some (.int .i64 s.window) ∧ W.cell? ⟨q, 4, none⟩ = some (.int .i64 s.frame) ∧ W.cell? ⟨q, 5, none⟩ = some (.int .i64 s.list)) := Lib.hid (fun W h => by
    have h2 := (h.block q (lt_of_heapZ hr0)).trans hr0
    exact ⟨cell_of_row _ q 0 _ 23 _ h2, cell_of_row _ q 1 _ 23 _ h2, cell_of_row _ q 2 _ 23 _ h2, cell_of_row _ q 3 _ 23 _ h2, cell_of_row _ q 4 _ 23 _ h2, cell_of_row _ q 5 _ 23 _ h2⟩)
  have HB0 := Lib.hid hb0
  have HW0 := Lib.hid hw0
  clear hw0 hr0 hb0 hq
  have HE0 := Lib.hid (Below.refl w0.heap.size w0)
  go_enter Try.func3, Try.ntmps3
  go_upto_region 1 with fail
  rw [← HW0.out, ← HQ.out]
  go_wp2_with fail
  with_reducible refine (HFST.out w0).mono ?_
  rintro e w1 ⟨rfl, hb1⟩
  have HB1 := Lib.hid (HB0.out.trans (hb1.mono HB0.out.size))
  have HE1 := Lib.hid (HE0.out.trans (hb1.mono HE0.out.size))
  obtain ⟨x0, x1, x2, x3, x4, x5⟩ := HX.out w1 HE1.out
  clear hb1
  go_wp2_with fail
  with_reducible refine (HAP.out w1 HB1.out).mono ?_
  rintro e w2 ⟨rfl, hb2⟩
  have HB2 := Lib.hid (HB1.out.trans (hb2.mono HB1.out.size))
  have HE2 := Lib.hid (HE1.out.trans (hb2.mono HE1.out.size))
  clear x0 x1 x2 x3 x4 x5
  clear hb2
  obtain ⟨hk, hb5⟩ := kz_of w2 T F
  obtain ⟨w3, hw5⟩ : ∃ x, x = keptZ w2 T F := ⟨_, rfl⟩
  rw [← hw5] at hk hb5
  have hw5' : w3 = (w2.alloc (.cells #[.int .i64 T.table, .int .i64 T.push, .int .i64 T.streams, .int .i64 T.window, .int .i64 T.frame, .int .i64 T.list] 23)).alloc (.cells #[.bool F.bad, .bool F.conn, .int .i64 (F.code : Int)] 27) := hw5
  have HB3 := Lib.hid (HB2.out.trans (hb5.mono HB2.out.size))
  have HW3 := Lib.hid hw5'
  obtain ⟨g, hg⟩ : ∃ g, g = w2.heap.size := ⟨_, rfl⟩
  rw [← hg] at hk
  have HG3 := Lib.hid hg
  have HK3 := Lib.hid hk
  clear hb5 hw5 hw5' hg hk
  go_upto_region 6 with fail
  rw [← HW3.out, ← HG3.out]
  have HE3 := Lib.hid (HE2.out.trans ((show Below w2.heap.size w2 w3 by rw [HW3.out]; exact ((Below.refl _ _).alloc (Nat.le_refl _) _).alloc (by simp) _).mono HE2.out.size))
  obtain ⟨x0, x1, x2, x3, x4, x5⟩ := HX.out w3 HE3.out
  go_wp2_with fail
  with_reducible refine (HRA.out w3 HB3.out).mono ?_
  rintro e w4 ⟨rfl, hb4⟩
  have HB4 := Lib.hid (HB3.out.trans (hb4.mono HB3.out.size))
  have HE4 := Lib.hid (HE3.out.trans (hb4.mono HE3.out.size))
  clear x0 x1 x2 x3 x4 x5
  have HK4 := Lib.hid (HK3.out.up hb4)
  clear hb4
  obtain ⟨hk, hb5⟩ := kz_of w4 T F
  obtain ⟨w5, hw5⟩ : ∃ x, x = keptZ w4 T F := ⟨_, rfl⟩
  rw [← hw5] at hk hb5
  have hw5' : w5 = (w4.alloc (.cells #[.int .i64 T.table, .int .i64 T.push, .int .i64 T.streams, .int .i64 T.window, .int .i64 T.frame, .int .i64 T.list] 23)).alloc (.cells #[.bool F.bad, .bool F.conn, .int .i64 (F.code : Int)] 27) := hw5
  have HB5 := Lib.hid (HB4.out.trans (hb5.mono HB4.out.size))
  have HW5 := Lib.hid hw5'
  obtain ⟨k, hg⟩ : ∃ g, g = w4.heap.size := ⟨_, rfl⟩
  rw [← hg] at hk
  have HG5 := Lib.hid hg
  have HK5 := Lib.hid hk
  clear hb5 hw5 hw5' hg hk
  go_upto_region 7 with fail
  rw [← HW5.out, ← HG5.out]
  have hb45 : Below w4.heap.size w4 w5 := by rw [HW5.out]; exact ((Below.refl _ _).alloc (Nat.le_refl _) _).alloc (by simp) _
  have HG5' := Lib.hid (HK4.out.up hb45)
  have HE5 := Lib.hid (HE4.out.trans (hb45.mono HE4.out.size))
  clear hb45
  go_wp2_with fail
  with_reducible refine (HFST.out w5).mono ?_
  rintro e w6 ⟨rfl, hb6⟩
  have HB6 := Lib.hid (HB5.out.trans (hb6.mono HB5.out.size))
  have HE6 := Lib.hid (HE5.out.trans (hb6.mono HE5.out.size))
  have HK6 := Lib.hid (HK5.out.up hb6)
  have HJ6 := Lib.hid (HG5'.out.up hb6)
  clear hb6
  go_wp2_with fail
  with_reducible refine (HFI.out w6).mono ?_
  rintro e w7 ⟨rfl, hb7⟩
  have HB7 := Lib.hid (HB6.out.trans (hb7.mono HB6.out.size))
  have HE7 := Lib.hid (HE6.out.trans (hb7.mono HE6.out.size))
  have HK7 := Lib.hid (HK6.out.up hb7)
  have HJ7 := Lib.hid (HJ6.out.up hb7)
  clear hb7
  go_wp2_with fail
  with_reducible refine (HRF.out w7).mono ?_
  rintro e w8 ⟨rfl, hb8⟩
  have HB8 := Lib.hid (HB7.out.trans (hb8.mono HB7.out.size))
  have HE8 := Lib.hid (HE7.out.trans (hb8.mono HE7.out.size))
  obtain ⟨c0, c1, c2, c3, c4, c5⟩ := (HK7.out.up hb8).sets
  obtain ⟨d0, d1, d2⟩ := (HK7.out.up hb8).flt
  obtain ⟨b0, b1, b2, b3, b4, b5⟩ := (HJ7.out.up hb8).sets
  obtain ⟨a0, a1, a2⟩ := (HJ7.out.up hb8).flt
  clear hb8
  go_wp2
  go_ret
  exact ⟨by simp, HB8.out⟩
theorem walk_any (s : St) (A : Option Addr) (l : List (Int × Int)) (n c : Nat) (w : World) (hA : AtS w w.heap.size A l) (hl : l.length = n) : Calls Try.prog 3 #[stv s, .slice A n c] w (YesZ w) := by
  by_cases h : 300 < n
  · exact walk_out s A n c w h
  · exact walk_in s A l n c w hA hl (by omega)
end setsTells
end Go.Proofs.Ytkjdjicchmfljaa
