/- The landed part's small functions: fault, number, put, acked. -/
import Derived.Test.YtelbldhnlmggiaaPtFour
import Derived.BigQuiet
namespace Go.Proofs.Ytelbldhnlmggiaa
open Go.RowKit Fr

set_option maxRecDepth 100000 in
set_option maxHeartbeats 4000000 in
theorem pfault_any (code : Int) (w : World) : Calls Try.prog 20 #[.int .i64 code] w fun e w' => e = .returned (.tuple #[.agg #[.slice none 0 0, .int .i64 0, .int .i64 0, .int .i64 0, .int .i64 0, .slice none 0 0, .bool false, .bool false, .bool false], .agg #[.bool true, .bool true, .int .i64 code]]) ∧ Below w.heap.size w w' := by
  obtain ⟨wa, hwa⟩ : ∃ wa, wa = w.alloc (.cells #[.slice none 0 0, .int .i64 0, .int .i64 0, .int .i64 0, .int .i64 0, .slice none 0 0, .bool false, .bool false, .bool false] 28) := ⟨_, rfl⟩
  obtain ⟨w1, hw1⟩ : ∃ w1, w1 = wa.alloc (.cells #[.bool false, .bool false, .int .i64 0] 30) := ⟨_, rfl⟩
  obtain ⟨g, hg⟩ : ∃ g, g = w.heap.size := ⟨_, rfl⟩
  have sa : wa.heap.size = g + 1 := by rw [hwa, hg]; simp
  have ba : Below w.heap.size w wa := by rw [hwa]; exact (Below.refl _ _).alloc (Nat.le_refl _) _
  have b1 : Below wa.heap.size wa w1 := by rw [hw1]; exact (Below.refl _ _).alloc (Nat.le_refl _) _
  have q0 : wa.heap[g]? = some (.cells #[.slice none 0 0, .int .i64 0, .int .i64 0, .int .i64 0, .int .i64 0, .slice none 0 0, .bool false, .bool false, .bool false] 28 (0, 0)) := by rw [hwa, hg]; exact heap_alloc_new w _
  have q1 : w1.heap[g]? = some (.cells #[.slice none 0 0, .int .i64 0, .int .i64 0, .int .i64 0, .int .i64 0, .slice none 0 0, .bool false, .bool false, .bool false] 28 (0, 0)) := (b1.block g (by omega)).trans q0
  have q2 : w1.heap[g + 1]? = some (.cells #[.bool false, .bool false, .int .i64 0] 30 (0, 0)) := by rw [hw1, ← sa]; exact heap_alloc_new wa _
  have hb1 : Below w.heap.size w w1 := ba.trans (b1.mono ba.size)
  have r0 : w1.cell? ⟨g, 0, none⟩ = some (.slice none 0 0) := cell_of_row _ g 0 _ 28 _ q1
  have f0 : w1.frozen? ⟨g, 0, none⟩ = false := frozen_of_row _ g 0 _ 28 q1
  have r1 : w1.cell? ⟨g, 1, none⟩ = some (.int .i64 0) := cell_of_row _ g 1 _ 28 _ q1
  have f1 : w1.frozen? ⟨g, 1, none⟩ = false := frozen_of_row _ g 1 _ 28 q1
  have r2 : w1.cell? ⟨g, 2, none⟩ = some (.int .i64 0) := cell_of_row _ g 2 _ 28 _ q1
  have f2 : w1.frozen? ⟨g, 2, none⟩ = false := frozen_of_row _ g 2 _ 28 q1
  have r3 : w1.cell? ⟨g, 3, none⟩ = some (.int .i64 0) := cell_of_row _ g 3 _ 28 _ q1
  have f3 : w1.frozen? ⟨g, 3, none⟩ = false := frozen_of_row _ g 3 _ 28 q1
  have r4 : w1.cell? ⟨g, 4, none⟩ = some (.int .i64 0) := cell_of_row _ g 4 _ 28 _ q1
  have f4 : w1.frozen? ⟨g, 4, none⟩ = false := frozen_of_row _ g 4 _ 28 q1
  have r5 : w1.cell? ⟨g, 5, none⟩ = some (.slice none 0 0) := cell_of_row _ g 5 _ 28 _ q1
  have f5 : w1.frozen? ⟨g, 5, none⟩ = false := frozen_of_row _ g 5 _ 28 q1
  have r6 : w1.cell? ⟨g, 6, none⟩ = some (.bool false) := cell_of_row _ g 6 _ 28 _ q1
  have f6 : w1.frozen? ⟨g, 6, none⟩ = false := frozen_of_row _ g 6 _ 28 q1
  have r7 : w1.cell? ⟨g, 7, none⟩ = some (.bool false) := cell_of_row _ g 7 _ 28 _ q1
  have f7 : w1.frozen? ⟨g, 7, none⟩ = false := frozen_of_row _ g 7 _ 28 q1
  have r8 : w1.cell? ⟨g, 8, none⟩ = some (.bool false) := cell_of_row _ g 8 _ 28 _ q1
  have f8 : w1.frozen? ⟨g, 8, none⟩ = false := frozen_of_row _ g 8 _ 28 q1
  have t0 : w1.cell? ⟨g + 1, 0, none⟩ = some (.bool false) := cell_of_row _ (g + 1) 0 _ 30 _ q2
  have u0 : w1.frozen? ⟨g + 1, 0, none⟩ = false := frozen_of_row _ (g + 1) 0 _ 30 q2
  have t1 : w1.cell? ⟨g + 1, 1, none⟩ = some (.bool false) := cell_of_row _ (g + 1) 1 _ 30 _ q2
  have u1 : w1.frozen? ⟨g + 1, 1, none⟩ = false := frozen_of_row _ (g + 1) 1 _ 30 q2
  have t2 : w1.cell? ⟨g + 1, 2, none⟩ = some (.int .i64 0) := cell_of_row _ (g + 1) 2 _ 30 _ q2
  have u2 : w1.frozen? ⟨g + 1, 2, none⟩ = false := frozen_of_row _ (g + 1) 2 _ 30 q2
  have HN : Hid (Below w.heap.size w ((((((((((((w1.setCell ⟨g, 0, none⟩ (.slice none 0 0)).setCell ⟨g, 1, none⟩ (.int .i64 0)).setCell ⟨g, 2, none⟩ (.int .i64 0)).setCell ⟨g, 3, none⟩ (.int .i64 0)).setCell ⟨g, 4, none⟩ (.int .i64 0)).setCell ⟨g, 5, none⟩ (.slice none 0 0)).setCell ⟨g, 6, none⟩ (.bool false)).setCell ⟨g, 7, none⟩ (.bool false)).setCell ⟨g, 8, none⟩ (.bool false)).setCell ⟨g + 1, 0, none⟩ (.bool true)).setCell ⟨g + 1, 1, none⟩ (.bool true)).setCell ⟨g + 1, 2, none⟩ (.int .i64 code))) := Lib.hid (by
    have h1 : w.heap.size ≤ g := by omega
    have h2 : w.heap.size ≤ g + 1 := by omega
    repeat' (first | (with_reducible exact hb1) | (with_reducible refine Below.setCell ?_ ?_ _) | (with_reducible exact h1) | (with_reducible exact h2)))
  have hw1' : w1 = (w.alloc (.cells #[.slice none 0 0, .int .i64 0, .int .i64 0, .int .i64 0, .int .i64 0, .slice none 0 0, .bool false, .bool false, .bool false] 28)).alloc (.cells #[.bool false, .bool false, .int .i64 0] 30) := by rw [hw1, hwa]
  have HW := Lib.hid hw1'
  have HG := Lib.hid hg
  clear hw1' hw1 hwa hg sa ba b1 q0 q1 q2 hb1
  go_enter Try.func20, Try.ntmps20
  go_upto_region 1 with fail
  rw [← HW.out, ← HG.out]
  go_wp2
  refine bodyPost_ret (v := .tuple #[.agg #[.slice none 0 0, .int .i64 0, .int .i64 0, .int .i64 0, .int .i64 0, .slice none 0 0, .bool false, .bool false, .bool false], .agg #[.bool true, .bool true, .int .i64 code]]) (by simp [results, Try.results20, go_sem, r0, r1, r2, r3, r4, r5, r6, r7, r8, t0, t1, t2]) rfl ⟨rfl, HN.out⟩
set_option maxRecDepth 100000 in
theorem packed_any (b : Bool) (w : World) : Calls Try.prog 27 #[.bool b] w fun e w' => e = .returned (.int .i64 (if b then 1 else 0)) ∧ w' = w := by
  cases b with
  | true =>
    go_enter Try.func27, Try.ntmps27
    go_wp2
    go_ret
    exact ⟨rfl, rfl⟩
  | false =>
    go_enter Try.func27, Try.ntmps27
    go_wp2
    go_ret
    exact ⟨rfl, rfl⟩
end Go.Proofs.Ytelbldhnlmggiaa
