/- The landed part's makers of frames. -/
import Derived.Test.YtelbldhnlmggiaaPLNum
import Derived.Test.YtelbldhnlmggiaaPLSmall
import Derived.Test.YtelbldhnlmggiaaPtMade
import Derived.Test.YtelbldhnlmggiaaPtSets
namespace Go.Proofs.Ytelbldhnlmggiaa
open Go.RowKit Fr

def stf (W : World) (g : Nat) (x0 x1 x2 x3 : Value) : World := (((W.setCell ⟨g, 0, none⟩ x0).setCell ⟨g, 1, none⟩ x1).setCell ⟨g, 2, none⟩ x2).setCell ⟨g, 3, none⟩ x3
theorem made_of {w W : World} {g c B m : Nat} {f : Frm} {A : Option Addr} (hg : g = w.heap.size) (hb : Below w.heap.size w W) (hB : g < B) (hm : f.body.length = m) (ho : W.ownsRow B 5 1 (.slice A m c) m (cn .u8 f.body)) (x0 x1 x2 x3 : Value) :
    FrPost w f (.returned (frm f A c)) (stf W g x0 x1 x2 x3) := by
  subst hm
  have hk : Keeps (fun k => k = g) W (stf W g x0 x1 x2 x3) := ((((Keeps.refl (fun k => k = g) W).setCell (S := fun k => k = g) (p := ⟨g, 0, none⟩) rfl x0).setCell (S := fun k => k = g) (p := ⟨g, 1, none⟩) rfl x1).setCell (S := fun k => k = g) (p := ⟨g, 2, none⟩) rfl x2).setCell (S := fun k => k = g) (p := ⟨g, 3, none⟩) rfl x3
  have ho2 := row_keeps ho hk (fun k hk e => by have := own_block ho k hk; omega)
  exact ⟨A, c, rfl, At.of_own ho2, own_none ho2, own_cap ho2, hb.trans (hk.below (fun k e => by omega) hb.size)⟩
theorem fzero (w : World) : (w.alloc (.cells #[.int .i64 0, .int .i64 0, .int .i64 0, .slice none 0 0] 34)).heap[w.heap.size]? = some (.cells #[.int .i64 0, .int .i64 0, .int .i64 0, .slice none 0 0] 34 (0, 0)) ∧ Below w.heap.size w (w.alloc (.cells #[.int .i64 0, .int .i64 0, .int .i64 0, .slice none 0 0] 34)) ∧ (w.alloc (.cells #[.int .i64 0, .int .i64 0, .int .i64 0, .slice none 0 0] 34)).heap.size = w.heap.size + 1 :=
  ⟨heap_alloc_new w _, (Below.refl _ _).alloc (Nat.le_refl _) _, by simp⟩
theorem pput_nil (n : Nat) (B : Nat) (w : World) (hB : B ≤ w.heap.size) : Calls Try.prog 26 #[.slice none 0 0, .int .i64 (n : Int)] w fun e w' => ∃ A c, e = .returned (.slice A 4 c) ∧ w'.ownsRow B 5 1 (.slice A 4 c) 4 (cn .u8 (num n 4)) ∧ Below B w w' := by
  refine (pput_any B [] _ 0 n w hB rfl (World.ownsRow_nil _ _ _ _) (by omega)).mono ?_
  rintro e w' ⟨v, rfl, ho, hb⟩
  rw [List.nil_append, Nat.zero_add] at ho
  obtain ⟨A, c, rfl⟩ := own_shape ho
  exact ⟨A, c, rfl, ho, hb⟩
theorem and31q (a : Nat) (ha : a ≤ 2147483647) : bits .and .i64 (a : Int) 2147483647 = (a : Int) := by
  have := i64_and_nat a 2147483647 (by omega) (by omega)
  rw [show (2147483647 : Nat) = 2 ^ 31 - 1 by decide, Nat.and_two_pow_sub_one_eq_mod, Nat.mod_eq_of_lt (by omega)] at this
  exact this
set_option maxRecDepth 100000 in
set_option maxHeartbeats 4000000 in
theorem prst_f (S n : Nat) (w : World) (_ : S ≤ 2147483647) (_ : n ≤ 2147483647) : Calls Try.prog 14 #[.int .i64 (S : Int), .int .i64 (n : Int)] w (FrPost w ⟨3, 0, (S : Int), num n 4⟩) := by
  obtain ⟨w1, hw1⟩ : ∃ w1, w1 = w.alloc (.cells #[.int .i64 0, .int .i64 0, .int .i64 0, .slice none 0 0] 34) := ⟨_, rfl⟩
  obtain ⟨g, hg⟩ : ∃ g, g = w.heap.size := ⟨_, rfl⟩
  obtain ⟨T1, hb1, hs1⟩ := fzero w
  rw [← hw1, ← hg] at T1
  rw [← hw1] at hb1 hs1
  rw [← hg] at hs1
  have HW := Lib.hid hw1
  have HG := Lib.hid hg
  have HT := Lib.hid T1
  have HB1 := Lib.hid hb1
  have HS1 := Lib.hid hs1
  clear hw1 hg T1 hb1 hs1
  go_enter Try.func14, Try.ntmps14
  go_upto_region 1 with fail
  rw [← HW.out, ← HG.out]
  go_wp2_with fail
  with_reducible refine (pput_nil n (g + 1) _ (by have := HS1.out; omega)).mono ?_
  rintro e w2 ⟨Ax, cx, rfl, ho, hbx⟩
  have TT := (hbx.block g (by omega)).trans HT.out
  have r0 : w2.cell? ⟨g, 0, none⟩ = some (.int .i64 0) := cell_of_row _ g 0 _ 34 _ TT
  have f0 : w2.frozen? ⟨g, 0, none⟩ = false := frozen_of_row _ g 0 _ 34 TT
  have r1 : w2.cell? ⟨g, 1, none⟩ = some (.int .i64 0) := cell_of_row _ g 1 _ 34 _ TT
  have f1 : w2.frozen? ⟨g, 1, none⟩ = false := frozen_of_row _ g 1 _ 34 TT
  have r2 : w2.cell? ⟨g, 2, none⟩ = some (.int .i64 0) := cell_of_row _ g 2 _ 34 _ TT
  have f2 : w2.frozen? ⟨g, 2, none⟩ = false := frozen_of_row _ g 2 _ 34 TT
  have r3 : w2.cell? ⟨g, 3, none⟩ = some (.slice none 0 0) := cell_of_row _ g 3 _ 34 _ TT
  have f3 : w2.frozen? ⟨g, 3, none⟩ = false := frozen_of_row _ g 3 _ 34 TT
  have HN : Hid (FrPost w ⟨3, 0, (S : Int), num n 4⟩ (.returned (.agg #[.int .i64 3, .int .i64 0, .int .i64 (S : Int), .slice Ax 4 cx])) (stf w2 g (.int .i64 3) (.int .i64 0) (.int .i64 (S : Int)) (.slice Ax 4 cx))) := Lib.hid (made_of (f := ⟨3, 0, (S : Int), num n 4⟩) (B := g + 1) HG.out (HB1.out.trans (hbx.mono (by have := HG.out; omega))) (by omega) (by simp [num_len]) ho _ _ _ _)
  clear TT ho hbx
  go_wp2
  refine bodyPost_ret (v := .agg #[.int .i64 3, .int .i64 0, .int .i64 (S : Int), .slice Ax 4 cx]) (by simp [results, Try.results14, go_sem, r0, r1, r2, r3]) rfl HN.out
set_option maxRecDepth 100000 in
set_option maxHeartbeats 4000000 in
theorem pupdate_f (S n : Nat) (w : World) (_ : S ≤ 2147483647) (hn : n ≤ 2147483647) : Calls Try.prog 13 #[.int .i64 (S : Int), .int .i64 (n : Int)] w (FrPost w ⟨8, 0, (S : Int), num n 4⟩) := by
  have e31 := and31q n hn
  obtain ⟨w1, hw1⟩ : ∃ w1, w1 = w.alloc (.cells #[.int .i64 0, .int .i64 0, .int .i64 0, .slice none 0 0] 34) := ⟨_, rfl⟩
  obtain ⟨g, hg⟩ : ∃ g, g = w.heap.size := ⟨_, rfl⟩
  obtain ⟨T1, hb1, hs1⟩ := fzero w
  rw [← hw1, ← hg] at T1
  rw [← hw1] at hb1 hs1
  rw [← hg] at hs1
  have HW := Lib.hid hw1
  have HG := Lib.hid hg
  have HT := Lib.hid T1
  have HB1 := Lib.hid hb1
  have HS1 := Lib.hid hs1
  clear hw1 hg T1 hb1 hs1
  go_enter Try.func13, Try.ntmps13
  go_upto_region 1 with fail
  rw [← HW.out, ← HG.out]
  go_wp2_with fail
  with_reducible refine (pput_nil n (g + 1) _ (by have := HS1.out; omega)).mono ?_
  rintro e w2 ⟨Ax, cx, rfl, ho, hbx⟩
  have TT := (hbx.block g (by omega)).trans HT.out
  have r0 : w2.cell? ⟨g, 0, none⟩ = some (.int .i64 0) := cell_of_row _ g 0 _ 34 _ TT
  have f0 : w2.frozen? ⟨g, 0, none⟩ = false := frozen_of_row _ g 0 _ 34 TT
  have r1 : w2.cell? ⟨g, 1, none⟩ = some (.int .i64 0) := cell_of_row _ g 1 _ 34 _ TT
  have f1 : w2.frozen? ⟨g, 1, none⟩ = false := frozen_of_row _ g 1 _ 34 TT
  have r2 : w2.cell? ⟨g, 2, none⟩ = some (.int .i64 0) := cell_of_row _ g 2 _ 34 _ TT
  have f2 : w2.frozen? ⟨g, 2, none⟩ = false := frozen_of_row _ g 2 _ 34 TT
  have r3 : w2.cell? ⟨g, 3, none⟩ = some (.slice none 0 0) := cell_of_row _ g 3 _ 34 _ TT
  have f3 : w2.frozen? ⟨g, 3, none⟩ = false := frozen_of_row _ g 3 _ 34 TT
  have HN : Hid (FrPost w ⟨8, 0, (S : Int), num n 4⟩ (.returned (.agg #[.int .i64 8, .int .i64 0, .int .i64 (S : Int), .slice Ax 4 cx])) (stf w2 g (.int .i64 8) (.int .i64 0) (.int .i64 (S : Int)) (.slice Ax 4 cx))) := Lib.hid (made_of (f := ⟨8, 0, (S : Int), num n 4⟩) (B := g + 1) HG.out (HB1.out.trans (hbx.mono (by have := HG.out; omega))) (by omega) (by simp [num_len]) ho _ _ _ _)
  clear TT ho hbx
  go_wp2
  refine bodyPost_ret (v := .agg #[.int .i64 8, .int .i64 0, .int .i64 (S : Int), .slice Ax 4 cx]) (by simp [results, Try.results13, go_sem, r0, r1, r2, r3]) rfl HN.out
set_option maxRecDepth 100000 in
set_option maxHeartbeats 4000000 in
theorem pgoaway_f (S n : Nat) (w : World) (hS : S ≤ 2147483647) (_ : n ≤ 2147483647) : Calls Try.prog 15 #[.int .i64 (S : Int), .int .i64 (n : Int)] w (FrPost w ⟨7, 0, 0, num S 4 ++ num n 4⟩) := by
  have e31 := and31q S hS
  obtain ⟨w1, hw1⟩ : ∃ w1, w1 = w.alloc (.cells #[.int .i64 0, .int .i64 0, .int .i64 0, .slice none 0 0] 34) := ⟨_, rfl⟩
  obtain ⟨g, hg⟩ : ∃ g, g = w.heap.size := ⟨_, rfl⟩
  obtain ⟨T1, hb1, hs1⟩ := fzero w
  rw [← hw1, ← hg] at T1
  rw [← hw1] at hb1 hs1
  rw [← hg] at hs1
  have HW := Lib.hid hw1
  have HG := Lib.hid hg
  have HT := Lib.hid T1
  have HB1 := Lib.hid hb1
  have HS1 := Lib.hid hs1
  clear hw1 hg T1 hb1 hs1
  go_enter Try.func15, Try.ntmps15
  go_upto_region 1 with fail
  rw [← HW.out, ← HG.out]
  go_wp2_with fail
  with_reducible refine (pput_nil S (g + 1) _ (by have := HS1.out; omega)).mono ?_
  rintro e w2 ⟨Ay, cy, rfl, ho2, hby⟩
  have hz2 : g + 1 ≤ w2.heap.size := by have := hby.size; have := HS1.out; omega
  have HO2 := Lib.hid ho2
  have HZ2 := Lib.hid hz2
  have HBY := Lib.hid hby
  clear ho2 hby hz2
  go_wp2_with fail
  with_reducible refine (pput_any (g + 1) (num S 4) _ 4 n _ HZ2.out (num_len S 4) HO2.out (by omega)).mono ?_
  rintro e w3 ⟨vx, rfl, ho, hb3⟩
  obtain ⟨Ax, cx, rfl⟩ := own_shape ho
  have hbx := HBY.out.trans hb3
  clear hb3
  have TT := (hbx.block g (by omega)).trans HT.out
  have r0 : w3.cell? ⟨g, 0, none⟩ = some (.int .i64 0) := cell_of_row _ g 0 _ 34 _ TT
  have f0 : w3.frozen? ⟨g, 0, none⟩ = false := frozen_of_row _ g 0 _ 34 TT
  have r1 : w3.cell? ⟨g, 1, none⟩ = some (.int .i64 0) := cell_of_row _ g 1 _ 34 _ TT
  have f1 : w3.frozen? ⟨g, 1, none⟩ = false := frozen_of_row _ g 1 _ 34 TT
  have r2 : w3.cell? ⟨g, 2, none⟩ = some (.int .i64 0) := cell_of_row _ g 2 _ 34 _ TT
  have f2 : w3.frozen? ⟨g, 2, none⟩ = false := frozen_of_row _ g 2 _ 34 TT
  have r3 : w3.cell? ⟨g, 3, none⟩ = some (.slice none 0 0) := cell_of_row _ g 3 _ 34 _ TT
  have f3 : w3.frozen? ⟨g, 3, none⟩ = false := frozen_of_row _ g 3 _ 34 TT
  have HN : Hid (FrPost w ⟨7, 0, 0, num S 4 ++ num n 4⟩ (.returned (.agg #[.int .i64 7, .int .i64 0, .int .i64 0, .slice Ax (4 + 4) cx])) (stf w3 g (.int .i64 7) (.int .i64 0) (.int .i64 0) (.slice Ax (4 + 4) cx))) := Lib.hid (made_of (f := ⟨7, 0, 0, num S 4 ++ num n 4⟩) (B := g + 1) HG.out (HB1.out.trans (hbx.mono (by have := HG.out; omega))) (by omega) (by simp [num_len]) ho _ _ _ _)
  clear TT ho hbx
  go_wp2
  refine bodyPost_ret (v := .agg #[.int .i64 7, .int .i64 0, .int .i64 0, .slice Ax (4 + 4) cx]) (by simp [results, Try.results15, go_sem, r0, r1, r2, r3]) rfl HN.out
end Go.Proofs.Ytelbldhnlmggiaa
