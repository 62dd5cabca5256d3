/- Contract of the document's SamePart, where both say the same. -/
import Derived.Test.YtelbldhnlmggiaaPtSets
import Derived.Test.YtelbldhnlmggiaaLBytes
import Derived.Test.YtelbldhnlmggiaaPtThree
import Derived.BigQuiet
namespace Go.Proofs.Ytelbldhnlmggiaa
open Go.RowKit Fr

set_option maxRecDepth 100000 in
set_option maxHeartbeats 8000000 in
theorem rpsame_self (P : Prt) (A B A' B' : Option Addr) (c d c' d' : Nat) (w : World) (hA : At .u8 w w.heap.size A P.data) (hA' : At .u8 w w.heap.size A' P.data) (hb : ∀ x ∈ P.data, x < 256) (hB : AtS w w.heap.size B P.sets) (hB' : AtS w w.heap.size B' P.sets) (hd : P.sets.length ≤ 100000) :
    Calls Try.prog 11 #[prt P A c B d, prt P A' c' B' d'] w (BoolPost w true) := by
  obtain ⟨D, pad, code, last, step, T, e1, e2, e3⟩ := P
  simp only [prt] at *
  obtain ⟨dn, hdn⟩ : ∃ dn, dn = D.length := ⟨_, rfl⟩
  obtain ⟨n, hn⟩ : ∃ n, n = T.length := ⟨_, rfl⟩
  rw [← hdn, ← hn]
  have HBY : Hid (∀ W, Below w.heap.size w W → Calls Try.prog 16 #[.slice A dn c, .slice A' dn c'] W fun e w' => e = .returned (.bool true) ∧ W = w') := Lib.hid fun W hb' => by
    have := bytes_any A A' D D dn dn c c' W _ _ (hA.up hb') (hA'.up hb') hb hb hdn.symm hdn.symm
    rwa [decide_eq_true (rfl : D = D)] at this
  obtain ⟨w1, hw1⟩ : ∃ w1, w1 = (w.alloc (.cells #[.slice A dn c, .int .i64 (pad : Int), .int .i64 (code : Int), .int .i64 (last : Int), .int .i64 (step : Int), .slice B n d, .bool e1, .bool e2, .bool e3] 28)).alloc (.cells #[.slice A' dn c', .int .i64 (pad : Int), .int .i64 (code : Int), .int .i64 (last : Int), .int .i64 (step : Int), .slice B' n d', .bool e1, .bool e2, .bool e3] 28) := ⟨_, rfl⟩
  have hb1 : Below w.heap.size w w1 := by rw [hw1]; exact ((Below.refl _ _).alloc (Nat.le_refl _) _).alloc (by simp) _
  obtain ⟨g, hg⟩ : ∃ g, g = w.heap.size := ⟨_, rfl⟩
  have h1 : w1.heap[g]? = some (.cells #[.slice A dn c, .int .i64 (pad : Int), .int .i64 (code : Int), .int .i64 (last : Int), .int .i64 (step : Int), .slice B n d, .bool e1, .bool e2, .bool e3] 28 (0, 0)) := by
    have q := heap_alloc_new w (.cells #[.slice A dn c, .int .i64 (pad : Int), .int .i64 (code : Int), .int .i64 (last : Int), .int .i64 (step : Int), .slice B n d, .bool e1, .bool e2, .bool e3] 28 (0, 0))
    rw [hw1, hg]
    exact (((Below.refl _ _).alloc (Nat.le_refl _) _).block w.heap.size (lt_of_heapP q)).trans q
  have h2 : w1.heap[g + 1]? = some (.cells #[.slice A' dn c', .int .i64 (pad : Int), .int .i64 (code : Int), .int .i64 (last : Int), .int .i64 (step : Int), .slice B' n d', .bool e1, .bool e2, .bool e3] 28 (0, 0)) := by
    have q := heap_alloc_new (w.alloc (.cells #[.slice A dn c, .int .i64 (pad : Int), .int .i64 (code : Int), .int .i64 (last : Int), .int .i64 (step : Int), .slice B n d, .bool e1, .bool e2, .bool e3] 28)) (.cells #[.slice A' dn c', .int .i64 (pad : Int), .int .i64 (code : Int), .int .i64 (last : Int), .int .i64 (step : Int), .slice B' n d', .bool e1, .bool e2, .bool e3] 28 (0, 0))
    rw [hw1, hg]
    simpa using q
  have HX : Hid (∀ W, Below w1.heap.size w1 W → W.cell? ⟨g, 5, none⟩ = some (.slice B n d) ∧ W.cell? ⟨g + 1, 5, none⟩ = some (.slice B' n d')) := Lib.hid (fun W hb => ⟨(hb.cell (p := ⟨g, 5, none⟩) (lt_of_heapP h1)).trans (cell_of_row _ g 5 _ 28 _ h1), (hb.cell (p := ⟨g + 1, 5, none⟩) (lt_of_heapP h2)).trans (cell_of_row _ (g + 1) 5 _ 28 _ h2)⟩)
  have x0 : w1.cell? ⟨g, 0, none⟩ = some (.slice A dn c) := cell_of_row _ g 0 _ 28 _ h1
  have x1 : w1.cell? ⟨g, 1, none⟩ = some (.int .i64 (pad : Int)) := cell_of_row _ g 1 _ 28 _ h1
  have x2 : w1.cell? ⟨g, 2, none⟩ = some (.int .i64 (code : Int)) := cell_of_row _ g 2 _ 28 _ h1
  have x3 : w1.cell? ⟨g, 3, none⟩ = some (.int .i64 (last : Int)) := cell_of_row _ g 3 _ 28 _ h1
  have x4 : w1.cell? ⟨g, 4, none⟩ = some (.int .i64 (step : Int)) := cell_of_row _ g 4 _ 28 _ h1
  have x5 : w1.cell? ⟨g, 5, none⟩ = some (.slice B n d) := cell_of_row _ g 5 _ 28 _ h1
  have x6 : w1.cell? ⟨g, 6, none⟩ = some (.bool e1) := cell_of_row _ g 6 _ 28 _ h1
  have x7 : w1.cell? ⟨g, 7, none⟩ = some (.bool e2) := cell_of_row _ g 7 _ 28 _ h1
  have x8 : w1.cell? ⟨g, 8, none⟩ = some (.bool e3) := cell_of_row _ g 8 _ 28 _ h1
  have y0 : w1.cell? ⟨g + 1, 0, none⟩ = some (.slice A' dn c') := cell_of_row _ (g + 1) 0 _ 28 _ h2
  have y1 : w1.cell? ⟨g + 1, 1, none⟩ = some (.int .i64 (pad : Int)) := cell_of_row _ (g + 1) 1 _ 28 _ h2
  have y2 : w1.cell? ⟨g + 1, 2, none⟩ = some (.int .i64 (code : Int)) := cell_of_row _ (g + 1) 2 _ 28 _ h2
  have y3 : w1.cell? ⟨g + 1, 3, none⟩ = some (.int .i64 (last : Int)) := cell_of_row _ (g + 1) 3 _ 28 _ h2
  have y4 : w1.cell? ⟨g + 1, 4, none⟩ = some (.int .i64 (step : Int)) := cell_of_row _ (g + 1) 4 _ 28 _ h2
  have y5 : w1.cell? ⟨g + 1, 5, none⟩ = some (.slice B' n d') := cell_of_row _ (g + 1) 5 _ 28 _ h2
  have y6 : w1.cell? ⟨g + 1, 6, none⟩ = some (.bool e1) := cell_of_row _ (g + 1) 6 _ 28 _ h2
  have y7 : w1.cell? ⟨g + 1, 7, none⟩ = some (.bool e2) := cell_of_row _ (g + 1) 7 _ 28 _ h2
  have y8 : w1.cell? ⟨g + 1, 8, none⟩ = some (.bool e3) := cell_of_row _ (g + 1) 8 _ 28 _ h2
  have HBY1 := Lib.hid (HBY.out w1 hb1)
  have HN := Lib.hid hn
  have HSB := Lib.hid (hB.up hb1)
  have HSB' := Lib.hid (hB'.up hb1)
  have HB1 := Lib.hid hb1
  have HW := Lib.hid hw1
  have HG := Lib.hid hg
  have HD : Hid (n ≤ 100000) := Lib.hid (by rw [hn]; exact hd)
  clear hA hA' hb hB hB' hd hdn hn HBY hw1 hg h1 h2 hb1
  go_enter Try.func11, Try.ntmps11
  go_wp2_with fail
  rw [← HW.out, ← HG.out]
  with_reducible refine (HBY1.out).mono ?_
  rintro e w2 ⟨rfl, rfl⟩
  go_wp2
  go_loopw [5] (fun i wr => ∃ k : Nat, k ≤ n ∧ i = .int .i64 (k : Int) ∧ Below w1.heap.size w1 wr) (fun i _ => n - (intOf i).toNat)
  case atStart => exact ⟨0, Nat.zero_le _, rfl, Below.refl _ _⟩
  case round =>
    obtain ⟨k, hk, rfl, hbw⟩ := hrel
    obtain ⟨z5, u5⟩ := HX.out wr hbw
    by_cases hlt : k < n
    · have ki : (k : Int) < (n : Int) := by omega
      have hkl : k < T.length := by rw [← HN.out]; exact hlt
      obtain ⟨b, o, rfl, hbB, hc⟩ := HSB.out.pos (by omega)
      obtain ⟨b', o', rfl, hbB', hc'⟩ := HSB'.out.pos (by omega)
      obtain ⟨c0, c1⟩ := hc k hkl
      obtain ⟨d0, d1⟩ := hc' k hkl
      obtain ⟨X, hX⟩ : ∃ X, X = T[k].1 := ⟨_, rfl⟩
      obtain ⟨Y, hY⟩ : ∃ Y, Y = T[k].2 := ⟨_, rfl⟩
      rw [← hX] at c0 d0
      rw [← hY] at c1 d1
      have a0 := (hbw.cell (p := ⟨b, o + k * 2, none⟩) hbB).trans c0
      have a1 := (hbw.cell (p := ⟨b, o + k * 2 + 1, none⟩) hbB).trans c1
      have b0 := (hbw.cell (p := ⟨b', o' + k * 2, none⟩) hbB').trans d0
      have b1 := (hbw.cell (p := ⟨b', o' + k * 2 + 1, none⟩) hbB').trans d1
      obtain ⟨k2, hk2⟩ : ∃ k2, k2 = k + 1 := ⟨_, rfl⟩
      have e1' : (k : Int) + 1 = (k2 : Int) := by omega
      have w1' : IntKind.i64.wrap (k2 : Int) = (k2 : Int) := IntWalk.i64_in _ (by have := HD.out; omega)
      have HBW := Lib.hid hbw
      have HLT : Hid (k < n ∧ k2 = k + 1) := Lib.hid ⟨hlt, hk2⟩
      clear hc hc' hX hY c0 c1 d0 d1 x0 x1 x2 x3 x4 x5 x6 x7 x8 y0 y1 y2 y3 y4 y5 y6 y7 y8 hbw hkl hlt hk2
      go_wp2
      go_quiet (fail)
      go_wp2
      go_roundw
      case rel => exact ⟨k2, by have := HLT.out; omega, by go_num, below_drewN HBW.out _⟩
      case measure => (have := HLT.out; simp [intOf]; omega)
    · obtain rfl : k = n := by omega
      have ki : ¬ (k : Int) < (k : Int) := by omega
      have HBW := Lib.hid hbw
      clear hbw hlt hk x0 x1 x2 x3 x4 x5 x6 x7 x8 y0 y1 y2 y3 y4 y5 y6 y7 y8
      go_wp2
      go_ret
      exact ⟨rfl, HB1.out.trans (HBW.out.mono HB1.out.size)⟩
end Go.Proofs.Ytelbldhnlmggiaa
