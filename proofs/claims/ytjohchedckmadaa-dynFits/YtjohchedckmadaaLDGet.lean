/- The landed table: Get. -/
import Derived.Test.YtjohchedckmadaaDObj
import Derived.Test.YtjohchedckmadaaDGetL
namespace Go.Proofs.Ytjohchedckmadaa
open Go.RowKit
theorem rev_at (l : List Fld) (j I n : Nat) (hn : n = l.length) (hj : j + I = n) (h1 : 1 ≤ j) (hI : I < l.reverse.length) : l.reverse[I] = l.getD (j - 1) ⟨⟨#[]⟩, ⟨#[]⟩, false⟩ := by
  rw [List.getElem_reverse, List.getD, List.getElem?_eq_getElem (by omega), Option.getD_some]
  congr 1
  omega
set_option maxRecDepth 100000 in
set_option maxHeartbeats 4000000 in
theorem dget_f (w : World) (S : Nat → Prop) (p m : Nat) (l : List Fld) (i : Int) (_ : Rdy w) (h : DT w S p m l) (hi : Rng i) :
    Calls Try.prog 15 #[.pointer (some ⟨p, 0, none⟩), .int .i64 i] w (FPost w (getL l i)) := by
  obtain ⟨⟨v, hh, ho, _, _, ht, _⟩, _⟩ := h
  have hpl := lt_of_heap hh
  obtain ⟨n, hn⟩ : ∃ n, n = l.length := ⟨_, rfl⟩
  rw [← hn] at ho
  obtain ⟨A, c, rfl, hnc, _⟩ := rowF_shape ho
  have hat := AtF.of_own ho
  have hb0 : Below w.heap.size w (w.alloc (.cells #[.string ⟨#[]⟩, .string ⟨#[]⟩, .bool false] 33)) := (Below.refl _ _).alloc (Nat.le_refl _) _
  have y1 : (w.alloc (.cells #[.string ⟨#[]⟩, .string ⟨#[]⟩, .bool false] 33)).cell? ⟨p, 0, none⟩ = some (.slice A n c) := (hb0.cell (p := ⟨p, 0, none⟩) hpl).trans (cell_of_row _ p 0 _ 53 _ hh)
  have hnn : n ≤ 128 := by have := tot_pos l; omega
  unfold Rng at hi
  by_cases h1 : i < 1
  · have HS : Hid (getL l i = (⟨⟨#[]⟩, ⟨#[]⟩, false⟩, false)) := Lib.hid (by rw [getL, if_neg (by omega)])
    clear hn hh hat ho
    go_enter Try.func15, Try.ntmps15
    go_wp2
    refine bodyPost_ret (v := .tuple #[.agg #[.string ⟨#[]⟩, .string ⟨#[]⟩, .bool false], .bool false]) (by simp [results, Try.results15, go_sem]) rfl ⟨?_, hb0⟩
    rw [HS.out]
  · by_cases h2 : (n : Int) < i
    · have HS : Hid (getL l i = (⟨⟨#[]⟩, ⟨#[]⟩, false⟩, false)) := Lib.hid (by rw [getL, if_neg (by omega)])
      clear hn hh hat ho
      go_enter Try.func15, Try.ntmps15
      go_wp2
      refine bodyPost_ret (v := .tuple #[.agg #[.string ⟨#[]⟩, .string ⟨#[]⟩, .bool false], .bool false]) (by simp [results, Try.results15, go_sem]) rfl ⟨?_, hb0⟩
      rw [HS.out]
    · obtain ⟨j, rfl⟩ : ∃ v : Nat, i = (v : Int) := ⟨i.toNat, by omega⟩
      obtain ⟨I, hI⟩ : ∃ I, I = n - j := ⟨_, rfl⟩
      have hIl : I < l.reverse.length := by rw [List.length_reverse]; omega
      obtain ⟨b, o, rfl, hbl, hc⟩ := hat.pos (by omega)
      obtain ⟨c0, c1, c2⟩ := hc I hIl
      have hx := rev_at l j I n hn (by omega) (by omega) hIl
      rw [hx] at c0 c1 c2
      obtain ⟨f, hf⟩ : ∃ f, f = l.getD (j - 1) ⟨⟨#[]⟩, ⟨#[]⟩, false⟩ := ⟨_, rfl⟩
      rw [← hf] at c0 c1 c2
      obtain ⟨X, Y, Z⟩ := f
      simp only [] at c0 c1 c2
      have HS : Hid (getL l (j : Int) = (⟨X, Y, Z⟩, true)) := Lib.hid (by rw [getL, if_pos (by omega), Int.toNat_natCast, hf])
      have d0 : (w.alloc (.cells #[.string ⟨#[]⟩, .string ⟨#[]⟩, .bool false] 33)).cell? ⟨b, o + I * 3, none⟩ = some (.string X) := (hb0.cell (p := ⟨b, o + I * 3, none⟩) hbl).trans c0
      have d1 : (w.alloc (.cells #[.string ⟨#[]⟩, .string ⟨#[]⟩, .bool false] 33)).cell? ⟨b, o + I * 3 + 1, none⟩ = some (.string Y) := (hb0.cell (p := ⟨b, o + I * 3 + 1, none⟩) hbl).trans c1
      have d2 : (w.alloc (.cells #[.string ⟨#[]⟩, .string ⟨#[]⟩, .bool false] 33)).cell? ⟨b, o + I * 3 + 2, none⟩ = some (.bool Z) := (hb0.cell (p := ⟨b, o + I * 3 + 2, none⟩) hbl).trans c2
      have eI : (n : Int) - (j : Int) = (I : Int) := by omega
      have In : (I : Int) < (n : Int) := by omega
      have ewi : IntKind.i64.wrap (I : Int) = (I : Int) := IntWalk.i64_in _ (by omega)
      clear hn hh hat hI hf hc c0 c1 c2 ho hx
      go_enter Try.func15, Try.ntmps15
      go_wp2
      have hbZ : Below w.heap.size w (w.alloc (.cells #[.string X, .string Y, .bool Z] 33)).drew := ((Below.refl _ _).alloc (Nat.le_refl _) _).drew
      go_region
      go_wp2
      refine bodyPost_ret (v := .tuple #[.agg #[.string X, .string Y, .bool Z], .bool true]) (by simp [results, Try.results15, go_sem]) rfl ⟨?_, hbZ⟩
      rw [HS.out]
end Go.Proofs.Ytjohchedckmadaa
