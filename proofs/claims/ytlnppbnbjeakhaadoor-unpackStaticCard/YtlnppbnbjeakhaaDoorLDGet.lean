/- The landed table: New, isMost, Len, Most, Size. -/
import Derived.Test.YtlnppbnbjeakhaaDoorDObj
import Derived.Test.YtlnppbnbjeakhaaDoorLSTotal
import Derived.Test.YtlnppbnbjeakhaaDoorDGetL
namespace Go.Proofs.YtlnppbnbjeakhaaDoor
open Go.RowKit

set_option maxRecDepth 100000 in
theorem isMost_ok (m : Nat) (w : World) (hm : m ≤ 4096) : Calls Tryd.prog 36 #[.int .i64 (m : Int)] w fun e w' => e = .returned (.bool true) ∧ w' = w := by
  have h1 : (0 : Int) ≤ (m : Int) := by omega
  have h2 : (m : Int) ≤ 4096 := by omega
  go_enter Tryd.func36, Tryd.ntmps36
  go_wp2
  go_ret
  exact ⟨rfl, rfl⟩
set_option maxRecDepth 100000 in
theorem isMost_no (m : Int) (w : World) (hm : m < 0 ∨ 4096 < m) : Calls Tryd.prog 36 #[.int .i64 m] w fun e w' => e = .returned (.bool false) ∧ w' = w := by
  by_cases h0 : m < 0
  · have h1 : ¬ (0 : Int) ≤ m := by omega
    go_enter Tryd.func36, Tryd.ntmps36
    go_wp2
    go_ret
    exact ⟨rfl, rfl⟩
  · have h1 : (0 : Int) ≤ m := by omega
    have h2 : ¬ m ≤ 4096 := by omega
    go_enter Tryd.func36, Tryd.ntmps36
    go_wp2
    go_ret
    exact ⟨rfl, rfl⟩
set_option maxRecDepth 100000 in
theorem dnew_ok (m : Nat) (w : World) (_ : Rdy w) (hm : m ≤ 4096) : Calls Tryd.prog 23 #[.int .i64 (m : Int)] w fun e w' => ∃ p S, e = .returned (.tuple #[.pointer (some ⟨p, 0, none⟩), .int .i64 0]) ∧ DT w' S p m [] ∧ (∀ x, S x → w.heap.size ≤ x) ∧ Below w.heap.size w w' := by
  go_enter Tryd.func23, Tryd.ntmps23
  go_wp2_with fail
  with_reducible refine (isMost_ok m w hm).mono ?_
  rintro e w1 ⟨rfl, rfl⟩
  go_wp2
  go_ret2
  refine ⟨w1.heap.size, fun x => x = w1.heap.size ∨ (Value.slice none 0 0).ownBlock = some x, rfl, ⟨⟨.slice none 0 0, heap_alloc_new w1 _, World.ownsRow_nil _ _ _ _, fun k hk => by simp [Value.ownBlock] at hk, fun x => Iff.rfl, by simp [tot], hm⟩, by simp [tot]⟩, fun x hx => ?_, (Below.refl _ _).alloc (Nat.le_refl _) _⟩
  rcases hx with rfl | hx
  · exact Nat.le_refl _
  · simp [Value.ownBlock] at hx
set_option maxRecDepth 100000 in
theorem dnew_no (m : Int) (w : World) (_ : Rdy w) (hm : m < 0 ∨ 4096 < m) : Calls Tryd.prog 23 #[.int .i64 m] w fun e w' => e = .returned (.tuple #[.pointer none, .int .i64 1]) ∧ Below w.heap.size w w' := by
  go_enter Tryd.func23, Tryd.ntmps23
  go_wp2_with fail
  with_reducible refine (isMost_no m w hm).mono ?_
  rintro e w1 ⟨rfl, rfl⟩
  go_wp2
  go_ret2
  exact ⟨rfl, Below.refl _ _⟩
end Go.Proofs.YtlnppbnbjeakhaaDoor
/- The landed table: Len, Most. -/
namespace Go.Proofs.YtlnppbnbjeakhaaDoor
open Go.RowKit
set_option maxRecDepth 100000 in
theorem dlen_f (w : World) (S : Nat → Prop) (p m : Nat) (l : List Fld) (_ : Rdy w) (h : DT w S p m l) : Calls Tryd.prog 20 #[.pointer (some ⟨p, 0, none⟩)] w (NumPost w l.length) := by
  obtain ⟨⟨v, hh, ho, _⟩, _⟩ := h
  obtain ⟨A, c, rfl, _⟩ := rowF_shape ho
  have x0 : w.cell? ⟨p, 0, none⟩ = some (.slice A l.length c) := cell_of_row _ p 0 _ 63 _ hh
  clear hh ho
  go_enter Tryd.func20, Tryd.ntmps20
  go_wp2
  go_ret
  exact ⟨rfl, Below.refl _ _⟩
set_option maxRecDepth 100000 in
theorem dmost_f (w : World) (S : Nat → Prop) (p m : Nat) (l : List Fld) (_ : Rdy w) (h : DT w S p m l) : Calls Tryd.prog 18 #[.pointer (some ⟨p, 0, none⟩)] w (NumPost w m) := by
  obtain ⟨⟨v, hh, _⟩, _⟩ := h
  have x0 : w.cell? ⟨p, 1, none⟩ = some (.int .i64 (m : Int)) := cell_of_row _ p 1 _ 63 _ hh
  clear hh
  go_enter Tryd.func18, Tryd.ntmps18
  go_wp2
  go_ret
  exact ⟨rfl, Below.refl _ _⟩
end Go.Proofs.YtlnppbnbjeakhaaDoor
/- The landed table: Size. -/
namespace Go.Proofs.YtlnppbnbjeakhaaDoor
open Go.RowKit
theorem tot_rev : ∀ l : List Fld, tot l.reverse = tot l
  | [] => rfl
  | f :: r => by rw [List.reverse_cons, tot_app, tot_rev r, tot, tot, tot]; omega
set_option maxRecDepth 100000 in
theorem dsize0 (w : World) (S : Nat → Prop) (p m : Nat) (l : List Fld) (h : DT0 w S p m l) : Calls Tryd.prog 17 #[.pointer (some ⟨p, 0, none⟩)] w (NumPost w (tot l)) := by
  obtain ⟨v, hh, ho, _, _, ht, _⟩ := h
  obtain ⟨A, c, rfl, _⟩ := rowF_shape ho
  have x0 : w.cell? ⟨p, 0, none⟩ = some (.slice A l.length c) := cell_of_row _ p 0 _ 63 _ hh
  have HT := Lib.hid (total_s A l.reverse l.length c w (AtF.of_own ho) (by simp) (by rw [tot_rev]; omega))
  rw [tot_rev] at HT
  clear hh ho
  go_enter Tryd.func17, Tryd.ntmps17
  go_wp2_with fail
  with_reducible refine (HT.out).mono ?_
  rintro e w2 ⟨rfl, hb2⟩
  go_wp2
  go_ret
  exact ⟨rfl, hb2⟩
theorem dsize_f (w : World) (S : Nat → Prop) (p m : Nat) (l : List Fld) (_ : Rdy w) (h : DT w S p m l) : Calls Tryd.prog 17 #[.pointer (some ⟨p, 0, none⟩)] w (NumPost w (tot l)) := dsize0 w S p m l h.1
end Go.Proofs.YtlnppbnbjeakhaaDoor
/- The landed table: Get. -/
namespace Go.Proofs.YtlnppbnbjeakhaaDoor
open Go.RowKit
theorem rev_at (l : List Fld) (j I n : Nat) (hn : n = l.length) (hj : j + I = n) (h1 : 1 ≤ j) (hI : I < l.reverse.length) : l.reverse[I] = l.getD (j - 1) ⟨⟨#[]⟩, ⟨#[]⟩, false⟩ := by
  rw [List.getElem_reverse, List.getD, List.getElem?_eq_getElem (by omega), Option.getD_some]
  congr 1
  omega
set_option maxRecDepth 100000 in
set_option maxHeartbeats 4000000 in
theorem dget_f (w : World) (S : Nat → Prop) (p m : Nat) (l : List Fld) (i : Int) (_ : Rdy w) (h : DT w S p m l) (hi : Rng i) :
    Calls Tryd.prog 31 #[.pointer (some ⟨p, 0, none⟩), .int .i64 i] w (FPost w (getL l i)) := by
  obtain ⟨⟨v, hh, ho, _, _, ht, _⟩, _⟩ := h
  have hpl := lt_of_heap hh
  obtain ⟨n, hn⟩ : ∃ n, n = l.length := ⟨_, rfl⟩
  rw [← hn] at ho
  obtain ⟨A, c, rfl, hnc, _⟩ := rowF_shape ho
  have hat := AtF.of_own ho
  have hb0 : Below w.heap.size w (w.alloc (.cells #[.string ⟨#[]⟩, .string ⟨#[]⟩, .bool false] 44)) := (Below.refl _ _).alloc (Nat.le_refl _) _
  have y1 : (w.alloc (.cells #[.string ⟨#[]⟩, .string ⟨#[]⟩, .bool false] 44)).cell? ⟨p, 0, none⟩ = some (.slice A n c) := (hb0.cell (p := ⟨p, 0, none⟩) hpl).trans (cell_of_row _ p 0 _ 63 _ hh)
  have hnn : n ≤ 128 := by have := tot_pos l; omega
  unfold Rng at hi
  by_cases h1 : i < 1
  · have HS : Hid (getL l i = (⟨⟨#[]⟩, ⟨#[]⟩, false⟩, false)) := Lib.hid (by rw [getL, if_neg (by omega)])
    clear hn hh hat ho
    go_enter Tryd.func31, Tryd.ntmps31
    go_wp2
    refine bodyPost_ret (v := .tuple #[.agg #[.string ⟨#[]⟩, .string ⟨#[]⟩, .bool false], .bool false]) (by simp [results, Tryd.results31, go_sem]) rfl ⟨?_, hb0⟩
    rw [HS.out]
  · by_cases h2 : (n : Int) < i
    · have HS : Hid (getL l i = (⟨⟨#[]⟩, ⟨#[]⟩, false⟩, false)) := Lib.hid (by rw [getL, if_neg (by omega)])
      clear hn hh hat ho
      go_enter Tryd.func31, Tryd.ntmps31
      go_wp2
      refine bodyPost_ret (v := .tuple #[.agg #[.string ⟨#[]⟩, .string ⟨#[]⟩, .bool false], .bool false]) (by simp [results, Tryd.results31, go_sem]) rfl ⟨?_, hb0⟩
      rw [HS.out]
    · obtain ⟨j, rfl⟩ : ∃ v : Nat, i = (v : Int) := ⟨i.toNat, by omega⟩
      obtain ⟨I, hI⟩ : ∃ I, I = n - j := ⟨_, rfl⟩
      have hIl : I < l.reverse.length := by rw [List.length_reverse]; omega
      obtain ⟨b, o, rfl, hbl, hc⟩ := hat.pos (by omega)
      obtain ⟨c0, c1, c2⟩ := hc I hIl
      have hx := rev_at l j I n hn (by omega) (by omega) hIl
      rw [hx] at c0 c1 c2
      obtain ⟨f, hf⟩ : ∃ f, f = l.getD (j - 1) ⟨⟨#[]⟩, ⟨#[]⟩, false⟩ := ⟨_, rfl⟩
      rw [← hf] at c0 c1 c2
      obtain ⟨X, Y, Z⟩ := f
      simp only [] at c0 c1 c2
      have HS : Hid (getL l (j : Int) = (⟨X, Y, Z⟩, true)) := Lib.hid (by rw [getL, if_pos (by omega), Int.toNat_natCast, hf])
      have d0 : (w.alloc (.cells #[.string ⟨#[]⟩, .string ⟨#[]⟩, .bool false] 44)).cell? ⟨b, o + I * 3, none⟩ = some (.string X) := (hb0.cell (p := ⟨b, o + I * 3, none⟩) hbl).trans c0
      have d1 : (w.alloc (.cells #[.string ⟨#[]⟩, .string ⟨#[]⟩, .bool false] 44)).cell? ⟨b, o + I * 3 + 1, none⟩ = some (.string Y) := (hb0.cell (p := ⟨b, o + I * 3 + 1, none⟩) hbl).trans c1
      have d2 : (w.alloc (.cells #[.string ⟨#[]⟩, .string ⟨#[]⟩, .bool false] 44)).cell? ⟨b, o + I * 3 + 2, none⟩ = some (.bool Z) := (hb0.cell (p := ⟨b, o + I * 3 + 2, none⟩) hbl).trans c2
      have eI : (n : Int) - (j : Int) = (I : Int) := by omega
      have In : (I : Int) < (n : Int) := by omega
      have ewi : IntKind.i64.wrap (I : Int) = (I : Int) := IntWalk.i64_in _ (by omega)
      clear hn hh hat hI hf hc c0 c1 c2 ho hx
      go_enter Tryd.func31, Tryd.ntmps31
      go_wp2
      have hbZ : Below w.heap.size w (w.alloc (.cells #[.string X, .string Y, .bool Z] 44)).drew := ((Below.refl _ _).alloc (Nat.le_refl _) _).drew
      go_region
      go_wp2
      refine bodyPost_ret (v := .tuple #[.agg #[.string X, .string Y, .bool Z], .bool true]) (by simp [results, Tryd.results31, go_sem]) rfl ⟨?_, hbZ⟩
      rw [HS.out]
end Go.Proofs.YtlnppbnbjeakhaaDoor
