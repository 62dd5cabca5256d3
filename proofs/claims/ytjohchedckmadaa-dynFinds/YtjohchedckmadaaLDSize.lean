/- The landed table: Size. -/
import Derived.Test.YtjohchedckmadaaDObj
import Derived.Test.YtjohchedckmadaaLSTotal
namespace Go.Proofs.Ytjohchedckmadaa
open Go.RowKit
theorem tot_rev : ∀ l : List Fld, tot l.reverse = tot l
  | [] => rfl
  | f :: r => by rw [List.reverse_cons, tot_app, tot_rev r, tot, tot, tot]; omega
set_option maxRecDepth 100000 in
theorem dsize0 (w : World) (S : Nat → Prop) (p m : Nat) (l : List Fld) (h : DT0 w S p m l) : Calls Try.prog 20 #[.pointer (some ⟨p, 0, none⟩)] w (NumPost w (tot l)) := by
  obtain ⟨v, hh, ho, _, _, ht, _⟩ := h
  obtain ⟨A, c, rfl, _⟩ := rowF_shape ho
  have x0 : w.cell? ⟨p, 0, none⟩ = some (.slice A l.length c) := cell_of_row _ p 0 _ 53 _ hh
  have HT := Lib.hid (total_s A l.reverse l.length c w (AtF.of_own ho) (by simp) (by rw [tot_rev]; omega))
  rw [tot_rev] at HT
  clear hh ho
  go_enter Try.func20, Try.ntmps20
  go_wp2_with fail
  with_reducible refine (HT.out).mono ?_
  rintro e w2 ⟨rfl, hb2⟩
  go_wp2
  go_ret
  exact ⟨rfl, hb2⟩
theorem dsize_f (w : World) (S : Nat → Prop) (p m : Nat) (l : List Fld) (_ : Rdy w) (h : DT w S p m l) : Calls Try.prog 20 #[.pointer (some ⟨p, 0, none⟩)] w (NumPost w (tot l)) := dsize0 w S p m l h.1
end Go.Proofs.Ytjohchedckmadaa
