/- The landed table: Len, Most. -/
import Derived.Test.YtjohchedckmadaaDObj
namespace Go.Proofs.Ytjohchedckmadaa
open Go.RowKit
set_option maxRecDepth 100000 in
theorem dlen_f (w : World) (S : Nat → Prop) (p m : Nat) (l : List Fld) (_ : Rdy w) (h : DT w S p m l) : Calls Try.prog 19 #[.pointer (some ⟨p, 0, none⟩)] w (NumPost w l.length) := by
  obtain ⟨⟨v, hh, ho, _⟩, _⟩ := h
  obtain ⟨A, c, rfl, _⟩ := rowF_shape ho
  have x0 : w.cell? ⟨p, 0, none⟩ = some (.slice A l.length c) := cell_of_row _ p 0 _ 53 _ hh
  clear hh ho
  go_enter Try.func19, Try.ntmps19
  go_wp2
  go_ret
  exact ⟨rfl, Below.refl _ _⟩
set_option maxRecDepth 100000 in
theorem dmost_f (w : World) (S : Nat → Prop) (p m : Nat) (l : List Fld) (_ : Rdy w) (h : DT w S p m l) : Calls Try.prog 22 #[.pointer (some ⟨p, 0, none⟩)] w (NumPost w m) := by
  obtain ⟨⟨v, hh, _⟩, _⟩ := h
  have x0 : w.cell? ⟨p, 1, none⟩ = some (.int .i64 (m : Int)) := cell_of_row _ p 1 _ 53 _ hh
  clear hh
  go_enter Try.func22, Try.ntmps22
  go_wp2
  go_ret
  exact ⟨rfl, Below.refl _ _⟩
end Go.Proofs.Ytjohchedckmadaa
