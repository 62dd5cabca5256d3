/- The faces' contracts over the landed code. -/
import Derived.Test.YtmihmngfmlmndaaWFShift
namespace Go.Proofs.Ytmihmngfmlmndaa
open Go.RowKit Fl Fw

theorem wstr_f {a b : Nat} {k l : Int} (h : Zw a b k l) (w : World) : Calls Try.prog 9 #[.complex .f64 a b] w (IPost w k) := by
  refine (str_w h w).mono ?_
  rintro e w' ⟨rfl, rfl⟩
  exact ⟨rfl, Below.refl _ _⟩
theorem wcon_f {a b : Nat} {k l : Int} (h : Zw a b k l) (w : World) : Calls Try.prog 10 #[.complex .f64 a b] w (IPost w l) := by
  refine (con_w h w).mono ?_
  rintro e w' ⟨rfl, rfl⟩
  exact ⟨rfl, Below.refl _ _⟩
theorem wmay_f {a b : Nat} {k l : Int} (h : Zw a b k l) (w : World) : Calls Try.prog 11 #[.complex .f64 a b] w (IPost w (may k l)) := by
  refine (may_w h w).mono ?_
  rintro e w' ⟨rfl, rfl⟩
  exact ⟨rfl, Below.refl _ _⟩
end Go.Proofs.Ytmihmngfmlmndaa
