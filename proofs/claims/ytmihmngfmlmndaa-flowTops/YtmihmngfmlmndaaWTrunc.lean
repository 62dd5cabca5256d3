/- math.Trunc of a double that stands for a whole number. -/
import Derived.Test.YtmihmngfmlmndaaWFloat
namespace Go.Proofs.Ytmihmngfmlmndaa
open Go.RowKit Fl Fw

theorem read_not_nanW {x : Nat} {n : Int} (h : (Ieee.double.read x).toInt .zero = some n) : ∀ s t, Ieee.double.read x ≠ .nan s t := by
  intro s t e
  rw [e] at h
  simp [Ieee.Datum.toInt, Ieee.Datum.integral] at h
theorem entry_truncW (x : Nat) (h : ∀ s t, Ieee.double.read x ≠ .nan s t) : Go.Extern.MathFloor.toIntegral "math.archTrunc" .zero #[.float .f64 x] = pure (.float .f64 (truncB x)) := by
  obtain ⟨g, hg⟩ : ∃ g : Bool → Nat → Sem Value, Go.Extern.MathFloor.toIntegral "math.archTrunc" .zero #[.float .f64 x] = (match FloatKind.f64.decode x with
    | .nan s t => g s t
    | d => pure (.float .f64 (FloatKind.f64.encode (d.integral .zero)))) := ⟨_, rfl⟩
  have hd : FloatKind.f64.decode x = Ieee.double.read x := rfl
  rw [hg, hd]
  unfold truncB
  cases hr : Ieee.double.read x with
  | nan s t => exact absurd hr (h s t)
  | infinity s => rfl
  | number s m i => rfl
theorem run_truncW (x : Nat) (n : Int) (h : (Ieee.double.read x).toInt .zero = some n) (w : World) :
    (callFunc 21 #[.float .f64 x]).run Try.prog w = .ok (.value (.float .f64 (truncB x))) w := by
  rw [run_callFunc_extern (f := 21) (fn := Try.f21) Try.func21 (by kernel_rfl) (by kernel_rfl) (by kernel_rfl) (e := Go.Extern.MathFloor.toIntegral "math.archTrunc" .zero) (by rfl)]
  rw [entry_truncW x (read_not_nanW h)]
  rfl
set_option maxHeartbeats 400000 in
theorem trunc_w {x : Nat} {k : Int} (h : Whole x k) (w : World) : Calls Try.prog 20 #[.float .f64 x] w fun e w' => e = .returned (.float .f64 (truncB x)) ∧ w = w' := by
  have hrun := run_truncW x k (whole_toInt h)
  clear h
  go_enter Try.func20, Try.ntmps20
  go_wp2
  go_ret
  exact ⟨rfl, rfl⟩
end Go.Proofs.Ytmihmngfmlmndaa
