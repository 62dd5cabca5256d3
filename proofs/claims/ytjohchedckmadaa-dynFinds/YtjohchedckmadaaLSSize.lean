/- The landed Size. -/
import Derived.Test.YtjohchedckmadaaSSize
import Derived.Test.YtjohchedckmadaaLRdy
namespace Go.Proofs.Ytjohchedckmadaa
open Go.RowKit
set_option maxRecDepth 100000 in
theorem size_s (f : Fld) (w : World) (hf : f.ok) : Calls Try.prog 25 #[.agg #[.string f.name, .string f.value, .bool f.never]] w (NumPost w (fsize f)) := by
  obtain ⟨nm, vl, nv⟩ := f
  obtain ⟨h1, h2⟩ := hf
  simp only [] at h1 h2
  unfold fsize
  simp only []
  go_enter Try.func25, Try.ntmps25
  go_wp2
  go_ret
  exact ⟨rfl, (Below.refl _ _).alloc (Nat.le_refl _) _⟩
theorem ssize_f (f : Fld) (w : World) (_ : Rdy w) (hf : f.ok) : Calls Try.prog 25 #[.agg #[.string f.name, .string f.value, .bool f.never]] w (NumPost w (fsize f)) := size_s f w hf
end Go.Proofs.Ytjohchedckmadaa
