/- A scope whose jumps are walked on with, one after another (goto forward): k jumps at most. -/
import Derived.Test.YtelbldhnlmggiaaLScope
namespace Go.Proofs.Ytelbldhnlmggiaa
open Go.RowKit

/-- Behind a jump to label l: its code does what Q asks, with k - 1 jumps more at most. -/
def JF (P : Program) (c : Code) (Q : Exit → Act → World → Prop) : Nat → Nat → Act → World → Prop
  | 0, _, _, _ => False
  | k + 1, l, a, w => ∃ rest, findLabel c l = some rest ∧ rest.wp P (jumpsTo (JF P c Q k) Q) a w
theorem JF.go {P : Program} {c rest : Code} {Q : Exit → Act → World → Prop} {k l : Nat} {a : Act} {w : World} (hf : findLabel c l = some rest) (h : rest.wp P (jumpsTo (JF P c Q k) Q) a w) : JF P c Q (k + 1) l a w := ⟨rest, hf, h⟩
theorem wp_scope_fuel (k : Nat) {P : Program} {a : Act} {w : World} {Q : Exit → Act → World → Prop} {c : Code} (first : c.wp P (jumpsTo (JF P c Q k) Q) a w) : (Code.scope c).wp P Q a w := by
  intro b kk cs
  have key : ∀ n l a w, JF P c Q n l a w → ∃ rest, findLabel c l = some rest ∧ ∃ e a' w', Q e a' w' ∧ Arrives P (lone (b.at a (.code rest :: .inScope c :: kk)) cs w) b kk cs e a' w' := by
    intro n
    induction n with
    | zero => intro l a w h; exact h.elim
    | succ n ih =>
      intro l a w hJ
      obtain ⟨rest, hf, hp⟩ := hJ
      refine ⟨rest, hf, ?_⟩
      obtain ⟨e, a₁, w₁, hq, harr⟩ := hp b (.inScope c :: kk) cs
      cases e with
      | normal => exact ⟨.normal, a₁, w₁, hq, Steps.trans harr (.one step_inScope)⟩
      | exit id => exact ⟨.exit id, a₁, w₁, hq, fun k' hk => harr k' (by simp [exitTo, hk])⟩
      | goto l' =>
        obtain ⟨rest', hf', e₂, a₂, w₂, hq₂, harr₂⟩ := ih l' a₁ w₁ hq
        have hg : gotoIn l' (.inScope c :: kk) = some (.code rest' :: .inScope c :: kk) := by simp [gotoIn, hf']
        exact ⟨e₂, a₂, w₂, hq₂, .of_steps (harr _ hg) harr₂⟩
      | ret => exact ⟨_, a₁, w₁, hq, harr⟩
      | panic ch => exact ⟨_, a₁, w₁, hq, harr⟩
      | outgrown => exact ⟨_, a₁, w₁, hq, harr⟩
  obtain ⟨e, a₁, w₁, hq, harr⟩ := first b (.inScope c :: kk) cs
  cases e with
  | normal => exact ⟨.normal, a₁, w₁, hq, .head step_scope (Steps.trans harr (.one step_inScope))⟩
  | exit id => exact ⟨.exit id, a₁, w₁, hq, fun k' hk => .head step_scope (harr k' (by simp [exitTo, hk]))⟩
  | goto l' =>
    obtain ⟨rest', hf', e₂, a₂, w₂, hq₂, harr₂⟩ := key _ l' a₁ w₁ hq
    have hg : gotoIn l' (.inScope c :: kk) = some (.code rest' :: .inScope c :: kk) := by simp [gotoIn, hf']
    exact ⟨e₂, a₂, w₂, hq₂, .of_steps (.head step_scope (harr _ hg)) harr₂⟩
  | ret => exact ⟨_, a₁, w₁, hq, .of_steps (.one step_scope) harr⟩
  | panic ch => exact ⟨_, a₁, w₁, hq, .of_steps (.one step_scope) harr⟩
  | outgrown => exact ⟨_, a₁, w₁, hq, .of_steps (.one step_scope) harr⟩
end Go.Proofs.Ytelbldhnlmggiaa
