/- A row beside an object: apart from its blocks it stays. -/
import Derived.Laws.AppendOwn
import Derived.Test.YtkjdjicchmfljaaLObj
namespace Go.Proofs.Ytkjdjicchmfljaa
open Go.RowKit

section
variable {wr w' : World} {v : Value} {n : Nat}
theorem row_keeps {S : Nat → Prop} {B T Z : Nat} {xs : List Value} (h : wr.ownsRow B T Z v n xs) (hk : Keeps S wr w') (hn : ∀ k, v.ownBlock = some k → ¬ S k) : w'.ownsRow B T Z v n xs := by
  refine ⟨h.1, ?_⟩
  rcases h.2 with h0 | ⟨g, cap, cur, hv, hB, hh, r⟩
  · exact .inl h0
  · refine .inr ⟨g, cap, cur, hv, hB, ?_, r⟩
    have hg : g < wr.heap.size := by
      rcases Nat.lt_or_ge g wr.heap.size with hlt | hge
      · exact hlt
      · rw [Array.getElem?_eq_none hge] at hh; cases hh
    rw [hk.block g hg (hn g (by rw [hv]; rfl)), hh]
end
end Go.Proofs.Ytkjdjicchmfljaa
