/- An append of bytes as a region's step. -/
import Derived.Test.YtelbldhnlmggiaaLMem
import Derived.Test.YtelbldhnlmggiaaLWhereB
import Derived.Deep.RegionHeld3
import Derived.Laws.OwnMore
namespace Go.Proofs.Ytelbldhnlmggiaa
open Go.RowKit

theorem step_appB {ops : Array Oper} {o : Oper} {a : Act} {w : World} {K : Act → World → Prop} {Q : Exit → Act → World → Prop} {E : Prop} (hgd : o.guard = none) (s x : Operand)
    (ho : o.op = .call { callee := .builtin .append, args := #[s, x], argTypes := #[25, 25] }) (base : Nat)
    (v : Value) (n : Nat) (l : List Nat) (hs : a.eval s = v) (hown : w.ownsRow base 5 1 v n (cn .u8 l))
    (ad : Addr) (m : List Nat) (c : Nat) (hx : a.eval x = .slice (some ad) m.length c) (hm : ∀ j u, (cn .u8 m)[j]? = some u → w.cell? (ad.add j) = some u) (hlen : n + m.length ≤ 1000000) (hbase : base ≤ w.heap.size)
    (h : ∀ v' w', w'.ownsRow base 5 1 v' (n + m.length) (cn .u8 (l ++ m)) → w.grownBy w' v.ownBlock → K (a.put o.dst v') w') :
    if Region.wanted o (yielded ops a.tmps) = true then Oper.wp Try.prog o a w K Q else E := by
  obtain ⟨i0, hi0, hz0, hz1, hz2⟩ := info_parts infoU8
  have hw : Region.wanted o (yielded ops a.tmps) = true := by simp [Region.wanted, hgd]
  rw [if_pos hw]
  refine wp_append_own w s x 25 ho base 5 i0 _ 1 1 Try.underlying25 hi0 hz0 hz1 hz2 rfl (by decide) v n (cn .u8 l) hs hown ad m.length c (cn .u8 m) hx (by simp [cn]) hm (cn_one _ _) ?_ ?_ hbase ?_
  · unfold maxLen; omega
  · omega
  · intro v' w' h1 h2 _
    rw [cn_app] at h1
    exact h v' w' h1 h2
/-- The same, out of whatever slice. -/
theorem step_appA {ops : Array Oper} {o : Oper} {a : Act} {w : World} {K : Act → World → Prop} {Q : Exit → Act → World → Prop} {E : Prop} (hgd : o.guard = none) (s x : Operand)
    (ho : o.op = .call { callee := .builtin .append, args := #[s, x], argTypes := #[25, 25] }) (base : Nat)
    (v : Value) (n : Nat) (l : List Nat) (hs : a.eval s = v) (hown : w.ownsRow base 5 1 v n (cn .u8 l))
    (A : Option Addr) (m : List Nat) (k c : Nat) (hk : m.length = k) (hx : a.eval x = .slice A k c) (hA : A = none → c = 0) (B : Nat) (hm : At .u8 w B A m) (hlen : n + m.length ≤ 1000000) (hbase : base ≤ w.heap.size)
    (h : ∀ v' w', w'.ownsRow base 5 1 v' (n + m.length) (cn .u8 (l ++ m)) → w.grownBy w' v.ownBlock → K (a.put o.dst v') w') :
    if Region.wanted o (yielded ops a.tmps) = true then Oper.wp Try.prog o a w K Q else E := by
  subst hk
  cases A with
  | some ad => exact step_appB hgd s x ho base v n l hs hown ad m c hx hm.cells hlen hbase h
  | none =>
    have hc := hA rfl
    subst hc
    have hmn := hm.none_nil
    subst hmn
    obtain ⟨i0, hi0, _⟩ := info_parts infoU8
    have hw : Region.wanted o (yielded ops a.tmps) = true := by simp [Region.wanted, hgd]
    rw [if_pos hw]
    have hrun := run_append_owned_none (P := Try.prog) (w := w) base 25 o.type 5 i0 1 Try.underlying25 hi0 v n (cn .u8 l) hown
    have h9 := h v w (by simpa using hown) (World.grownBy.refl w _)
    unfold Oper.wp
    simp [execOp, ho, resolve, invoke, builtin, hs, hx, hrun, Result.andThen]
    exact h9
/-- The same, and where the row lies then. -/
theorem step_appAW {ops : Array Oper} {o : Oper} {a : Act} {w : World} {K : Act → World → Prop} {Q : Exit → Act → World → Prop} {E : Prop} (hgd : o.guard = none) (s x : Operand)
    (ho : o.op = .call { callee := .builtin .append, args := #[s, x], argTypes := #[25, 25] }) (base : Nat)
    (v : Value) (n : Nat) (l : List Nat) (hs : a.eval s = v) (hown : w.ownsRow base 5 1 v n (cn .u8 l))
    (A : Option Addr) (m : List Nat) (k c : Nat) (hk : m.length = k) (hx : a.eval x = .slice A k c) (hA : A = none → c = 0) (B : Nat) (hm : At .u8 w B A m) (hlen : n + m.length ≤ 1000000) (hbase : base ≤ w.heap.size)
    (h : ∀ v' w', w'.ownsRow base 5 1 v' (n + m.length) (cn .u8 (l ++ m)) → w.grownBy w' v.ownBlock → (∀ j, v'.ownBlock = some j → v.ownBlock = some j ∨ w.heap.size ≤ j) → K (a.put o.dst v') w') :
    if Region.wanted o (yielded ops a.tmps) = true then Oper.wp Try.prog o a w K Q else E := by
  subst hk
  have hw : Region.wanted o (yielded ops a.tmps) = true := by simp [Region.wanted, hgd]
  rw [if_pos hw]
  obtain ⟨i0, hi0, hz0, hz1, hz2⟩ := info_parts infoU8
  cases A with
  | none =>
    have hc := hA rfl
    subst hc
    have hmn := hm.none_nil
    subst hmn
    have hrun := run_append_owned_none (P := Try.prog) (w := w) base 25 o.type 5 i0 1 Try.underlying25 hi0 v n (cn .u8 l) hown
    have h9 := h v w (by simpa using hown) (World.grownBy.refl w _) (fun j hj => .inl hj)
    unfold Oper.wp
    simp [execOp, ho, resolve, invoke, builtin, hs, hx, hrun, Result.andThen]
    exact h9
  | some ad =>
    obtain ⟨v', w', hr, h2, h3, h4⟩ := run_append_where (P := Try.prog) w base 25 o.type 5 i0 _ 1 1 Try.underlying25 hi0 hz0 hz1 hz2 rfl (by decide) v n (cn .u8 l) hown ad m.length c (cn .u8 m) (by simp [cn]) hm.cells (cn_one _ _) (by unfold maxLen; omega) (by omega) hbase
    rw [cn_app] at h2
    have h9 := h v' w' h2 h3 h4
    unfold Oper.wp
    simp [execOp, ho, resolve, invoke, builtin, hs, hx, hr, Result.andThen]
    exact h9
end Go.Proofs.Ytelbldhnlmggiaa
