/- Bytes appended onto a row of the call's own, and where it lies then. From stage 9 on. -/
import Derived.Test.YtegcloapadippaaLMem
import Derived.Test.YtegcloapadippaaLWhereB
namespace Go.Proofs.Ytegcloapadippaa
open Go.RowKit

theorem wpList_append_aw {w : World} {ops : Array Oper} {rest : List Oper} {o : Oper} {a : Act} {Q : Exit → Act → World → Prop} (hgd : o.guard = none) (s x : Operand)
    (ho : o.op = .call { callee := .builtin .append, args := #[s, x], argTypes := #[25, 25] }) (base : Nat)
    (v : Value) (l : List Nat) (hs : a.eval s = v) (hown : w.ownsRow base 5 1 v l.length (cn .u8 l))
    (A : Option Addr) (m : List Nat) (n c : Nat) (hn : m.length = n) (hx : a.eval x = .slice A n c) (hA : A = none → c = 0) (B : Nat) (hm : At .u8 w B A m)
    (hlen : l.length + m.length ≤ 1000000) (hbase : base ≤ w.heap.size)
    (h : ∀ v' w', w'.ownsRow base 5 1 v' (l ++ m).length (cn .u8 (l ++ m)) → w.grownBy w' v.ownBlock → (∀ j, v'.ownBlock = some j → v.ownBlock = some j ∨ w.heap.size ≤ j) → wpList Try.prog ops Q rest (a.put o.dst v') w') : wpList Try.prog ops Q (o :: rest) a w := by
  obtain ⟨i0, hi0, hz0, hz1, hz2⟩ := info_parts infoU8
  subst hn
  cases A with
  | none =>
    have hc := hA rfl
    subst hc
    have hmn := hm.none_nil
    subst hmn
    refine wpList_append_own_none hgd s x 25 ho base 5 i0 1 Try.underlying25 hi0 v l.length (cn .u8 l) hs hown hx ?_
    exact h v w (by simpa using hown) (World.grownBy.refl w _) (fun j hj => .inl hj)
  | some ad =>
    refine wpList_plain hgd fun _ hK => ?_
    obtain ⟨v', w', hr, h2, h3, h4⟩ := run_append_where (P := Try.prog) w base 25 o.type 5 i0 _ 1 1 Try.underlying25 hi0 hz0 hz1 hz2 rfl (by decide) v l.length (cn .u8 l) hown ad m.length c (cn .u8 m) (by simp [cn]) hm.cells (cn_one _ _) (by unfold maxLen; omega) (by omega) hbase
    unfold Oper.wp execOp
    simp only [ho, resolve, invoke, builtin, Sem.run_bind, Sem.run_pure, Result.andThen_ok, List.map_toArray, List.map_cons, List.map_nil, hs, hx, hr]
    rw [cn_app] at h2
    exact hK _ _ (h v' w' (by simpa using h2) h3 h4)
end Go.Proofs.Ytegcloapadippaa
