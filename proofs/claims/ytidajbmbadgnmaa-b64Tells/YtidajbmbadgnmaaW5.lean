/- An append of bytes that lie somewhere onto a row of the call's own; a shorter slice. -/
import Derived.Test.YtidajbmbadgnmaaW4
namespace Go.Proofs.Ytidajbmbadgnmaa
open Go.RowKit Bm

theorem Has.take {w : World} {B : Nat} {A : Option Addr} {l : List UInt8} (h : Has w B A l) (n : Nat) : Has w B A (l.take n) := fun hl => by
  obtain ⟨b, o, e, hB, hc⟩ := h (by rintro rfl; simp at hl)
  refine ⟨b, o, e, hB, fun i hi => ?_⟩
  have hi' : i < l.length := by simp at hi; omega
  rw [hc i hi']
  simp
theorem Has.cells {w : World} {B : Nat} {ad : Addr} {l : List UInt8} (h : Has w B (some ad) l) : ∀ j u, (cel l)[j]? = some u → w.cell? (ad.add j) = some u := by
  intro j u hj
  have hjl : j < l.length := by
    rcases Nat.lt_or_ge j l.length with h | h
    · exact h
    · rw [List.getElem?_eq_none (by rw [cel_len]; exact h)] at hj; cases hj
  obtain ⟨b, o, e, hB, hc⟩ := h (by rintro rfl; simp at hjl)
  injection e with e
  subst e
  have hplain : (⟨b, o, none⟩ : Addr).add j = ⟨b, o + j, none⟩ := by unfold Addr.add; split <;> simp_all
  rw [hplain, hc j hjl]
  simp [cel, hjl] at hj
  rw [hj]
theorem Has.none_nil {w : World} {B : Nat} {l : List UInt8} (h : Has w B none l) : l = [] := by
  rcases l with _ | ⟨x, r⟩
  · rfl
  · obtain ⟨b, o, e, _⟩ := h (by simp)
    cases e
theorem cel_app (l m : List UInt8) : cel l ++ cel m = cel (l ++ m) := by simp [cel]

theorem wpList_append_has {w : World} {ops : Array Oper} {rest : List Oper} {o : Oper} {a : Act} {Q : Exit → Act → World → Prop} (hgd : o.guard = none) (s x : Operand)
    (ho : o.op = .call { callee := .builtin .append, args := #[s, x], argTypes := #[22, 22] }) (base : Nat)
    (v : Value) (l : List UInt8) (hs : a.eval s = v) (hown : w.ownsRow base 5 1 v l.length (cel l))
    (A : Option Addr) (m : List UInt8) (n c : Nat) (hn : m.length = n) (hx : a.eval x = .slice A n c) (hA : A = none → c = 0) (B : Nat) (hm : Has w B A m)
    (hlen : l.length + m.length ≤ 1000000) (hbase : base ≤ w.heap.size)
    (h : ∀ v' w', w'.ownsRow base 5 1 v' (l ++ m).length (cel (l ++ m)) → w.grownBy w' v.ownBlock → wpList Try.prog ops Q rest (a.put o.dst v') w') : wpList Try.prog ops Q (o :: rest) a w := by
  obtain ⟨i0, hi0, hz0, hz1, hz2⟩ := info_parts info5
  subst hn
  cases A with
  | none =>
    have hc := hA rfl
    subst hc
    have hmn := hm.none_nil
    subst hmn
    refine wpList_append_own_none hgd s x 22 ho base 5 i0 1 Try.underlying22 hi0 v l.length (cel l) hs hown hx ?_
    exact h v w (by simpa using hown) (World.grownBy.refl w _)
  | some ad =>
    refine wpList_append_own w hgd s x 22 ho base 5 i0 _ 1 1 Try.underlying22 hi0 hz0 hz1 hz2 rfl (by decide) v l.length (cel l) hs hown ad m.length c (cel m) hx (by simp [cel]) hm.cells ?_ ?_ ?_ hbase ?_
    · intro u hu; simp [cel] at hu; obtain ⟨y, _, rfl⟩ := hu; rfl
    · unfold maxLen; omega
    · omega
    · intro v' w' h1 h2 _
      rw [cel_app] at h1
      exact h v' w' (by simpa using h1) h2
end Go.Proofs.Ytidajbmbadgnmaa
