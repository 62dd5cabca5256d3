/- Rows of settings of the call's own; settings appended; slices of settings that came in (chapter 13's own text of what stage 11's have). -/
import Derived.Test.YtkjdjicchmfljaaZPost
import Derived.Laws.OwnMore
import Derived.OwnWalk
import Derived.ArgAppend
import Derived.Deep.RegionHeld3
namespace Go.Proofs.Ytkjdjicchmfljaa
open Go.RowKit Zs

/-- The cells of settings. -/
def cS : List (Int × Int) → List Value
  | [] => []
  | s :: r => .int .i64 s.1 :: .int .i64 s.2 :: cS r
theorem cS_len : ∀ l, (cS l).length = l.length * 2
  | [] => rfl
  | f :: r => by rw [cS, List.length_cons, List.length_cons, cS_len r, List.length_cons]; omega
theorem cS_app : ∀ a b, cS (a ++ b) = cS a ++ cS b
  | [], b => rfl
  | f :: r, b => by rw [List.cons_append, cS, cS, cS_app r b]; rfl
theorem cS_at : ∀ (l : List (Int × Int)) (i : Nat) (h : i < l.length), (cS l)[i * 2]? = some (.int .i64 l[i].1) ∧ (cS l)[i * 2 + 1]? = some (.int .i64 l[i].2)
  | [], i, h => by simp at h
  | f :: r, 0, h => ⟨rfl, rfl⟩
  | f :: r, i + 1, h => by
    have ih := cS_at r i (by simpa using h)
    rw [cS, show (i + 1) * 2 = i * 2 + 2 by omega]
    exact ih
theorem cS_one : ∀ (l : List (Int × Int)), ∀ u ∈ cS l, u.oneCell' = true
  | [], u, h => by simp [cS] at h
  | f :: r, u, h => by
    rw [cS, List.mem_cons, List.mem_cons] at h
    rcases h with rfl | rfl | h
    · rfl
    · rfl
    · exact cS_one r u h
theorem AtS.of_own {w : World} {B n c : Nat} {A : Option Addr} {l : List (Int × Int)} (h : w.ownsRow B 33 2 (.slice A n c) n (cS l)) : AtS w w.heap.size A l := fun hl => by
  have hlen : l.length = n := by have := h.1; rw [cS_len] at this; omega
  have hpos : 0 < l.length := List.length_pos_iff.2 hl
  rcases h.2 with ⟨he, hn⟩ | ⟨g, cap, cur, he, hB, hh, _⟩
  · omega
  · injection he with hA _ hc
    subst hA
    subst hc
    refine ⟨g, 0, rfl, ?_, fun i hi => ?_⟩
    · rcases Nat.lt_or_ge g w.heap.size with hlt | hge
      · exact hlt
      · rw [Array.getElem?_eq_none hge] at hh; cases hh
    · obtain ⟨d0, d1⟩ := cS_at l i hi
      rw [Nat.zero_add, h.cellAt (i * 2) (by omega), h.cellAt (i * 2 + 1) (by omega)]
      exact ⟨d0, d1⟩
theorem rowS_shape {w : World} {B T S : Nat} {v : Value} {n : Nat} {xs : List Value} (h : w.ownsRow B T S v n xs) : ∃ A c, v = .slice A n c ∧ n ≤ c ∧ (A = none → c = 0) := by
  rcases h.2 with ⟨rfl, hn⟩ | ⟨g, cap, _, rfl, _, _, hc, _⟩
  · exact ⟨none, 0, by rw [hn], by omega, fun _ => rfl⟩
  · exact ⟨_, cap, rfl, hc, fun h => by cases h⟩
theorem rowS_block {w : World} {B T S : Nat} {v : Value} {n : Nat} {xs : List Value} (h : w.ownsRow B T S v n xs) : ∀ k, v.ownBlock = some k → B ≤ k := fun k hk => (h.lt k hk).1
theorem infoPS : (Try.prog.info? 33).map (fun i => (i.zero, i.size, i.bytes)) = some (some (.agg #[.int .i64 0, .int .i64 0]), 2, 16) := by kernel_rfl
/-- One setting appended, in a region that draws its order. -/
theorem step_appS {ops : Array Oper} {o : Oper} {a : Act} {w : World} {K : Act → World → Prop} {Q : Exit → Act → World → Prop} {E : Prop} (hgd : o.guard = none) (s x : Operand)
    (ho : o.op = .call { callee := .builtin .append, args := #[s, x], argTypes := #[24, 24] }) (base : Nat)
    (v : Value) (n : Nat) (l : List (Int × Int)) (hs : a.eval s = v) (hown : w.ownsRow base 33 2 v n (cS l))
    (ad : Addr) (m : List (Int × Int)) (c : Nat) (hx : a.eval x = .slice (some ad) m.length c) (hm : ∀ j u, (cS m)[j]? = some u → w.cell? (ad.add j) = some u)
    (hlen : n + m.length ≤ 1000000) (hbase : base ≤ w.heap.size)
    (h : ∀ v' w', w'.ownsRow base 33 2 v' (n + m.length) (cS (l ++ m)) → w.grownBy w' v.ownBlock → K (a.put o.dst v') w') :
    if Region.wanted o (yielded ops a.tmps) = true then Oper.wp Try.prog o a w K Q else E := by
  obtain ⟨i0, hi0, hz0, hz1, hz2⟩ := info_parts infoPS
  have hw : Region.wanted o (yielded ops a.tmps) = true := by simp [Region.wanted, hgd]
  rw [if_pos hw]
  refine wp_append_own w s x 24 ho base 33 i0 _ 2 16 Try.underlying24 hi0 hz0 hz1 hz2 rfl (by decide) v n (cS l) hs hown ad m.length c (cS m) hx (by rw [cS_len]) hm (cS_one _) ?_ ?_ hbase ?_
  · unfold maxLen; omega
  · omega
  · intro v' w' h1 h2 _
    rw [← cS_app] at h1
    exact h v' w' h1 h2
theorem AtS.none_nil {w : World} {B : Nat} {l : List (Int × Int)} (h : AtS w B none l) : l = [] := by
  rcases l with _ | ⟨x, r⟩
  · rfl
  · obtain ⟨b, o, e, _⟩ := h (by simp)
    cases e
theorem cS_get : ∀ (l : List (Int × Int)) (k : Nat) (u : Value), (cS l)[k]? = some u → ∃ i, ∃ h : i < l.length, (k = i * 2 ∧ u = .int .i64 l[i].1) ∨ (k = i * 2 + 1 ∧ u = .int .i64 l[i].2)
  | [], k, u, h => by simp [cS] at h
  | f :: r, 0, u, h => by
    rw [cS] at h
    simp at h
    exact ⟨0, by simp, .inl ⟨rfl, h.symm⟩⟩
  | f :: r, 1, u, h => by
    rw [cS] at h
    simp at h
    exact ⟨0, by simp, .inr ⟨rfl, h.symm⟩⟩
  | f :: r, k + 2, u, h => by
    rw [cS] at h
    have h2 : (cS r)[k]? = some u := by simpa using h
    obtain ⟨i, hi, e⟩ := cS_get r k u h2
    refine ⟨i + 1, by simpa using hi, ?_⟩
    rcases e with ⟨e1, e2⟩ | ⟨e1, e2⟩
    · exact .inl ⟨by omega, by simpa using e2⟩
    · exact .inr ⟨by omega, by simpa using e2⟩
theorem AtS.cells {w : World} {B : Nat} {ad : Addr} {l : List (Int × Int)} (h : AtS w B (some ad) l) : ∀ k u, (cS l)[k]? = some u → w.cell? (ad.add k) = some u := by
  intro k u hk
  obtain ⟨i, hi, e⟩ := cS_get l k u hk
  obtain ⟨b, o, ea, hB, hc⟩ := h (by rintro rfl; simp at hi)
  injection ea with ea
  subst ea
  have hplain : (⟨b, o, none⟩ : Addr).add k = ⟨b, o + k, none⟩ := by unfold Addr.add; split <;> simp_all
  rw [hplain]
  rcases e with ⟨rfl, rfl⟩ | ⟨rfl, rfl⟩
  · exact (hc i hi).1
  · exact (hc i hi).2
/-- Settings appended, out of whatever slice, in a region that draws its order. -/
theorem step_appSA {ops : Array Oper} {o : Oper} {a : Act} {w : World} {K : Act → World → Prop} {Q : Exit → Act → World → Prop} {E : Prop} (hgd : o.guard = none) (s x : Operand)
    (ho : o.op = .call { callee := .builtin .append, args := #[s, x], argTypes := #[24, 24] }) (base : Nat)
    (v : Value) (n : Nat) (l : List (Int × Int)) (hs : a.eval s = v) (hown : w.ownsRow base 33 2 v n (cS l))
    (A : Option Addr) (m : List (Int × Int)) (k c : Nat) (hk : m.length = k) (hx : a.eval x = .slice A k c) (hA : A = none → c = 0) (B : Nat) (hm : AtS w B A m)
    (hlen : n + m.length ≤ 1000000) (hbase : base ≤ w.heap.size)
    (h : ∀ v' w', w'.ownsRow base 33 2 v' (n + m.length) (cS (l ++ m)) → w.grownBy w' v.ownBlock → K (a.put o.dst v') w') :
    if Region.wanted o (yielded ops a.tmps) = true then Oper.wp Try.prog o a w K Q else E := by
  subst hk
  cases A with
  | some ad => exact step_appS hgd s x ho base v n l hs hown ad m c hx hm.cells hlen hbase h
  | none =>
    have hc := hA rfl
    subst hc
    have hmn := hm.none_nil
    subst hmn
    obtain ⟨i0, hi0, _⟩ := info_parts infoPS
    have hw : Region.wanted o (yielded ops a.tmps) = true := by simp [Region.wanted, hgd]
    rw [if_pos hw]
    have hrun := run_append_owned_none (P := Try.prog) (w := w) base 24 o.type 33 i0 2 Try.underlying24 hi0 v n (cS l) hown
    have h9 := h v w (by simpa using hown) (World.grownBy.refl w _)
    unfold Oper.wp
    simp [execOp, ho, resolve, invoke, builtin, hs, hx, hrun, Result.andThen]
    exact h9
end Go.Proofs.Ytkjdjicchmfljaa
