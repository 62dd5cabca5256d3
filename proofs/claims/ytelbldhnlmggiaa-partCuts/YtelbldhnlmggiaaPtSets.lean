/- Rows of settings of the call's own; one more appended. -/
import Derived.Test.YtelbldhnlmggiaaPtMem
import Derived.Test.YtelbldhnlmggiaaLWhereB
import Derived.Deep.RegionHeld3
import Derived.Laws.OwnMore
namespace Go.Proofs.Ytelbldhnlmggiaa
open Go.RowKit Fr

/-- The cells of settings. -/
def cS : List (Int × Int) → List Value
  | [] => []
  | s :: r => .int .i64 s.1 :: .int .i64 s.2 :: cS r
theorem cS_len : ∀ l, (cS l).length = l.length * 2
  | [] => rfl
  | f :: r => by rw [cS, List.length_cons, List.length_cons, cS_len r, List.length_cons]; omega
theorem cS_app : ∀ a b, cS (a ++ b) = cS a ++ cS b
  | [], b => rfl
  | f :: r, b => by rw [List.cons_append, cS, cS, cS_app r b]; rfl
theorem cS_at : ∀ (l : List (Int × Int)) (i : Nat) (h : i < l.length), (cS l)[i * 2]? = some (.int .i64 l[i].1) ∧ (cS l)[i * 2 + 1]? = some (.int .i64 l[i].2)
  | [], i, h => by simp at h
  | f :: r, 0, h => ⟨rfl, rfl⟩
  | f :: r, i + 1, h => by
    have ih := cS_at r i (by simpa using h)
    rw [cS, show (i + 1) * 2 = i * 2 + 2 by omega]
    exact ih
theorem cS_one : ∀ (l : List (Int × Int)), ∀ u ∈ cS l, u.oneCell' = true
  | [], u, h => by simp [cS] at h
  | f :: r, u, h => by
    rw [cS, List.mem_cons, List.mem_cons] at h
    rcases h with rfl | rfl | h
    · rfl
    · rfl
    · exact cS_one r u h
theorem AtS.of_own {w : World} {B n c : Nat} {A : Option Addr} {l : List (Int × Int)} (h : w.ownsRow B 37 2 (.slice A n c) n (cS l)) : AtS w w.heap.size A l := fun hl => by
  have hlen : l.length = n := by have := h.1; rw [cS_len] at this; omega
  have hpos : 0 < l.length := List.length_pos_iff.2 hl
  rcases h.2 with ⟨he, hn⟩ | ⟨g, cap, cur, he, hB, hh, _⟩
  · omega
  · injection he with hA _ hc
    subst hA
    subst hc
    refine ⟨g, 0, rfl, ?_, fun i hi => ?_⟩
    · rcases Nat.lt_or_ge g w.heap.size with hlt | hge
      · exact hlt
      · rw [Array.getElem?_eq_none hge] at hh; cases hh
    · obtain ⟨d0, d1⟩ := cS_at l i hi
      rw [Nat.zero_add, h.cellAt (i * 2) (by omega), h.cellAt (i * 2 + 1) (by omega)]
      exact ⟨d0, d1⟩
theorem rowS_shape {w : World} {B T S : Nat} {v : Value} {n : Nat} {xs : List Value} (h : w.ownsRow B T S v n xs) : ∃ A c, v = .slice A n c ∧ n ≤ c ∧ (A = none → c = 0) := by
  rcases h.2 with ⟨rfl, hn⟩ | ⟨g, cap, _, rfl, _, _, hc, _⟩
  · exact ⟨none, 0, by rw [hn], by omega, fun _ => rfl⟩
  · exact ⟨_, cap, rfl, hc, fun h => by cases h⟩
theorem rowS_block {w : World} {B T S : Nat} {v : Value} {n : Nat} {xs : List Value} (h : w.ownsRow B T S v n xs) : ∀ k, v.ownBlock = some k → B ≤ k := fun k hk => (h.lt k hk).1
theorem infoPS : (Try.prog.info? 37).map (fun i => (i.zero, i.size, i.bytes)) = some (some (.agg #[.int .i64 0, .int .i64 0]), 2, 16) := by kernel_rfl
/-- One setting appended, in a region that draws its order. -/
theorem step_appS {ops : Array Oper} {o : Oper} {a : Act} {w : World} {K : Act → World → Prop} {Q : Exit → Act → World → Prop} {E : Prop} (hgd : o.guard = none) (s x : Operand)
    (ho : o.op = .call { callee := .builtin .append, args := #[s, x], argTypes := #[26, 26] }) (base : Nat)
    (v : Value) (n : Nat) (l : List (Int × Int)) (hs : a.eval s = v) (hown : w.ownsRow base 37 2 v n (cS l))
    (ad : Addr) (m : List (Int × Int)) (c : Nat) (hx : a.eval x = .slice (some ad) m.length c) (hm : ∀ j u, (cS m)[j]? = some u → w.cell? (ad.add j) = some u)
    (hlen : n + m.length ≤ 1000000) (hbase : base ≤ w.heap.size)
    (h : ∀ v' w', w'.ownsRow base 37 2 v' (n + m.length) (cS (l ++ m)) → w.grownBy w' v.ownBlock → K (a.put o.dst v') w') :
    if Region.wanted o (yielded ops a.tmps) = true then Oper.wp Try.prog o a w K Q else E := by
  obtain ⟨i0, hi0, hz0, hz1, hz2⟩ := info_parts infoPS
  have hw : Region.wanted o (yielded ops a.tmps) = true := by simp [Region.wanted, hgd]
  rw [if_pos hw]
  refine wp_append_own w s x 26 ho base 37 i0 _ 2 16 Try.underlying26 hi0 hz0 hz1 hz2 rfl (by decide) v n (cS l) hs hown ad m.length c (cS m) hx (by rw [cS_len]) hm (cS_one _) ?_ ?_ hbase ?_
  · unfold maxLen; omega
  · omega
  · intro v' w' h1 h2 _
    rw [← cS_app] at h1
    exact h v' w' h1 h2
theorem take_succ {α : Type} (l : List α) (j : Nat) (h : j < l.length) : l.take (j + 1) = l.take j ++ [l[j]] := by simp
end Go.Proofs.Ytelbldhnlmggiaa
