/- An append of bytes that lie somewhere onto a row of the call's own; whole rows read in a region that keeps still. -/
import Derived.Test.YthaecckneblecaaDoorMem
import Derived.Laws.AppendOwnNone
import Derived.StillTailTactics
namespace Go.Proofs.YthaecckneblecaaDoor
open Go.RowKit Sh

theorem infoU8 : (Tryd.prog.info? 5).map (fun i => (i.zero, i.size, i.bytes)) = some (some (.int .u8 0), 1, 1) := by kernel_rfl
theorem cn_app (k : IntKind) (l m : List Nat) : cn k l ++ cn k m = cn k (l ++ m) := by simp [cn]
theorem cn_snoc (k : IntKind) (l : List Nat) (x : Nat) : cn k l ++ [.int k (x : Int)] = cn k (l ++ [x]) := by simp [cn]
theorem At.cells {k : IntKind} {w : World} {B : Nat} {ad : Addr} {l : List Nat} (h : At k w B (some ad) l) : ∀ j u, (cn k l)[j]? = some u → w.cell? (ad.add j) = some u := by
  intro j u hj
  have hjl : j < l.length := by
    rcases Nat.lt_or_ge j l.length with h | h
    · exact h
    · rw [List.getElem?_eq_none (by rw [cn_len]; exact h)] at hj; cases hj
  obtain ⟨b, o, e, hB, hc⟩ := h (by rintro rfl; simp at hjl)
  injection e with e
  subst e
  have hplain : (⟨b, o, none⟩ : Addr).add j = ⟨b, o + j, none⟩ := by unfold Addr.add; split <;> simp_all
  rw [hplain, hc j hjl]
  rw [cn_at k l j hjl] at hj
  exact hj
theorem At.none_nil {k : IntKind} {w : World} {B : Nat} {l : List Nat} (h : At k w B none l) : l = [] := by
  rcases l with _ | ⟨x, r⟩
  · rfl
  · obtain ⟨b, o, e, _⟩ := h (by simp)
    cases e
theorem own_empty (w : World) (B : Nat) (hB : B ≤ w.heap.size) : (w.alloc (.cells #[] 5)).ownsRow B 5 1 (.slice (some ⟨w.heap.size, 0, none⟩) 0 0) 0 [] :=
  ⟨rfl, .inr ⟨w.heap.size, 0, #[], rfl, hB, heap_alloc_new w _, Nat.le_refl _, Nat.zero_le _, rfl, rfl⟩⟩
theorem new_cells (w : World) (cs : List Value) (t : TypeId) : ∀ j u, cs[j]? = some u → (w.alloc (.cells cs.toArray t)).cell? ((⟨w.heap.size, 0, none⟩ : Addr).add j) = some u := by
  intro j u hj
  have hplain : (⟨w.heap.size, 0, none⟩ : Addr).add j = ⟨w.heap.size, j, none⟩ := by unfold Addr.add; split <;> simp_all
  rw [hplain, cell_of_row _ w.heap.size j _ t _ (heap_alloc_new w _)]
  simpa using hj
theorem own_cap {w : World} {B T : Nat} {A : Option Addr} {n c : Nat} {xs : List Value} (h : w.ownsRow B T 1 (.slice A n c) n xs) : n ≤ c := by
  rcases h.2 with ⟨hv, hn⟩ | ⟨_, _, _, hv, _, _, hnc, _⟩
  · omega
  · injection hv with _ _ hv
    omega
theorem wpList_append_at {w : World} {ops : Array Oper} {rest : List Oper} {o : Oper} {a : Act} {Q : Exit → Act → World → Prop} (hgd : o.guard = none) (s x : Operand)
    (ho : o.op = .call { callee := .builtin .append, args := #[s, x], argTypes := #[22, 22] }) (base : Nat)
    (v : Value) (l : List Nat) (hs : a.eval s = v) (hown : w.ownsRow base 5 1 v l.length (cn .u8 l))
    (A : Option Addr) (m : List Nat) (n c : Nat) (hn : m.length = n) (hx : a.eval x = .slice A n c) (hA : A = none → c = 0) (B : Nat) (hm : At .u8 w B A m)
    (hlen : l.length + m.length ≤ 1000000) (hbase : base ≤ w.heap.size)
    (h : ∀ v' w', w'.ownsRow base 5 1 v' (l ++ m).length (cn .u8 (l ++ m)) → w.grownBy w' v.ownBlock → wpList Tryd.prog ops Q rest (a.put o.dst v') w') : wpList Tryd.prog ops Q (o :: rest) a w := by
  obtain ⟨i0, hi0, hz0, hz1, hz2⟩ := info_parts infoU8
  subst hn
  cases A with
  | none =>
    have hc := hA rfl
    subst hc
    have hmn := hm.none_nil
    subst hmn
    refine wpList_append_own_none hgd s x 22 ho base 5 i0 1 Tryd.underlying22 hi0 v l.length (cn .u8 l) hs hown hx ?_
    exact h v w (by simpa using hown) (World.grownBy.refl w _)
  | some ad =>
    refine wpList_append_own w hgd s x 22 ho base 5 i0 _ 1 1 Tryd.underlying22 hi0 hz0 hz1 hz2 rfl (by decide) v l.length (cn .u8 l) hs hown ad m.length c (cn .u8 m) hx (by simp [cn]) hm.cells (cn_one _ _) ?_ ?_ hbase ?_
    · unfold maxLen; omega
    · omega
    · intro v' w' h1 h2 _
      rw [cn_app] at h1
      exact h v' w' (by simpa using h1) h2
/-- A whole array read in a region that keeps still. -/
theorem wpStill_load {ops : Array Oper} {rest : List Oper} {o : Oper} {a : Act} {w : World} {Q : Act → Prop} (hgd : o.guard = none) (ty : TypeId) (x : Operand) (ho : o.op = .load ty x)
    (g : Nat) (hx : a.eval x = .pointer (some ⟨g, 0, none⟩)) (cs : Array Value) (hr : (loadVar ty ⟨g, 0, none⟩).run Tryd.prog w = .ok (.agg cs) w)
    (h : wpStill Tryd.prog ops w Q rest (a.put o.dst (.agg cs))) : wpStill Tryd.prog ops w Q (o :: rest) a := by
  refine wpStill_step fun K hK => ?_
  have hw : Region.wanted o (yielded ops a.tmps) = true := by simp [Region.wanted, hgd]
  rw [if_pos hw]
  unfold Oper.still execOp
  simp only [ho, hx, Instr.loadAt, Instr.sureAddr, Sem.run_bind, Sem.run_pure, Result.andThen_ok, hr]
  exact ⟨rfl, hK _ h⟩
end Go.Proofs.YthaecckneblecaaDoor
