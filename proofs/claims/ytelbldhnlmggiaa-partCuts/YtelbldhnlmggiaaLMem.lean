/- Words for memory, of every stage: cells of numbers that lie somewhere; rows of the call's own; appends onto them. -/
import Derived.Test.YtelbldhnlmggiaaRows
import Derived.Laws.AppendOwnNone
import Derived.StillTailTactics
import Derived.Laws.MakeOwn
import Derived.Laws.CopyOwn
import Derived.OwnWalk
import Derived.ArgAppend
import Derived.WalkKit
import Derived.WalkSpells
import Derived.WalkLawsBesides
import Derived.Laws.BitsAllLaws
import Derived.IntWalk
import Derived.RegionTactic
import Derived.Deep.QuietTactic
import Derived.BigQuiet
import Derived.Lib.Hide
namespace Go.Proofs.Ytelbldhnlmggiaa
open Go.RowKit

/-- The cells of numbers. -/
def cn (k : IntKind) (l : List Nat) : List Value := l.map fun (x : Nat) => Value.int k (x : Int)
theorem cn_len (k : IntKind) (l : List Nat) : (cn k l).length = l.length := by simp [cn]
theorem cn_at (k : IntKind) (l : List Nat) (i : Nat) (h : i < l.length) : (cn k l)[i]? = some (.int k (l[i] : Int)) := by simp [cn, h]
theorem cn_set (k : IntKind) (l : List Nat) (i x : Nat) : (cn k l).set i (.int k (x : Int)) = cn k (l.set i x) := by simp [cn]
theorem cn_one (k : IntKind) (l : List Nat) : ∀ u ∈ cn k l, u.oneCell' = true := by
  intro u hu; simp [cn] at hu; obtain ⟨y, _, rfl⟩ := hu; rfl
/-- The numbers l (of kind k) lie at A, below block B; where there is none, A is whatever. -/
def At (k : IntKind) (w : World) (B : Nat) (A : Option Addr) (l : List Nat) : Prop :=
  l ≠ [] → ∃ b o, A = some ⟨b, o, none⟩ ∧ b < B ∧ ∀ i (h : i < l.length), w.cell? ⟨b, o + i, none⟩ = some (.int k (l[i] : Int))
section
variable {k : IntKind} {w w' : World} {B C : Nat} {A : Option Addr} {l : List Nat}
theorem At.below (h : At k w B A l) (hb : Below C w w') (hC : B ≤ C) : At k w' B A l := fun hl => by
  obtain ⟨b, o, e, hB, hc⟩ := h hl
  exact ⟨b, o, e, hB, fun i hi => (hb.cell (p := ⟨b, o + i, none⟩) (by show b < C; omega)).trans (hc i hi)⟩
theorem At.more (h : At k w B A l) (hC : B ≤ C) : At k w C A l := fun hl => by
  obtain ⟨b, o, e, hB, hc⟩ := h hl
  exact ⟨b, o, e, by omega, hc⟩
theorem At.pos (h : At k w B A l) (hl : 0 < l.length) : ∃ b o, A = some ⟨b, o, none⟩ ∧ b < B ∧ ∀ i (h : i < l.length), w.cell? ⟨b, o + i, none⟩ = some (.int k (l[i] : Int)) :=
  h (List.length_pos_iff.1 hl)
theorem At.of_own {T n c : Nat} (h : w.ownsRow B T 1 (.slice A n c) n (cn k l)) : At k w w.heap.size A l := fun hl => by
  have hlen : l.length = n := by simpa [cn] using h.1
  have hpos : 0 < l.length := List.length_pos_iff.2 hl
  rcases h.2 with ⟨he, hn⟩ | ⟨g, cap, cur, he, hB, hh, _⟩
  · omega
  · injection he with hA _ hc
    subst hA
    subst hc
    refine ⟨g, 0, rfl, ?_, fun i hi => ?_⟩
    · rcases Nat.lt_or_ge g w.heap.size with hlt | hge
      · exact hlt
      · rw [Array.getElem?_eq_none hge] at hh; cases hh
    · rw [Nat.zero_add, h.cellAt i (by omega)]
      simp [cn, hi]
theorem At.new (w : World) (l : List Nat) (T : TypeId) (fr : Nat × Nat) : At k (w.alloc (.cells (cn k l).toArray T fr)) (w.alloc (.cells (cn k l).toArray T fr)).heap.size (some ⟨w.heap.size, 0, none⟩) l := fun _ => by
  refine ⟨w.heap.size, 0, rfl, by simp, fun i hi => ?_⟩
  rw [cell_of_row _ w.heap.size (0 + i) _ T fr (heap_alloc_new w _)]
  simp [cn, hi]
end
theorem own_shape {w : World} {B T : Nat} {v : Value} {n : Nat} {xs : List Value} (h : w.ownsRow B T 1 v n xs) : ∃ A c, v = .slice A n c := by
  rcases h.2 with ⟨rfl, hn⟩ | ⟨g, cap, _, rfl, _⟩
  · exact ⟨none, 0, by rw [hn]⟩
  · exact ⟨_, cap, rfl⟩
theorem own_block {w : World} {B T : Nat} {v : Value} {n : Nat} {xs : List Value} (h : w.ownsRow B T 1 v n xs) : ∀ k, v.ownBlock = some k → B ≤ k := by
  intro k hk
  rcases h.2 with ⟨rfl, hn⟩ | ⟨g, cap, _, rfl, hB, _⟩
  · cases hk
  · injection hk with hk
    subst hk
    exact hB
theorem own_keep {wr w' : World} {B T : Nat} {v : Value} {n : Nat} {xs : List Value} (h : wr.ownsRow B T 1 v n xs) (hb : Below wr.heap.size wr w') : w'.ownsRow B T 1 v n xs := by
  refine ⟨h.1, ?_⟩
  rcases h.2 with h0 | ⟨g, cap, cur, hv, hB, hh, r⟩
  · exact .inl h0
  · refine .inr ⟨g, cap, cur, hv, hB, ?_, r⟩
    rw [hb.block g ?_, hh]
    rcases Nat.lt_or_ge g wr.heap.size with hlt | hge
    · exact hlt
    · rw [Array.getElem?_eq_none hge] at hh; cases hh
theorem ret_int {k : IntKind} {a b : Int} (h : a = b) : Ending.returned (.int k a) = .returned (.int k b) := by rw [h]
theorem ret_bool {a b : Bool} (h : a = b) : Ending.returned (.bool a) = .returned (.bool b) := by rw [h]
theorem infoU8 : (Try.prog.info? 5).map (fun i => (i.zero, i.size, i.bytes)) = some (some (.int .u8 0), 1, 1) := by kernel_rfl
theorem cn_app (k : IntKind) (l m : List Nat) : cn k l ++ cn k m = cn k (l ++ m) := by simp [cn]
theorem cn_snoc (k : IntKind) (l : List Nat) (x : Nat) : cn k l ++ [.int k (x : Int)] = cn k (l ++ [x]) := by simp [cn]
theorem At.cells {k : IntKind} {w : World} {B : Nat} {ad : Addr} {l : List Nat} (h : At k w B (some ad) l) : ∀ j u, (cn k l)[j]? = some u → w.cell? (ad.add j) = some u := by
  intro j u hj
  have hjl : j < l.length := by
    rcases Nat.lt_or_ge j l.length with h | h
    · exact h
    · rw [List.getElem?_eq_none (by rw [cn_len]; exact h)] at hj; cases hj
  obtain ⟨b, o, e, hB, hc⟩ := h (by rintro rfl; simp at hjl)
  injection e with e
  subst e
  have hplain : (⟨b, o, none⟩ : Addr).add j = ⟨b, o + j, none⟩ := by unfold Addr.add; split <;> simp_all
  rw [hplain, hc j hjl]
  rw [cn_at k l j hjl] at hj
  exact hj
theorem At.none_nil {k : IntKind} {w : World} {B : Nat} {l : List Nat} (h : At k w B none l) : l = [] := by
  rcases l with _ | ⟨x, r⟩
  · rfl
  · obtain ⟨b, o, e, _⟩ := h (by simp)
    cases e
theorem own_empty (w : World) (B : Nat) (hB : B ≤ w.heap.size) : (w.alloc (.cells #[] 5)).ownsRow B 5 1 (.slice (some ⟨w.heap.size, 0, none⟩) 0 0) 0 [] :=
  ⟨rfl, .inr ⟨w.heap.size, 0, #[], rfl, hB, heap_alloc_new w _, Nat.le_refl _, Nat.zero_le _, rfl, rfl⟩⟩
theorem new_cells (w : World) (cs : List Value) (t : TypeId) : ∀ j u, cs[j]? = some u → (w.alloc (.cells cs.toArray t)).cell? ((⟨w.heap.size, 0, none⟩ : Addr).add j) = some u := by
  intro j u hj
  have hplain : (⟨w.heap.size, 0, none⟩ : Addr).add j = ⟨w.heap.size, j, none⟩ := by unfold Addr.add; split <;> simp_all
  rw [hplain, cell_of_row _ w.heap.size j _ t _ (heap_alloc_new w _)]
  simpa using hj
theorem own_cap {w : World} {B T : Nat} {A : Option Addr} {n c : Nat} {xs : List Value} (h : w.ownsRow B T 1 (.slice A n c) n xs) : n ≤ c := by
  rcases h.2 with ⟨hv, hn⟩ | ⟨_, _, _, hv, _, _, hnc, _⟩
  · omega
  · injection hv with _ _ hv
    omega
theorem wpList_append_at {w : World} {ops : Array Oper} {rest : List Oper} {o : Oper} {a : Act} {Q : Exit → Act → World → Prop} (hgd : o.guard = none) (s x : Operand)
    (ho : o.op = .call { callee := .builtin .append, args := #[s, x], argTypes := #[25, 25] }) (base : Nat)
    (v : Value) (l : List Nat) (hs : a.eval s = v) (hown : w.ownsRow base 5 1 v l.length (cn .u8 l))
    (A : Option Addr) (m : List Nat) (n c : Nat) (hn : m.length = n) (hx : a.eval x = .slice A n c) (hA : A = none → c = 0) (B : Nat) (hm : At .u8 w B A m)
    (hlen : l.length + m.length ≤ 1000000) (hbase : base ≤ w.heap.size)
    (h : ∀ v' w', w'.ownsRow base 5 1 v' (l ++ m).length (cn .u8 (l ++ m)) → w.grownBy w' v.ownBlock → wpList Try.prog ops Q rest (a.put o.dst v') w') : wpList Try.prog ops Q (o :: rest) a w := by
  obtain ⟨i0, hi0, hz0, hz1, hz2⟩ := info_parts infoU8
  subst hn
  cases A with
  | none =>
    have hc := hA rfl
    subst hc
    have hmn := hm.none_nil
    subst hmn
    refine wpList_append_own_none hgd s x 25 ho base 5 i0 1 Try.underlying25 hi0 v l.length (cn .u8 l) hs hown hx ?_
    exact h v w (by simpa using hown) (World.grownBy.refl w _)
  | some ad =>
    refine wpList_append_own w hgd s x 25 ho base 5 i0 _ 1 1 Try.underlying25 hi0 hz0 hz1 hz2 rfl (by decide) v l.length (cn .u8 l) hs hown ad m.length c (cn .u8 m) hx (by simp [cn]) hm.cells (cn_one _ _) ?_ ?_ hbase ?_
    · unfold maxLen; omega
    · omega
    · intro v' w' h1 h2 _
      rw [cn_app] at h1
      exact h v' w' (by simpa using h1) h2
/-- The same where the operation is guarded, and its guard holds. -/
theorem wpList_append_want {w : World} {ops : Array Oper} {rest : List Oper} {o : Oper} {a : Act} {Q : Exit → Act → World → Prop} (hw : Region.wanted o (yielded ops a.tmps) = true) (s x : Operand)
    (ho : o.op = .call { callee := .builtin .append, args := #[s, x], argTypes := #[25, 25] }) (base : Nat)
    (v : Value) (l : List Nat) (hs : a.eval s = v) (hown : w.ownsRow base 5 1 v l.length (cn .u8 l))
    (ad : Addr) (m : List Nat) (n c : Nat) (hn : m.length = n) (hx : a.eval x = .slice (some ad) n c) (B : Nat) (hm : At .u8 w B (some ad) m)
    (hlen : l.length + m.length ≤ 1000000) (hbase : base ≤ w.heap.size)
    (h : ∀ v' w', w'.ownsRow base 5 1 v' (l ++ m).length (cn .u8 (l ++ m)) → w.grownBy w' v.ownBlock → wpList Try.prog ops Q rest (a.put o.dst v') w') : wpList Try.prog ops Q (o :: rest) a w := by
  obtain ⟨i0, hi0, hz0, hz1, hz2⟩ := info_parts infoU8
  subst hn
  refine wpList_step fun K hK => ?_
  rw [if_pos hw]
  refine wp_append_own w s x 25 ho base 5 i0 _ 1 1 Try.underlying25 hi0 hz0 hz1 hz2 rfl (by decide) v l.length (cn .u8 l) hs hown ad m.length c (cn .u8 m) hx (by simp [cn]) hm.cells (cn_one _ _) ?_ ?_ hbase ?_
  · unfold maxLen; omega
  · omega
  · intro v' w' h1 h2 _
    rw [cn_app] at h1
    exact hK _ _ (h v' w' (by simpa using h1) h2)
/-- A whole array read in a region that keeps still. -/
theorem wpStill_load {ops : Array Oper} {rest : List Oper} {o : Oper} {a : Act} {w : World} {Q : Act → Prop} (hgd : o.guard = none) (ty : TypeId) (x : Operand) (ho : o.op = .load ty x)
    (g : Nat) (hx : a.eval x = .pointer (some ⟨g, 0, none⟩)) (cs : Array Value) (hr : (loadVar ty ⟨g, 0, none⟩).run Try.prog w = .ok (.agg cs) w)
    (h : wpStill Try.prog ops w Q rest (a.put o.dst (.agg cs))) : wpStill Try.prog ops w Q (o :: rest) a := by
  refine wpStill_step fun K hK => ?_
  have hw : Region.wanted o (yielded ops a.tmps) = true := by simp [Region.wanted, hgd]
  rw [if_pos hw]
  unfold Oper.still execOp
  simp only [ho, hx, Instr.loadAt, Instr.sureAddr, Sem.run_bind, Sem.run_pure, Result.andThen_ok, hr]
  exact ⟨rfl, hK _ h⟩
theorem own_none {w : World} {B T : Nat} {A : Option Addr} {n c : Nat} {xs : List Value} (h : w.ownsRow B T 1 (.slice A n c) n xs) : A = none → c = 0 := by
  rintro rfl
  rcases h.2 with ⟨hv, _⟩ | ⟨_, _, _, hv, _⟩
  · injection hv
  · cases hv
theorem own_form {w : World} {B T N : Nat} {v : Value} {xs : List Value} (h : w.ownsRow B T 1 v N xs) (hl : 0 < N) : ∃ g c, v = .slice (some ⟨g, 0, none⟩) N c ∧ B ≤ g ∧ w.ownsRow B T 1 (.slice (some ⟨g, 0, none⟩) N c) N xs := by
  rcases h.2 with ⟨_, hn⟩ | ⟨g, cap, _, hv, hB, _⟩
  · omega
  · subst hv
    exact ⟨g, cap, rfl, hB, h⟩
theorem At.far {k : IntKind} {w : World} {B : Nat} {A : Option Addr} {l : List Nat} (h : At k w B A l) {p : Addr} (hp : B ≤ p.block) (u : Value) : At k (w.setCell p u) B A l := fun hl => by
  obtain ⟨b, o, e, hB, hc⟩ := h hl
  exact ⟨b, o, e, hB, fun i hi => (World.cell?_setCell_other w p ⟨b, o + i, none⟩ u (by rintro rfl; simp at hp; omega)).trans (hc i hi)⟩
def mLen : Value → Nat
  | .slice _ n _ => n
  | _ => 0
theorem below_app {w wr w2 : World} {T : Nat} {A : Option Addr} {n c : Nat} {xs : List Value} {o : Obj} (hb : Below w.heap.size w wr) (hown : wr.ownsRow w.heap.size T 1 (.slice A n c) n xs) (hg : (wr.alloc o).grownBy w2 (Value.ownBlock (.slice A n c))) : Below w.heap.size w w2 :=
  (hb.alloc hb.size o).grown hg (by have := hb.size; simp; omega) (own_block hown)
theorem cn_all (k : IntKind) (l : List Nat) : (cn k l).toArray.all (·.oneCell') = true := by
  rw [Array.all_eq_true_iff_forall_mem]
  intro v hv
  exact cn_one k l v (by simpa using hv)
theorem cellFar (w : World) (g i j : Nat) (u v : Value) (hij : i ≠ j) (h : w.cell? ⟨g, i, none⟩ = some v) : (w.setCell ⟨g, j, none⟩ u).cell? ⟨g, i, none⟩ = some v :=
  (World.cell?_setCell_other w ⟨g, j, none⟩ ⟨g, i, none⟩ u (by rintro e; injection e with _ e; exact hij e.symm)).trans h
/-- A row of the call's own, from block B on, with the bytes s; nothing below B has turned. -/
def Row (B : Nat) (w : World) (s : List Nat) (v : Value) (w' : World) : Prop := w'.ownsRow B 5 1 v s.length (cn .u8 s) ∧ Below B w w'
def RowPost (B : Nat) (w : World) (s : List Nat) (e : Ending) (w' : World) : Prop := ∃ v, e = .returned v ∧ Row B w s v w'
theorem own_more {w : World} {B C T : Nat} {v : Value} {n : Nat} {xs : List Value} (h : w.ownsRow C T 1 v n xs) (hB : B ≤ C) : w.ownsRow B T 1 v n xs := by
  refine ⟨h.1, ?_⟩
  rcases h.2 with h0 | ⟨g, cap, cur, hv, hg, r⟩
  · exact .inl h0
  · exact .inr ⟨g, cap, cur, hv, by omega, r⟩
/-- A slice expression in a region that keeps still. -/
theorem wpStill_slice {ops : Array Oper} {rest : List Oper} {o : Oper} {a : Act} {w : World} {Q : Act → Prop} (hgd : o.guard = none) (ty : TypeId) (x : Operand) (lo hi : Option Operand) (ho : o.op = .slice ty x lo hi none)
    (X : Value) (hx : a.eval x = X) (LO HI : Option Value) (hlo : lo.map a.eval = LO) (hhi : hi.map a.eval = HI) (v : Value) (hr : (Instr.sliceAt ty X LO HI none).run Try.prog w = .ok v w)
    (h : wpStill Try.prog ops w Q rest (a.put o.dst v)) : wpStill Try.prog ops w Q (o :: rest) a := by
  refine wpStill_step fun K hK => ?_
  have hw : Region.wanted o (yielded ops a.tmps) = true := by simp [Region.wanted, hgd]
  rw [if_pos hw]
  unfold Oper.still execOp
  simp only [ho, hx, hlo, hhi, Option.map_none, Sem.run_bind, hr, Result.andThen_ok, Sem.run_pure]
  exact ⟨rfl, hK _ h⟩
/-- The address at which a slice begins that is cut at q. -/
def cutAt (A : Option Addr) (c q : Nat) : Option Addr := if c = q then A else A.map (·.add q)
theorem At.cut {w : World} {B c q : Nat} {A : Option Addr} {l l' : List Nat} (h : At .u8 w B A l) (hc : l.length ≤ c) (hl : ∀ i, i < l'.length → q + i < l.length ∧ l'[i]? = l[q + i]?) : At .u8 w B (cutAt A c q) l' := fun hne => by
  have hpos : 0 < l'.length := List.length_pos_iff.2 hne
  have h0 := (hl 0 hpos).1
  obtain ⟨b, o, rfl, hB, hcell⟩ := h (by rintro rfl; simp at h0)
  have hplain : (⟨b, o, none⟩ : Addr).add q = ⟨b, o + q, none⟩ := by unfold Addr.add; split <;> simp_all
  refine ⟨b, o + q, ?_, hB, fun i hi => ?_⟩
  · rw [cutAt, if_neg (by omega)]
    simp [hplain]
  · obtain ⟨h1, h2⟩ := hl i hi
    rw [List.getElem?_eq_getElem hi, List.getElem?_eq_getElem h1] at h2
    injection h2 with h2
    rw [show o + q + i = o + (q + i) by omega, hcell (q + i) h1, h2]
theorem cutAt_none {A : Option Addr} {c q : Nat} (h : A = none → c = 0) : cutAt A c q = none → c - q = 0 := by
  intro hn
  unfold cutAt at hn
  split at hn
  · omega
  · rw [Option.map_eq_none_iff] at hn
    have := h hn
    omega
theorem Row.at {B : Nat} {w w' : World} {s : List Nat} {v : Value} (h : Row B w s v w') : ∃ A c, v = .slice A s.length c ∧ At .u8 w' w'.heap.size A s ∧ (A = none → c = 0) ∧ s.length ≤ c := by
  obtain ⟨A, c, rfl⟩ := own_shape h.1
  exact ⟨A, c, rfl, At.of_own h.1, own_none h.1, own_cap h.1⟩
theorem RowPost.more {w w1 : World} {s : List Nat} {e : Ending} {w' : World} (h : RowPost w1.heap.size w1 s e w') (hb : Below w.heap.size w w1) : RowPost w.heap.size w s e w' := by
  obtain ⟨v, rfl, h1, h2⟩ := h
  exact ⟨v, rfl, own_more h1 hb.size, hb.trans (h2.mono hb.size)⟩
theorem at_nil (k : IntKind) (w : World) (B : Nat) (A : Option Addr) : At k w B A [] := fun h => absurd rfl h
theorem At.up {k : IntKind} {w w' : World} {A : Option Addr} {l : List Nat} (h : At k w w.heap.size A l) (hb : Below w.heap.size w w') : At k w' w'.heap.size A l := (h.below hb (Nat.le_refl _)).more hb.size
/-- A byte of a row of the call's own is written. -/
theorem own_put {T : TypeId} {k : IntKind} {w : World} {B g n c i x : Nat} {l : List Nat} (h : w.ownsRow B T 1 (.slice (some ⟨g, 0, none⟩) n c) n (cn k l)) : At k (w.setCell ⟨g, i, none⟩ (.int k (x : Int))) (w.setCell ⟨g, i, none⟩ (.int k (x : Int))).heap.size (some ⟨g, 0, none⟩) (l.set i x) := fun hne => by
  have hat := At.of_own h
  have hl : l ≠ [] := by rintro rfl; simp at hne
  obtain ⟨b, o, e, hb, hc⟩ := hat hl
  injection e with e
  injection e with e1 e2
  subst e1 e2
  refine ⟨g, 0, rfl, by simpa [World.setCell] using hb, fun j hj => ?_⟩
  have hj' : j < l.length := by simpa using hj
  have hcj := hc j hj'
  rw [Nat.zero_add] at hcj ⊢
  by_cases hij : i = j
  · subst hij
    rw [World.cell?_setCell_same w ⟨g, i, none⟩ _ hcj]
    simp
  · rw [World.cell?_setCell_other w ⟨g, i, none⟩ ⟨g, j, none⟩ _ (by rintro e; injection e with _ e; exact hij e), hcj]
    simp [hij]
theorem own_free {T : TypeId} {w : World} {B g n c i : Nat} {xs : List Value} (h : w.ownsRow B T 1 (.slice (some ⟨g, 0, none⟩) n c) n xs) : w.frozen? ⟨g, i, none⟩ = false := by
  rcases h.2 with ⟨hv, _⟩ | ⟨g', cap, cur, hv, _, hh, _⟩
  · cases hv
  · injection hv with hv _ _
    injection hv with hv
    injection hv with hv _ _
    subst hv
    exact frozen_of_row w g i _ T hh
theorem own_at {T : TypeId} {k : IntKind} {w : World} {B g n c i : Nat} {l : List Nat} (h : w.ownsRow B T 1 (.slice (some ⟨g, 0, none⟩) n c) n (cn k l)) (hi : i < l.length) : w.cell? ⟨g, i, none⟩ = some (.int k (l[i] : Int)) := by
  obtain ⟨b, o, e, hb, hc⟩ := At.of_own h (by rintro rfl; simp at hi)
  injection e with e
  injection e with e1 e2
  subst e1 e2
  have := hc i hi
  rwa [Nat.zero_add] at this
def Yes (w : World) (e : Ending) (w' : World) : Prop := e = .returned (.bool true) ∧ Below w.heap.size w w'
/-- Reading does not turn the world, but for the tape. -/
def Drawn (v : Value) (w : World) (e : Ending) (w' : World) : Prop := e = .returned v ∧ ∃ n, w' = w.drewN n
end Go.Proofs.Ytelbldhnlmggiaa
