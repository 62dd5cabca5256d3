/- Rows of fields of the call's own; appends onto them; slice expressions over them. From stage 6 on. -/
import Derived.Test.YtjohchedckmadaaLFld
import Derived.Laws.AppendOwnNone
import Derived.Laws.OwnMore
import Derived.OwnWalk
import Derived.ArgAppend
namespace Go.Proofs.Ytjohchedckmadaa
open Go.RowKit

/-- The cells of fields. -/
def cF : List Fld → List Value
  | [] => []
  | f :: r => .string f.name :: .string f.value :: .bool f.never :: cF r
theorem cF_len : ∀ l, (cF l).length = l.length * 3
  | [] => rfl
  | f :: r => by rw [cF, List.length_cons, List.length_cons, List.length_cons, cF_len r, List.length_cons]; omega
theorem cF_app : ∀ a b, cF (a ++ b) = cF a ++ cF b
  | [], b => rfl
  | f :: r, b => by rw [List.cons_append, cF, cF, cF_app r b]; rfl
theorem cF_at : ∀ (l : List Fld) (i : Nat) (h : i < l.length), (cF l)[i * 3]? = some (.string l[i].name) ∧ (cF l)[i * 3 + 1]? = some (.string l[i].value) ∧ (cF l)[i * 3 + 2]? = some (.bool l[i].never)
  | [], i, h => by simp at h
  | f :: r, 0, h => ⟨rfl, rfl, rfl⟩
  | f :: r, i + 1, h => by
    have ih := cF_at r i (by simpa using h)
    rw [cF, show (i + 1) * 3 = i * 3 + 3 by omega]
    exact ih
theorem cF_one : ∀ (l : List Fld), ∀ u ∈ cF l, u.oneCell' = true
  | [], u, h => by simp [cF] at h
  | f :: r, u, h => by
    rw [cF, List.mem_cons, List.mem_cons, List.mem_cons] at h
    rcases h with rfl | rfl | rfl | h
    · rfl
    · rfl
    · rfl
    · exact cF_one r u h
theorem cF_set : ∀ (l : List Fld) (i : Nat) (h : i < l.length) (b : Bool), (cF l).set (i * 3 + 2) (.bool b) = cF (l.set i ⟨l[i].name, l[i].value, b⟩)
  | [], i, h, _ => by simp at h
  | f :: r, 0, h, b => rfl
  | f :: r, i + 1, h, b => by
    have ih := cF_set r i (by simpa using h) b
    rw [cF, show (i + 1) * 3 + 2 = i * 3 + 2 + 1 + 1 + 1 by omega]
    simp only [List.set_cons_succ, List.getElem_cons_succ]
    rw [ih, cF]
theorem plain_add (b o j : Nat) : (⟨b, o, none⟩ : Addr).add j = ⟨b, o + j, none⟩ := by unfold Addr.add; split <;> simp_all
theorem AtF.cells {w : World} {B : Nat} {ad : Addr} {l : List Fld} (h : AtF w B (some ad) l) : ∀ j u, (cF l)[j]? = some u → w.cell? (ad.add j) = some u := by
  intro j u hj
  have hjl : j < l.length * 3 := by
    rcases Nat.lt_or_ge j (l.length * 3) with h | h
    · exact h
    · rw [List.getElem?_eq_none (by rw [cF_len]; exact h)] at hj; cases hj
  obtain ⟨b, o, e, hB, hc⟩ := h.pos (by omega)
  injection e with e
  subst e
  rw [plain_add]
  obtain ⟨c0, c1, c2⟩ := hc (j / 3) (by omega)
  obtain ⟨d0, d1, d2⟩ := cF_at l (j / 3) (by omega)
  rcases (show j % 3 = 0 ∨ j % 3 = 1 ∨ j % 3 = 2 by omega) with r | r | r
  · rw [show j = j / 3 * 3 by omega] at hj
    rw [show o + j = o + j / 3 * 3 by omega, c0, ← d0, hj]
  · rw [show j = j / 3 * 3 + 1 by omega] at hj
    rw [show o + j = o + j / 3 * 3 + 1 by omega, c1, ← d1, hj]
  · rw [show j = j / 3 * 3 + 2 by omega] at hj
    rw [show o + j = o + j / 3 * 3 + 2 by omega, c2, ← d2, hj]
theorem AtF.of_own {w : World} {B n c : Nat} {A : Option Addr} {l : List Fld} (h : w.ownsRow B 33 3 (.slice A n c) n (cF l)) : AtF w w.heap.size A l := fun hl => by
  have hlen : l.length = n := by have := h.1; rw [cF_len] at this; omega
  have hpos : 0 < l.length := List.length_pos_iff.2 hl
  rcases h.2 with ⟨he, hn⟩ | ⟨g, cap, cur, he, hB, hh, _⟩
  · omega
  · injection he with hA _ hc
    subst hA
    subst hc
    refine ⟨g, 0, rfl, ?_, fun i hi => ?_⟩
    · rcases Nat.lt_or_ge g w.heap.size with hlt | hge
      · exact hlt
      · rw [Array.getElem?_eq_none hge] at hh; cases hh
    · obtain ⟨d0, d1, d2⟩ := cF_at l i hi
      rw [Nat.zero_add, h.cellAt (i * 3) (by omega), h.cellAt (i * 3 + 1) (by omega), h.cellAt (i * 3 + 2) (by omega)]
      exact ⟨d0, d1, d2⟩
theorem rowF_shape {w : World} {B T S : Nat} {v : Value} {n : Nat} {xs : List Value} (h : w.ownsRow B T S v n xs) : ∃ A c, v = .slice A n c ∧ n ≤ c ∧ (A = none → c = 0) := by
  rcases h.2 with ⟨rfl, hn⟩ | ⟨g, cap, _, rfl, _, _, hc, _⟩
  · exact ⟨none, 0, by rw [hn], by omega, fun _ => rfl⟩
  · exact ⟨_, cap, rfl, hc, fun e => by cases e⟩
theorem rowF_block {w : World} {B T S : Nat} {v : Value} {n : Nat} {xs : List Value} (h : w.ownsRow B T S v n xs) : ∀ k, v.ownBlock = some k → B ≤ k := by
  intro k hk
  rcases h.2 with ⟨rfl, hn⟩ | ⟨g, cap, _, rfl, hB, _⟩
  · cases hk
  · injection hk with hk
    subst hk
    exact hB
theorem rowF_keep {wr w' : World} {B T S : Nat} {v : Value} {n : Nat} {xs : List Value} (h : wr.ownsRow B T S v n xs) (hb : Below wr.heap.size wr w') : w'.ownsRow B T S v n xs := by
  refine ⟨h.1, ?_⟩
  rcases h.2 with h0 | ⟨g, cap, cur, hv, hB, hh, r⟩
  · exact .inl h0
  · refine .inr ⟨g, cap, cur, hv, hB, ?_, r⟩
    rw [hb.block g ?_, hh]
    rcases Nat.lt_or_ge g wr.heap.size with hlt | hge
    · exact hlt
    · rw [Array.getElem?_eq_none hge] at hh; cases hh
theorem rowF_form {w : World} {B T S N : Nat} {v : Value} {xs : List Value} (h : w.ownsRow B T S v N xs) (hl : 0 < N) : ∃ g c, v = .slice (some ⟨g, 0, none⟩) N c ∧ B ≤ g ∧ N ≤ c ∧ g < w.heap.size := by
  rcases h.2 with ⟨_, hn⟩ | ⟨g, cap, _, hv, hB, hh, hc, _⟩
  · omega
  · refine ⟨g, cap, hv, hB, hc, ?_⟩
    rcases Nat.lt_or_ge g w.heap.size with hlt | hge
    · exact hlt
    · rw [Array.getElem?_eq_none hge] at hh; cases hh
theorem infoFd : (Try.prog.info? 33).map (fun i => (i.zero, i.size, i.bytes)) = some (some (.agg #[.string ⟨#[]⟩, .string ⟨#[]⟩, .bool false]), 3, 40) := by kernel_rfl
theorem rowF_empty (w : World) (B : Nat) (hB : B ≤ w.heap.size) : (w.alloc (.cells #[] 33)).ownsRow B 33 3 (.slice (some ⟨w.heap.size, 0, none⟩) 0 0) 0 (cF []) :=
  ⟨rfl, .inr ⟨w.heap.size, 0, #[], rfl, hB, heap_alloc_new w _, Nat.le_refl _, Nat.zero_le _, rfl, rfl⟩⟩
/-- A list of fields appended onto a row of the call's own. -/
theorem wpList_append_F {w : World} {ops : Array Oper} {rest : List Oper} {o : Oper} {a : Act} {Q : Exit → Act → World → Prop} (hgd : o.guard = none) (s x : Operand)
    (ho : o.op = .call { callee := .builtin .append, args := #[s, x], argTypes := #[43, 43] }) (base : Nat)
    (v : Value) (l : List Fld) (hs : a.eval s = v) (hown : w.ownsRow base 33 3 v l.length (cF l))
    (A : Option Addr) (m : List Fld) (n c : Nat) (hn : m.length = n) (hx : a.eval x = .slice A n c) (hA : A = none → c = 0) (B : Nat) (hm : AtF w B A m)
    (hlen : l.length + m.length ≤ 1000000) (hbase : base ≤ w.heap.size)
    (h : ∀ v' w', w'.ownsRow base 33 3 v' (l ++ m).length (cF (l ++ m)) → w.grownBy w' v.ownBlock → wpList Try.prog ops Q rest (a.put o.dst v') w') : wpList Try.prog ops Q (o :: rest) a w := by
  obtain ⟨i0, hi0, hz0, hz1, hz2⟩ := info_parts infoFd
  subst hn
  cases A with
  | none =>
    have hc := hA rfl
    subst hc
    have hmn : m = [] := by
      rcases m with _ | ⟨x, r⟩
      · rfl
      · obtain ⟨b, o, e, _⟩ := hm (by simp)
        cases e
    subst hmn
    refine wpList_append_own_none hgd s x 43 ho base 33 i0 3 Try.underlying43 hi0 v l.length (cF l) hs hown hx ?_
    exact h v w (by simpa using hown) (World.grownBy.refl w _)
  | some ad =>
    refine wpList_append_own w hgd s x 43 ho base 33 i0 _ 3 40 Try.underlying43 hi0 hz0 hz1 hz2 rfl (by decide) v l.length (cF l) hs hown ad m.length c (cF m) hx (cF_len m) hm.cells (cF_one _) ?_ ?_ hbase ?_
    · unfold maxLen; omega
    · omega
    · intro v' w' h1 h2 _
      rw [← cF_app] at h1
      exact h v' w' (by simpa using h1) h2
theorem elemFs : Try.prog.underlying 43 = some (.slice (Try.prog.elem 43)) := by kernel_rfl
theorem sizeFd (w : World) : (sizeOf (Try.prog.elem 43)).run Try.prog w = .ok 3 w := by kernel_rfl
/-- The address at which a list of fields begins that is cut at q. -/
def cutF (A : Option Addr) (c q : Nat) : Option Addr := if c = q then A else A.map (·.add (q * 3))
theorem sliceF_h (A : Option Addr) (n c q : Nat) (w : World) (h : q ≤ c) : (Instr.sliceAt 43 (.slice A n c) none (some (.int .i64 q)) none).run Try.prog w = .ok (.slice (cutF A c 0) q c) w := by
  rw [run_sliceAt_slice w 43 _ _ _ _ elemFs, run_slice_h w 43 A n c elemFs .i64 q (by omega) (by omega), sizeFd]
  simp [sliced, cutF, Result.andThen]
theorem sliceF_l (A : Option Addr) (n c q r : Nat) (w : World) (h : q ≤ n) (hr : n - q = r) : (Instr.sliceAt 43 (.slice A n c) (some (.int .i64 q)) none none).run Try.prog w = .ok (.slice (cutF A c q) r (c - q)) w := by
  subst hr
  rw [run_sliceAt_slice w 43 _ _ _ _ elemFs, run_slice_l w 43 A n c elemFs .i64 q (by omega) (by omega), sizeFd]
  simp [sliced, cutF, Result.andThen]
theorem cutF_none {A : Option Addr} {c q : Nat} (h : A = none → c = 0) : cutF A c q = none → c - q = 0 := by
  intro hn
  unfold cutF at hn
  split at hn
  · omega
  · rw [Option.map_eq_none_iff] at hn
    have := h hn
    omega
theorem AtF.cut {w : World} {B c q : Nat} {A : Option Addr} {l l' : List Fld} (h : AtF w B A l) (hc : l.length ≤ c) (hl : ∀ i, i < l'.length → q + i < l.length ∧ l'[i]? = l[q + i]?) : AtF w B (cutF A c q) l' := fun hne => by
  have hpos : 0 < l'.length := List.length_pos_iff.2 hne
  have h0 := (hl 0 hpos).1
  obtain ⟨b, o, rfl, hB, hcell⟩ := h (by rintro rfl; simp at h0)
  refine ⟨b, o + q * 3, ?_, hB, fun i hi => ?_⟩
  · rw [cutF, if_neg (by omega)]
    simp [plain_add]
  · obtain ⟨h1, h2⟩ := hl i hi
    rw [List.getElem?_eq_getElem hi, List.getElem?_eq_getElem h1] at h2
    injection h2 with h2
    rw [show o + q * 3 + i * 3 = o + (q + i) * 3 by omega, h2]
    exact hcell (q + i) h1
theorem AtF.take {w : World} {B c q : Nat} {A : Option Addr} {l : List Fld} (h : AtF w B A l) (hc : l.length ≤ c) : AtF w B (cutF A c 0) (l.take q) :=
  h.cut (q := 0) hc (fun i hi => by
    have hi' : i < q ∧ i < l.length := by simp at hi; omega
    exact ⟨by omega, by rw [Nat.zero_add, List.getElem?_take, if_pos hi'.1]⟩)
theorem AtF.drop {w : World} {B c q : Nat} {A : Option Addr} {l : List Fld} (h : AtF w B A l) (hc : l.length ≤ c) : AtF w B (cutF A c q) (l.drop q) :=
  h.cut (q := q) hc (fun i hi => by
    have hi' : q + i < l.length := by simp at hi; omega
    exact ⟨hi', by rw [List.getElem?_drop]⟩)
end Go.Proofs.Ytjohchedckmadaa
