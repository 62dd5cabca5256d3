/- What Read hands back, kept in two new blocks. -/
import Derived.Test.YtelbldhnlmggiaaPtMem
import Derived.Test.YtelbldhnlmggiaaPtPlain
namespace Go.Proofs.Ytelbldhnlmggiaa
open Go.RowKit Fr

theorem lt_of_heapK {w : World} {k : Nat} {o : Obj} (h : w.heap[k]? = some o) : k < w.heap.size := by
  rcases Nat.lt_or_ge k w.heap.size with hlt | hge
  · exact hlt
  · rw [Array.getElem?_eq_none hge] at h; cases h
def kept (W : World) (x0 x1 x2 x3 x4 x5 x6 x7 x8 y0 y1 y2 : Value) : World := (W.alloc (.cells #[x0, x1, x2, x3, x4, x5, x6, x7, x8] 28)).alloc (.cells #[y0, y1, y2] 30)
theorem kept_spec (W : World) (x0 x1 x2 x3 x4 x5 x6 x7 x8 y0 y1 y2 : Value) : (kept W x0 x1 x2 x3 x4 x5 x6 x7 x8 y0 y1 y2).heap[W.heap.size]? = some (.cells #[x0, x1, x2, x3, x4, x5, x6, x7, x8] 28 (0, 0)) ∧ (kept W x0 x1 x2 x3 x4 x5 x6 x7 x8 y0 y1 y2).heap[W.heap.size + 1]? = some (.cells #[y0, y1, y2] 30 (0, 0)) ∧ Below W.heap.size W (kept W x0 x1 x2 x3 x4 x5 x6 x7 x8 y0 y1 y2) ∧ (kept W x0 x1 x2 x3 x4 x5 x6 x7 x8 y0 y1 y2).heap.size = W.heap.size + 1 + 1 := by
  obtain ⟨w1, h1⟩ : ∃ w1, w1 = W.alloc (.cells #[x0, x1, x2, x3, x4, x5, x6, x7, x8] 28) := ⟨_, rfl⟩
  have s1 : w1.heap.size = W.heap.size + 1 := by rw [h1]; simp
  have q1 : w1.heap[W.heap.size]? = some (.cells #[x0, x1, x2, x3, x4, x5, x6, x7, x8] 28 (0, 0)) := by rw [h1]; exact heap_alloc_new W _
  have b1 : Below W.heap.size W w1 := by rw [h1]; exact (Below.refl _ _).alloc (Nat.le_refl _) _
  have b2 : Below w1.heap.size w1 (w1.alloc (.cells #[y0, y1, y2] 30)) := (Below.refl _ _).alloc (Nat.le_refl _) _
  unfold kept
  rw [← h1]
  exact ⟨(b2.block W.heap.size (by omega)).trans q1, by rw [← s1]; exact heap_alloc_new w1 _, b1.trans (b2.mono (by omega)), by simp [s1]⟩
end Go.Proofs.Ytelbldhnlmggiaa
/- Of what Read says: how many settings, what bytes. -/
namespace Fr
theorem sixes_le : ∀ l : List Nat, (sixes l).length ≤ l.length
  | a :: b :: c :: d :: e :: g :: r => by
    have := sixes_le r
    simp only [sixes, List.length_cons]
    omega
  | [] => by simp [sixes]
  | [_] => by simp [sixes]
  | [_, _] => by simp [sixes]
  | [_, _, _] => by simp [sixes]
  | [_, _, _, _] => by simp [sixes]
  | [_, _, _, _, _] => by simp [sixes]
/-- What is read of bytes: bytes, few settings. -/
def Fine (l : List Nat) (r : Prt × Flt) : Prop := (∀ x ∈ r.1.data, x ∈ l) ∧ r.1.sets.length ≤ l.length
theorem fine_wrong (l : List Nat) (c : Nat) (b : Bool) : Fine l (wrong c b) := ⟨fun x hx => by simp [wrong, noPrt] at hx, by simp [wrong, noPrt]⟩
theorem fine_none (l : List Nat) : Fine l (noPrt, noFlt) := ⟨fun x hx => by simp [noPrt] at hx, by simp [noPrt]⟩
theorem fine_padIn (f : Frm) (p q : Nat) (b l : List Nat) (h : ∀ x ∈ b, x ∈ l) : Fine l (padIn f p q b) := by
  unfold padIn
  split
  · exact fine_wrong _ _ _
  · exact ⟨fun x hx => h x (List.mem_of_mem_take hx), by simp⟩
theorem fine_prior (f : Frm) (p q : Nat) (b l : List Nat) (h : ∀ x ∈ b, x ∈ l) : Fine l (prior f p q b) := by
  unfold prior
  split
  · split
    · exact fine_wrong _ _ _
    · exact fine_padIn _ _ _ _ _ (fun x hx => h x (List.mem_of_mem_drop hx))
  · exact fine_padIn _ _ _ _ _ h
theorem fine_padded (f : Frm) : Fine f.body (padded f) := by
  unfold padded
  split
  · exact fine_wrong _ _ _
  · split
    · split
      · exact fine_wrong _ _ _
      · rename_i x r e
        exact fine_prior _ _ _ _ _ (fun y hy => by rw [e]; exact List.mem_cons_of_mem _ hy)
    · exact fine_prior _ _ _ _ _ (fun _ h => h)
theorem fine_ite {l : List Nat} {c : Prop} [Decidable c] {a b : Prt × Flt} (h1 : c → Fine l a) (h2 : ¬ c → Fine l b) : Fine l (if c then a else b) := by
  by_cases h : c
  · rw [if_pos h]; exact h1 h
  · rw [if_neg h]; exact h2 h
theorem fine_bare (l : List Nat) (r : Prt × Flt) (h1 : r.1.data = []) (h2 : r.1.sets = []) : Fine l r := ⟨fun x hx => (by rw [h1] at hx; cases hx), (by rw [h2]; simp)⟩
theorem fine_read (f : Frm) : Fine f.body (Fr.read f) := by
  unfold Fr.read
  refine fine_ite (fun _ => fine_padded f) fun _ => ?_
  refine fine_ite (fun _ => fine_ite (fun _ => fine_wrong _ _ _) fun _ => fine_ite (fun _ => fine_wrong _ _ _) fun _ => fine_none _) fun _ => ?_
  refine fine_ite (fun _ => fine_ite (fun _ => fine_wrong _ _ _) fun _ => fine_ite (fun _ => fine_wrong _ _ _) fun _ => fine_bare _ _ rfl rfl) fun _ => ?_
  refine fine_ite (fun _ => fine_ite (fun _ => fine_wrong _ _ _) fun _ => fine_ite (fun _ => fine_wrong _ _ _) fun _ => ⟨fun x hx => (by cases hx), sixes_le f.body⟩) fun _ => ?_
  refine fine_ite (fun _ => fine_wrong _ _ _) fun _ => ?_
  refine fine_ite (fun _ => fine_ite (fun _ => fine_wrong _ _ _) fun _ => fine_ite (fun _ => fine_wrong _ _ _) fun _ => ⟨fun x hx => hx, Nat.zero_le _⟩) fun _ => ?_
  refine fine_ite (fun _ => fine_ite (fun _ => fine_wrong _ _ _) fun _ => fine_ite (fun _ => fine_wrong _ _ _) fun _ => fine_bare _ _ rfl rfl) fun _ => ?_
  refine fine_ite (fun _ => fine_ite (fun _ => fine_wrong _ _ _) fun _ => fine_ite (fun _ => fine_wrong _ _ _) fun _ => fine_bare _ _ rfl rfl) fun _ => ?_
  refine fine_ite (fun _ => fine_ite (fun _ => fine_wrong _ _ _) fun _ => ⟨fun x hx => hx, Nat.zero_le _⟩) fun _ => fine_none _
end Fr
