/- Steps through a region that draws its order: settings and faults made and stored. -/
import Derived.Test.YtkjdjicchmfljaaZPost
import Derived.Test.YtkjdjicchmfljaaLObj
import Derived.Test.YtkjdjicchmfljaaZRow
import Derived.Deep.RegionHeld3
import Derived.Deep.OwnRows
namespace Go.Proofs.Ytkjdjicchmfljaa
open Go.RowKit Zs

theorem heapZ6 {w : World} {g : Nat} {a0 a1 a2 a3 a4 a5 : Value} (h : w.heap[g]? = some (.cells #[a0, a1, a2, a3, a4, a5] 23 (0, 0))) (x0 x1 x2 x3 x4 x5 : Value) : ((((((w.setCell ⟨g, 0, none⟩ x0).setCell ⟨g, 1, none⟩ x1).setCell ⟨g, 2, none⟩ x2).setCell ⟨g, 3, none⟩ x3).setCell ⟨g, 4, none⟩ x4).setCell ⟨g, 5, none⟩ x5).heap[g]? = some (.cells #[x0, x1, x2, x3, x4, x5] 23 (0, 0)) := by
  have h0 : (w.setCell ⟨g, 0, none⟩ x0).heap[g]? = some (.cells #[x0, a1, a2, a3, a4, a5] 23 (0, 0)) := by
    have := heap_setCell_same _ g 0 _ 23 x0 h
    simpa using this
  have h1 : ((w.setCell ⟨g, 0, none⟩ x0).setCell ⟨g, 1, none⟩ x1).heap[g]? = some (.cells #[x0, x1, a2, a3, a4, a5] 23 (0, 0)) := by
    have := heap_setCell_same _ g 1 _ 23 x1 h0
    simpa using this
  have h2 : (((w.setCell ⟨g, 0, none⟩ x0).setCell ⟨g, 1, none⟩ x1).setCell ⟨g, 2, none⟩ x2).heap[g]? = some (.cells #[x0, x1, x2, a3, a4, a5] 23 (0, 0)) := by
    have := heap_setCell_same _ g 2 _ 23 x2 h1
    simpa using this
  have h3 : ((((w.setCell ⟨g, 0, none⟩ x0).setCell ⟨g, 1, none⟩ x1).setCell ⟨g, 2, none⟩ x2).setCell ⟨g, 3, none⟩ x3).heap[g]? = some (.cells #[x0, x1, x2, x3, a4, a5] 23 (0, 0)) := by
    have := heap_setCell_same _ g 3 _ 23 x3 h2
    simpa using this
  have h4 : (((((w.setCell ⟨g, 0, none⟩ x0).setCell ⟨g, 1, none⟩ x1).setCell ⟨g, 2, none⟩ x2).setCell ⟨g, 3, none⟩ x3).setCell ⟨g, 4, none⟩ x4).heap[g]? = some (.cells #[x0, x1, x2, x3, x4, a5] 23 (0, 0)) := by
    have := heap_setCell_same _ g 4 _ 23 x4 h3
    simpa using this
  have h5 : ((((((w.setCell ⟨g, 0, none⟩ x0).setCell ⟨g, 1, none⟩ x1).setCell ⟨g, 2, none⟩ x2).setCell ⟨g, 3, none⟩ x3).setCell ⟨g, 4, none⟩ x4).setCell ⟨g, 5, none⟩ x5).heap[g]? = some (.cells #[x0, x1, x2, x3, x4, x5] 23 (0, 0)) := by
    have := heap_setCell_same _ g 5 _ 23 x5 h4
    simpa using this
  exact h5
theorem keepsZ6 (w : World) (g : Nat) (x0 x1 x2 x3 x4 x5 : Value) : Keeps (fun k => k = g) w ((((((w.setCell ⟨g, 0, none⟩ x0).setCell ⟨g, 1, none⟩ x1).setCell ⟨g, 2, none⟩ x2).setCell ⟨g, 3, none⟩ x3).setCell ⟨g, 4, none⟩ x4).setCell ⟨g, 5, none⟩ x5) :=
  ((((((Keeps.refl (fun k => k = g) w).setCell (S := fun k => k = g) (p := ⟨g, 0, none⟩) rfl x0).setCell (S := fun k => k = g) (p := ⟨g, 1, none⟩) rfl x1).setCell (S := fun k => k = g) (p := ⟨g, 2, none⟩) rfl x2).setCell (S := fun k => k = g) (p := ⟨g, 3, none⟩) rfl x3).setCell (S := fun k => k = g) (p := ⟨g, 4, none⟩) rfl x4).setCell (S := fun k => k = g) (p := ⟨g, 5, none⟩) rfl x5
theorem heapZ3 {w : World} {g : Nat} {a0 a1 a2 : Value} (h : w.heap[g]? = some (.cells #[a0, a1, a2] 27 (0, 0))) (x0 x1 x2 : Value) : (((w.setCell ⟨g, 0, none⟩ x0).setCell ⟨g, 1, none⟩ x1).setCell ⟨g, 2, none⟩ x2).heap[g]? = some (.cells #[x0, x1, x2] 27 (0, 0)) := by
  have h0 : (w.setCell ⟨g, 0, none⟩ x0).heap[g]? = some (.cells #[x0, a1, a2] 27 (0, 0)) := by
    have := heap_setCell_same _ g 0 _ 27 x0 h
    simpa using this
  have h1 : ((w.setCell ⟨g, 0, none⟩ x0).setCell ⟨g, 1, none⟩ x1).heap[g]? = some (.cells #[x0, x1, a2] 27 (0, 0)) := by
    have := heap_setCell_same _ g 1 _ 27 x1 h0
    simpa using this
  have h2 : (((w.setCell ⟨g, 0, none⟩ x0).setCell ⟨g, 1, none⟩ x1).setCell ⟨g, 2, none⟩ x2).heap[g]? = some (.cells #[x0, x1, x2] 27 (0, 0)) := by
    have := heap_setCell_same _ g 2 _ 27 x2 h1
    simpa using this
  exact h2
theorem keepsZ3 (w : World) (g : Nat) (x0 x1 x2 : Value) : Keeps (fun k => k = g) w (((w.setCell ⟨g, 0, none⟩ x0).setCell ⟨g, 1, none⟩ x1).setCell ⟨g, 2, none⟩ x2) :=
  (((Keeps.refl (fun k => k = g) w).setCell (S := fun k => k = g) (p := ⟨g, 0, none⟩) rfl x0).setCell (S := fun k => k = g) (p := ⟨g, 1, none⟩) rfl x1).setCell (S := fun k => k = g) (p := ⟨g, 2, none⟩) rfl x2
section
variable {ops : Array Oper} {o : Oper} {a : Act} {w : World} {K : Act → World → Prop} {Q : Exit → Act → World → Prop} {E : Prop}
theorem step_aS (hgd : o.guard = none) (ho : o.op = .alloc 23)
    (h : ∀ g w', g = w.heap.size → Below w.heap.size w w' → w'.heap[g]? = some (.cells #[.int .i64 0, .int .i64 0, .int .i64 0, .int .i64 0, .int .i64 0, .int .i64 0] 23 (0, 0)) → K (a.put o.dst (.pointer (some ⟨g, 0, none⟩))) w') :
    if Region.wanted o (yielded ops a.tmps) = true then Oper.wp Try.prog o a w K Q else E := by
  have hw : Region.wanted o (yielded ops a.tmps) = true := by simp [Region.wanted, hgd]
  rw [if_pos hw]
  have h9 := h _ (w.alloc (.cells #[.int .i64 0, .int .i64 0, .int .i64 0, .int .i64 0, .int .i64 0, .int .i64 0] 23)) rfl ((Below.refl _ _).alloc (Nat.le_refl _) _) (heap_alloc_new w _)
  obtain ⟨dst, op, ty, pos, after, guard⟩ := o
  simp only [] at ho hgd h9
  subst ho hgd
  go_simp
  exact h9
theorem step_bF (hgd : o.guard = none) (ho : o.op = .alloc 27)
    (h : ∀ g w', g = w.heap.size → Below w.heap.size w w' → w'.heap[g]? = some (.cells #[.bool false, .bool false, .int .i64 0] 27 (0, 0)) → K (a.put o.dst (.pointer (some ⟨g, 0, none⟩))) w') :
    if Region.wanted o (yielded ops a.tmps) = true then Oper.wp Try.prog o a w K Q else E := by
  have hw : Region.wanted o (yielded ops a.tmps) = true := by simp [Region.wanted, hgd]
  rw [if_pos hw]
  have h9 := h _ (w.alloc (.cells #[.bool false, .bool false, .int .i64 0] 27)) rfl ((Below.refl _ _).alloc (Nat.le_refl _) _) (heap_alloc_new w _)
  obtain ⟨dst, op, ty, pos, after, guard⟩ := o
  simp only [] at ho hgd h9
  subst ho hgd
  go_simp
  exact h9
theorem step_stS (hgd : o.guard = none) (x y : Operand) (ho : o.op = .store 23 x y) (g : Nat) (hx : a.eval x = .pointer (some ⟨g, 0, none⟩)) (i0 i1 i2 i3 i4 i5 : Int) (hy : a.eval y = .agg #[.int .i64 i0, .int .i64 i1, .int .i64 i2, .int .i64 i3, .int .i64 i4, .int .i64 i5])
    (hh : w.heap[g]? = some (.cells #[.int .i64 0, .int .i64 0, .int .i64 0, .int .i64 0, .int .i64 0, .int .i64 0] 23 (0, 0)))
    (h : ∀ w', Keeps (fun k => k = g) w w' → w'.heap[g]? = some (.cells #[.int .i64 i0, .int .i64 i1, .int .i64 i2, .int .i64 i3, .int .i64 i4, .int .i64 i5] 23 (0, 0)) → K (a.put o.dst undef) w') :
    if Region.wanted o (yielded ops a.tmps) = true then Oper.wp Try.prog o a w K Q else E := by
  have hw : Region.wanted o (yielded ops a.tmps) = true := by simp [Region.wanted, hgd]
  rw [if_pos hw]
  have h9 := h _ (keepsZ6 w g (.int .i64 i0) (.int .i64 i1) (.int .i64 i2) (.int .i64 i3) (.int .i64 i4) (.int .i64 i5)) (heapZ6 hh (.int .i64 i0) (.int .i64 i1) (.int .i64 i2) (.int .i64 i3) (.int .i64 i4) (.int .i64 i5))
  have p0 := cell_of_row w g 0 _ 23 _ hh
  have z0 := frozen_of_row w g 0 _ 23 hh
  have p1 := cell_of_row w g 1 _ 23 _ hh
  have z1 := frozen_of_row w g 1 _ 23 hh
  have p2 := cell_of_row w g 2 _ 23 _ hh
  have z2 := frozen_of_row w g 2 _ 23 hh
  have p3 := cell_of_row w g 3 _ 23 _ hh
  have z3 := frozen_of_row w g 3 _ 23 hh
  have p4 := cell_of_row w g 4 _ 23 _ hh
  have z4 := frozen_of_row w g 4 _ 23 hh
  have p5 := cell_of_row w g 5 _ 23 _ hh
  have z5 := frozen_of_row w g 5 _ 23 hh
  obtain ⟨dst, op, ty, pos, after, guard⟩ := o
  simp only [] at ho hgd h9
  subst ho hgd
  unfold Oper.wp execOp
  simp only [hx, hy]
  go_simp
  exact h9
theorem step_stF (hgd : o.guard = none) (x y : Operand) (ho : o.op = .store 27 x y) (g : Nat) (hx : a.eval x = .pointer (some ⟨g, 0, none⟩)) (t0 t1 : Bool) (i2 : Int) (hy : a.eval y = .agg #[.bool t0, .bool t1, .int .i64 i2])
    (hh : w.heap[g]? = some (.cells #[.bool false, .bool false, .int .i64 0] 27 (0, 0)))
    (h : ∀ w', Keeps (fun k => k = g) w w' → w'.heap[g]? = some (.cells #[.bool t0, .bool t1, .int .i64 i2] 27 (0, 0)) → K (a.put o.dst undef) w') :
    if Region.wanted o (yielded ops a.tmps) = true then Oper.wp Try.prog o a w K Q else E := by
  have hw : Region.wanted o (yielded ops a.tmps) = true := by simp [Region.wanted, hgd]
  rw [if_pos hw]
  have h9 := h _ (keepsZ3 w g (.bool t0) (.bool t1) (.int .i64 i2)) (heapZ3 hh (.bool t0) (.bool t1) (.int .i64 i2))
  have p0 := cell_of_row w g 0 _ 27 _ hh
  have z0 := frozen_of_row w g 0 _ 27 hh
  have p1 := cell_of_row w g 1 _ 27 _ hh
  have z1 := frozen_of_row w g 1 _ 27 hh
  have p2 := cell_of_row w g 2 _ 27 _ hh
  have z2 := frozen_of_row w g 2 _ 27 hh
  obtain ⟨dst, op, ty, pos, after, guard⟩ := o
  simp only [] at ho hgd h9
  subst ho hgd
  unfold Oper.wp execOp
  simp only [hx, hy]
  go_simp
  exact h9
theorem step_emptyS (hgd : o.guard = none) (ho : o.op = .buildSlice 24 0 #[]) (base : Nat) (hB : base ≤ w.heap.size)
    (h : ∀ g w', Below w.heap.size w w' → w'.ownsRow base 33 2 (.slice (some ⟨g, 0, none⟩) 0 0) 0 (cS []) → K (a.put o.dst (.slice (some ⟨g, 0, none⟩) 0 0)) w') :
    if Region.wanted o (yielded ops a.tmps) = true then Oper.wp Try.prog o a w K Q else E := by
  have hw : Region.wanted o (yielded ops a.tmps) = true := by simp [Region.wanted, hgd]
  rw [if_pos hw]
  have h9 := h w.heap.size (w.alloc (.cells #[] 33)) ((Below.refl _ _).alloc (Nat.le_refl _) _) ⟨rfl, .inr ⟨w.heap.size, 0, #[], rfl, hB, heap_alloc_new w _, Nat.le_refl _, Nat.zero_le _, rfl, rfl⟩⟩
  obtain ⟨dst, op, ty, pos, after, guard⟩ := o
  simp only [] at ho hgd h9
  subst ho hgd
  go_simp
  exact h9
theorem step_emptyW (hgd : o.guard = none) (ho : o.op = .buildSlice 24 0 #[]) (base : Nat) (hB : base ≤ w.heap.size)
    (h : ∀ g w', g = w.heap.size → Below w.heap.size w w' → w'.ownsRow base 33 2 (.slice (some ⟨g, 0, none⟩) 0 0) 0 (cS []) → K (a.put o.dst (.slice (some ⟨g, 0, none⟩) 0 0)) w') :
    if Region.wanted o (yielded ops a.tmps) = true then Oper.wp Try.prog o a w K Q else E := by
  have hw : Region.wanted o (yielded ops a.tmps) = true := by simp [Region.wanted, hgd]
  rw [if_pos hw]
  have h9 := h w.heap.size (w.alloc (.cells #[] 33)) rfl ((Below.refl _ _).alloc (Nat.le_refl _) _) ⟨rfl, .inr ⟨w.heap.size, 0, #[], rfl, hB, heap_alloc_new w _, Nat.le_refl _, Nat.zero_le _, rfl, rfl⟩⟩
  obtain ⟨dst, op, ty, pos, after, guard⟩ := o
  simp only [] at ho hgd h9
  subst ho hgd
  go_simp
  exact h9
theorem step_oneS (hgd : o.guard = none) (t : Nat) (ho : o.op = .buildSlice 24 1 #[(0, .tmp t)]) (i v : Int) (hx : a.tmps[t]?.getD undef = .agg #[.int .i64 i, .int .i64 v])
    (h : ∀ g w', g = w.heap.size → Below w.heap.size w w' → w'.heap[g]? = some (.cells #[.int .i64 i, .int .i64 v] 33 (0, 0)) → K (a.put o.dst (.slice (some ⟨g, 0, none⟩) 1 1)) w') :
    if Region.wanted o (yielded ops a.tmps) = true then Oper.wp Try.prog o a w K Q else E := by
  have hw : Region.wanted o (yielded ops a.tmps) = true := by simp [Region.wanted, hgd]
  rw [if_pos hw]
  have h9 := h w.heap.size (w.alloc (.cells #[.int .i64 i, .int .i64 v] 33)) rfl ((Below.refl _ _).alloc (Nat.le_refl _) _) (heap_alloc_new w _)
  obtain ⟨dst, op, ty, pos, after, guard⟩ := o
  simp only [] at ho hgd h9
  subst ho hgd
  go_simp
  exact h9
end
theorem held_nameZ {P : Program} {md : Region.Mode} {ops : Array Oper} {Q : Exit → Act → World → Prop} {S : World → Prop} {fuel : Nat} {l : Array Bool} {a : Act} {w : World} (h : ∀ o0 q0 a0, o0 = ops → q0 = Q → a0 = a → wpAnyH P md o0 q0 S fuel l a0 w) : wpAnyH P md ops Q S fuel l a w := h _ _ _ rfl rfl rfl
theorem held_asZ {P : Program} {md : Region.Mode} {ops ops' : Array Oper} {Q : Exit → Act → World → Prop} {S : World → Prop} {fuel : Nat} {l l' : Array Bool} {a a' : Act} {w : World} (ho : ops' = ops) (hl : l = l') (ha : a = a') (h : wpAnyH P md ops' Q S fuel l' a' w) : wpAnyH P md ops Q S fuel l a w := by
  subst ho hl ha
  exact h
end Go.Proofs.Ytkjdjicchmfljaa
