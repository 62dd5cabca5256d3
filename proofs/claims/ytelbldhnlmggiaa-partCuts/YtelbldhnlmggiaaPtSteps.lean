/- Steps through a region that draws its order: a variable made, a row of zeros made, one byte laid, a struct stored. -/
import Derived.Test.YtelbldhnlmggiaaPtStore
import Derived.Test.YtelbldhnlmggiaaLStep
import Derived.Deep.OwnRows
namespace Go.Proofs.Ytelbldhnlmggiaa
open Go.RowKit Fr

section
variable {ops : Array Oper} {o : Oper} {a : Act} {w : World} {K : Act → World → Prop} {Q : Exit → Act → World → Prop} {E : Prop}
theorem step_alloc9 (hgd : o.guard = none) (ho : o.op = .alloc 28)
    (h : ∀ w', w' = w.alloc (.cells #[.slice none 0 0, .int .i64 0, .int .i64 0, .int .i64 0, .int .i64 0, .slice none 0 0, .bool false, .bool false, .bool false] 28) → K (a.put o.dst (.pointer (some ⟨w.heap.size, 0, none⟩))) w') :
    if Region.wanted o (yielded ops a.tmps) = true then Oper.wp Try.prog o a w K Q else E := by
  have hw : Region.wanted o (yielded ops a.tmps) = true := by simp [Region.wanted, hgd]
  rw [if_pos hw]
  have h9 := h _ rfl
  obtain ⟨dst, op, ty, pos, after, guard⟩ := o
  simp only [] at ho hgd h9
  subst ho hgd
  go_simp
  exact h9
theorem step_alloc3 (hgd : o.guard = none) (ho : o.op = .alloc 30)
    (h : ∀ w', w' = w.alloc (.cells #[.bool false, .bool false, .int .i64 0] 30) → K (a.put o.dst (.pointer (some ⟨w.heap.size, 0, none⟩))) w') :
    if Region.wanted o (yielded ops a.tmps) = true then Oper.wp Try.prog o a w K Q else E := by
  have hw : Region.wanted o (yielded ops a.tmps) = true := by simp [Region.wanted, hgd]
  rw [if_pos hw]
  have h9 := h _ rfl
  obtain ⟨dst, op, ty, pos, after, guard⟩ := o
  simp only [] at ho hgd h9
  subst ho hgd
  go_simp
  exact h9
theorem step_lit1 (hgd : o.guard = none) (ho : o.op = .buildSlice 25 1 #[(0, .const (.int .u8 1))])
    (h : ∀ w', w' = w.alloc (.cells #[.int .u8 1] 5) → K (a.put o.dst (.slice (some ⟨w.heap.size, 0, none⟩) 1 1)) w') :
    if Region.wanted o (yielded ops a.tmps) = true then Oper.wp Try.prog o a w K Q else E := by
  have hw : Region.wanted o (yielded ops a.tmps) = true := by simp [Region.wanted, hgd]
  rw [if_pos hw]
  have h9 := h _ rfl
  obtain ⟨dst, op, ty, pos, after, guard⟩ := o
  simp only [] at ho hgd h9
  subst ho hgd
  go_simp
  exact h9
theorem step_make (hgd : o.guard = none) (x y : Operand) (ho : o.op = .makeSlice 25 x y) (n : Nat) (hx : a.eval x = .int .i64 (n : Int)) (hy : a.eval y = .int .i64 (n : Int)) (hn : n ≤ 1000)
    (h : ∀ w', w'.ownsRow w.heap.size 5 1 (.slice (some ⟨w.heap.size, 0, none⟩) n n) n (cn .u8 (List.replicate n 0)) → Below w.heap.size w w' → K (a.put o.dst (.slice (some ⟨w.heap.size, 0, none⟩) n n)) w') :
    if Region.wanted o (yielded ops a.tmps) = true then Oper.wp Try.prog o a w K Q else E := by
  obtain ⟨i0, hi0, hz0, hz1, hz2⟩ := info_parts infoU8
  have hw : Region.wanted o (yielded ops a.tmps) = true := by simp [Region.wanted, hgd]
  rw [if_pos hw]
  have hr := Go.run_make_row (P := Try.prog) 25 5 i0 _ Try.underlying25 hi0 hz0 hz1 rfl .i64 .i64 n (by rw [hz2]; omega) (by omega) w
  have hcs : (madeCells #[Value.int .u8 0] n) = (cn .u8 (List.replicate n 0)).toArray := by
    apply Array.ext'
    rw [toList_madeCells_one]
    simp [cn]
  rw [hcs] at hr
  have hown : (w.alloc (.cells (cn .u8 (List.replicate n 0)).toArray 5)).ownsRow w.heap.size 5 1 (.slice (some ⟨w.heap.size, 0, none⟩) n n) n (cn .u8 (List.replicate n 0)) :=
    ⟨by simp [cn], .inr ⟨w.heap.size, n, _, rfl, Nat.le_refl _, heap_alloc_new w _, Nat.le_refl _, by unfold maxLen; omega, by simp [cn], by simp [cn]⟩⟩
  have h9 := h _ hown ((Below.refl _ _).alloc (Nat.le_refl _) _)
  unfold Oper.wp execOp
  simp only [ho, hx, hy, Sem.run_bind, hr, Result.andThen_ok, Sem.run_pure]
  exact h9
theorem step_store9 (hgd : o.guard = none) (x y : Operand) (ho : o.op = .store 28 x y) (g : Nat) (hx : a.eval x = .pointer (some ⟨g, 0, none⟩)) (A9 B9 : Option Addr) (n9 c9 m9 d9 : Nat) (j1 j2 j3 j4 : Int) (t6 t7 t8 : Bool) (hy : a.eval y = .agg #[(.slice A9 n9 c9), (.int .i64 j1), (.int .i64 j2), (.int .i64 j3), (.int .i64 j4), (.slice B9 m9 d9), (.bool t6), (.bool t7), (.bool t8)])
    (hh : w.heap[g]? = some (.cells #[.slice none 0 0, .int .i64 0, .int .i64 0, .int .i64 0, .int .i64 0, .slice none 0 0, .bool false, .bool false, .bool false] 28 (0, 0)))
    (h : ∀ w', Keeps (fun k => k = g) w w' → w'.heap[g]? = some (.cells #[(.slice A9 n9 c9), (.int .i64 j1), (.int .i64 j2), (.int .i64 j3), (.int .i64 j4), (.slice B9 m9 d9), (.bool t6), (.bool t7), (.bool t8)] 28 (0, 0)) → K (a.put o.dst undef) w') :
    if Region.wanted o (yielded ops a.tmps) = true then Oper.wp Try.prog o a w K Q else E := by
  have hw : Region.wanted o (yielded ops a.tmps) = true := by simp [Region.wanted, hgd]
  rw [if_pos hw]
  have h9 := h _ (keepsP9 w g (.slice A9 n9 c9) (.int .i64 j1) (.int .i64 j2) (.int .i64 j3) (.int .i64 j4) (.slice B9 m9 d9) (.bool t6) (.bool t7) (.bool t8)) (heapP9 hh (.slice A9 n9 c9) (.int .i64 j1) (.int .i64 j2) (.int .i64 j3) (.int .i64 j4) (.slice B9 m9 d9) (.bool t6) (.bool t7) (.bool t8))
  have p0 := cell_of_row w g 0 _ 28 _ hh
  have p1 := cell_of_row w g 1 _ 28 _ hh
  have p2 := cell_of_row w g 2 _ 28 _ hh
  have p3 := cell_of_row w g 3 _ 28 _ hh
  have p4 := cell_of_row w g 4 _ 28 _ hh
  have p5 := cell_of_row w g 5 _ 28 _ hh
  have p6 := cell_of_row w g 6 _ 28 _ hh
  have p7 := cell_of_row w g 7 _ 28 _ hh
  have p8 := cell_of_row w g 8 _ 28 _ hh
  have z0 := frozen_of_row w g 0 _ 28 hh
  have z1 := frozen_of_row w g 1 _ 28 hh
  have z2 := frozen_of_row w g 2 _ 28 hh
  have z3 := frozen_of_row w g 3 _ 28 hh
  have z4 := frozen_of_row w g 4 _ 28 hh
  have z5 := frozen_of_row w g 5 _ 28 hh
  have z6 := frozen_of_row w g 6 _ 28 hh
  have z7 := frozen_of_row w g 7 _ 28 hh
  have z8 := frozen_of_row w g 8 _ 28 hh
  obtain ⟨dst, op, ty, pos, after, guard⟩ := o
  simp only [] at ho hgd h9
  subst ho hgd
  unfold Oper.wp execOp
  simp only [hx, hy]
  go_simp
  exact h9
theorem step_store3 (hgd : o.guard = none) (x y : Operand) (ho : o.op = .store 30 x y) (g : Nat) (hx : a.eval x = .pointer (some ⟨g, 0, none⟩)) (t0 t1 : Bool) (j2 : Int) (hy : a.eval y = .agg #[(.bool t0), (.bool t1), (.int .i64 j2)])
    (hh : w.heap[g]? = some (.cells #[.bool false, .bool false, .int .i64 0] 30 (0, 0)))
    (h : ∀ w', Keeps (fun k => k = g) w w' → w'.heap[g]? = some (.cells #[(.bool t0), (.bool t1), (.int .i64 j2)] 30 (0, 0)) → K (a.put o.dst undef) w') :
    if Region.wanted o (yielded ops a.tmps) = true then Oper.wp Try.prog o a w K Q else E := by
  have hw : Region.wanted o (yielded ops a.tmps) = true := by simp [Region.wanted, hgd]
  rw [if_pos hw]
  have h9 := h _ (keepsP3 w g (.bool t0) (.bool t1) (.int .i64 j2)) (heapP3 hh (.bool t0) (.bool t1) (.int .i64 j2))
  have p0 := cell_of_row w g 0 _ 30 _ hh
  have p1 := cell_of_row w g 1 _ 30 _ hh
  have p2 := cell_of_row w g 2 _ 30 _ hh
  have z0 := frozen_of_row w g 0 _ 30 hh
  have z1 := frozen_of_row w g 1 _ 30 hh
  have z2 := frozen_of_row w g 2 _ 30 hh
  obtain ⟨dst, op, ty, pos, after, guard⟩ := o
  simp only [] at ho hgd h9
  subst ho hgd
  unfold Oper.wp execOp
  simp only [hx, hy]
  go_simp
  exact h9
theorem step_a (hgd : o.guard = none) (ho : o.op = .alloc 28)
    (h : ∀ g w', g = w.heap.size → Below w.heap.size w w' → w'.heap[g]? = some (.cells #[.slice none 0 0, .int .i64 0, .int .i64 0, .int .i64 0, .int .i64 0, .slice none 0 0, .bool false, .bool false, .bool false] 28 (0, 0)) → K (a.put o.dst (.pointer (some ⟨g, 0, none⟩))) w') :
    if Region.wanted o (yielded ops a.tmps) = true then Oper.wp Try.prog o a w K Q else E :=
  step_alloc9 hgd ho (fun w' e => h _ w' rfl (by rw [e]; exact (Below.refl _ _).alloc (Nat.le_refl _) _) (by rw [e]; exact heap_alloc_new w _))
theorem step_b (hgd : o.guard = none) (ho : o.op = .alloc 30)
    (h : ∀ g w', g = w.heap.size → Below w.heap.size w w' → w'.heap[g]? = some (.cells #[.bool false, .bool false, .int .i64 0] 30 (0, 0)) → K (a.put o.dst (.pointer (some ⟨g, 0, none⟩))) w') :
    if Region.wanted o (yielded ops a.tmps) = true then Oper.wp Try.prog o a w K Q else E :=
  step_alloc3 hgd ho (fun w' e => h _ w' rfl (by rw [e]; exact (Below.refl _ _).alloc (Nat.le_refl _) _) (by rw [e]; exact heap_alloc_new w _))
theorem step_l (hgd : o.guard = none) (ho : o.op = .buildSlice 25 1 #[(0, .const (.int .u8 1))])
    (h : ∀ g w', g = w.heap.size → Below w.heap.size w w' → w'.heap[g]? = some (.cells #[.int .u8 1] 5 (0, 0)) → K (a.put o.dst (.slice (some ⟨g, 0, none⟩) 1 1)) w') :
    if Region.wanted o (yielded ops a.tmps) = true then Oper.wp Try.prog o a w K Q else E :=
  step_lit1 hgd ho (fun w' e => h _ w' rfl (by rw [e]; exact (Below.refl _ _).alloc (Nat.le_refl _) _) (by rw [e]; exact heap_alloc_new w _))
theorem step_m (hgd : o.guard = none) (x y : Operand) (ho : o.op = .makeSlice 25 x y) (n : Nat) (hx : a.eval x = .int .i64 (n : Int)) (hy : a.eval y = .int .i64 (n : Int)) (hn : n ≤ 1000)
    (h : ∀ g w', g = w.heap.size → Below w.heap.size w w' → w'.ownsRow g 5 1 (.slice (some ⟨g, 0, none⟩) n n) n (cn .u8 (List.replicate n 0)) → K (a.put o.dst (.slice (some ⟨g, 0, none⟩) n n)) w') :
    if Region.wanted o (yielded ops a.tmps) = true then Oper.wp Try.prog o a w K Q else E :=
  step_make hgd x y ho n hx hy hn (fun w' ho hb => h _ w' rfl hb ho)
end
end Go.Proofs.Ytelbldhnlmggiaa
