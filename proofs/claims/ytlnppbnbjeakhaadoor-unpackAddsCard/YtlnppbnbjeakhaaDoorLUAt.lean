/- The landed table(): an array of sixty-one fields by value; what lies at an index of it. -/
import Derived.Test.YtlnppbnbjeakhaaDoorSStg
import Derived.Great.Walk
import Derived.Great.CaseRows
import Derived.Laws.CopyOwn
import Derived.Test.YtlnppbnbjeakhaaDoorLTab
import Derived.Test.YtlnppbnbjeakhaaDoorLDGet
import Derived.Test.YtlnppbnbjeakhaaDoorUNoNev
namespace Go.Proofs.YtlnppbnbjeakhaaDoor
open Go.RowKit St

def fcells (x : ByteArray × ByteArray) : Array Value := #[.string x.1, .string x.2, .bool false]
/-- One operation a field, as the region has them: the value left out where it is empty. -/
def fOps (t : TypeId) (pos : String) : Nat → List (ByteArray × ByteArray) → List Oper
  | _, [] => []
  | d, x :: xs => { dst := some d, op := .build t (if x.2.data.size = 0 then #[(0, .const (.string x.1))] else #[(0, .const (.string x.1)), (1, .const (.string x.2))]), type := t, pos := pos, after := #[], guard := none } :: fOps t pos (d + 1) xs
theorem wpList_flds {P : Program} {ops : Array Oper} {rest : List Oper} {w : World} {Q : Exit → Act → World → Prop} (t : TypeId) (pos : String)
    (h1 : ∀ n : ByteArray, P.built t [(0, .string n)] = some #[.string n, .string ⟨#[]⟩, .bool false])
    (h2 : ∀ n v : ByteArray, P.built t [(0, .string n), (1, .string v)] = some #[.string n, .string v, .bool false]) :
    ∀ (xs : List (ByteArray × ByteArray)) (d : Nat) (a : Act), d + xs.length ≤ a.tmps.size →
      (∀ a' : Act, a'.tmps.size = a.tmps.size → a'.defers = a.defers → (∀ i (h : i < xs.length), a'.eval (.tmp (d + i)) = .agg (fcells xs[i])) →
        (∀ j, j < d → a'.eval (.tmp j) = a.eval (.tmp j)) → wpList P ops Q rest a' w) →
      wpList P ops Q (fOps t pos d xs ++ rest) a w
  | [], d, a, _, h => h a rfl rfl (fun i hi => absurd hi (by simp)) (fun _ _ => rfl)
  | x :: xs, d, a, hd, h => by
    have hlt : d < a.tmps.size := by simp at hd; omega
    show wpList P ops Q (_ :: (fOps t pos (d + 1) xs ++ rest)) a w
    refine wpList_buildTo rfl t _ rfl (some d) rfl (fcells x) ?_ ?_
    · by_cases hv : x.2.data.size = 0
      · rw [if_pos hv]
        have e : x.2 = ⟨#[]⟩ := by
          obtain ⟨x1, ⟨x2⟩⟩ := x
          simp only [] at hv ⊢
          rw [Array.eq_empty_of_size_eq_zero hv]
        unfold fcells
        rw [e]
        simpa [Act.eval] using h1 x.1
      · rw [if_neg hv]
        simpa [Act.eval, fcells] using h2 x.1 x.2
    refine wpList_flds t pos h1 h2 xs (d + 1) _ (by rw [Act.size_put]; simp at hd; omega) fun a' hs hdf hev hlow => ?_
    refine h a' (by rw [hs, Act.size_put]) (by rw [hdf, Act.defers_put']) (fun i hi => ?_) (fun j hj => ?_)
    · cases i with
      | zero => rw [Nat.add_zero, hlow d (by omega), Act.eval_put_same _ _ _ hlt]; rfl
      | succ i =>
        have := hev i (by simpa using hi)
        rw [show d + (i + 1) = d + 1 + i by omega, this]
        rfl
    · rw [hlow j (by omega), Act.eval_put_ne _ _ _ _ (by omega)]
/-- An array literal whose parts are aggregates of s cells each. -/
theorem wpList_buildRowsArr {P : Program} {ops : Array Oper} {rest : List Oper} {o : Oper} {a : Act} {w : World} {Q : Exit → Act → World → Prop} (hg : o.guard = none) (t e : TypeId) (n : Nat) (parts : Array (Nat × Operand)) (s : Nat) (vs : List Value)
    (ho : o.op = .build t parts) (ix : Nat → Nat) (dst : Option Tmp) (hdst : o.dst = dst)
    (hu : P.underlying t = some (.array n e)) (hsz : (P.info? e).map (·.size) = some s) (hz : ((P.info? t).bind (·.zero)).map (·.cells.size) = some (vs.length * s))
    (hs : 0 < s) (hparts : parts.toList = (List.range vs.length).map fun i => (i, Operand.tmp (ix i)))
    (h1 : ∀ v ∈ vs, v.cells.size = s) (hev : ∀ i (h : i < vs.length), a.eval (.tmp (ix i)) = vs[i])
    (h : wpList P ops Q rest (a.put dst (.agg (vs.flatMap fun v => v.cells.toList).toArray)) w) : wpList P ops Q (o :: rest) a w := by
  refine wpList_buildTo hg t parts ho dst hdst (vs.flatMap fun v => v.cells.toList).toArray ?_ h
  have e1 : (parts.map fun (i, x) => (i, a.eval x)).toList = (vs.zipIdx 0).map fun x => (x.2, x.1) := by
    rw [Array.toList_map, hparts, List.map_map]
    apply List.ext_getElem
    · simp
    · intro i h1 h2
      have hi : i < vs.length := by simpa using h1
      simp only [List.getElem_map, List.getElem_range, Function.comp, List.getElem_zipIdx, Nat.zero_add]
      rw [hev i hi]
  rw [e1]
  unfold Program.built
  cases hit : P.info? t with
  | none => simp [hit] at hz
  | some it =>
    cases hie : P.info? e with
    | none => simp [hie] at hsz
    | some ie =>
      simp only [hie, Option.map_some, Option.some.injEq] at hsz
      simp only [hit, Option.bind_some] at hz
      cases hzz : it.zero with
      | none => simp [hzz] at hz
      | some z =>
        simp only [hzz, Option.map_some, Option.some.injEq] at hz
        simp only [hu, hzz, hie, hsz]
        exact Great.fill_whole hs vs z.cells h1 hz.symm
/-- Names and values of the table. -/
def pairs : List (ByteArray × ByteArray) := (List.range 61).map fun i => (nm i, vl i)
theorem pairs_len : pairs.length = 61 := by simp [pairs]
/-- The cells of the table: name, value, false in turn. -/
def tcells : Array Value := ((pairs.map fun x => Value.agg (fcells x)).flatMap fun v => v.cells.toList).toArray
def zcells : Array Value := (List.replicate 61 [Value.string ⟨#[]⟩, Value.string ⟨#[]⟩, Value.bool false]).flatten.toArray
theorem tcells_size : tcells.size = 183 := by decide +kernel
def TbPost (w : World) (e : Ending) (w' : World) : Prop := ∃ T, e = .returned (.agg T) ∧ T = tcells ∧ Below w.heap.size w w'
set_option maxRecDepth 100000 in
set_option maxHeartbeats 4000000 in
theorem table_any (w : World) : Calls Tryd.prog 33 #[] w (TbPost w) := by
  refine calls_of_wp Tryd.func33 rfl ?_
  refine Great.wp_anyFrame 63 (by as_aux_lemma => kernel_rfl) rfl fun a0 hs0 hd0 => ?_
  apply wp_seq_k; intro K0 hK0
  apply wp_region_lit
  refine Great.wpList_allocTo rfl (some 0) rfl (.pointer (some ⟨w.heap.size, 0, none⟩)) (.cells zcells 64 (0, 0)) (by as_aux_lemma => kernel_rfl) ?_
  apply wpList_nil
  refine hK0 _ _ ?_
  have e0 := Act.eval_put_same a0 0 (.pointer (some ⟨w.heap.size, 0, none⟩)) (by omega)
  have hs1 : (a0.put (some 0) (.pointer (some ⟨w.heap.size, 0, none⟩))).tmps.size = 63 := by rw [Act.size_put, hs0]
  have hd1 : (a0.put (some 0) (.pointer (some ⟨w.heap.size, 0, none⟩))).defers = [] := by rw [Act.defers_put', hd0]
  generalize a0.put (some 0) (.pointer (some ⟨w.heap.size, 0, none⟩)) = a1 at e0 hs1 hd1 ⊢
  clear hK0 K0
  apply wp_seq_k; intro K1 hK1
  apply wp_region_lit
  refine Great.wpList_splitAt 61 (fOps 44 "stat.go:69" 1 pairs) (by as_aux_lemma => kernel_rfl) ?_
  refine wpList_flds 44 "stat.go:69" (fun _ => by as_aux_lemma => kernel_rfl) (fun _ _ => by as_aux_lemma => kernel_rfl) pairs 1 _ (by rw [pairs_len]; omega) fun a2 hs2 hd2 hev2 hlow2 => ?_
  refine wpList_buildRowsArr rfl 64 44 61 _ 3 (pairs.map fun x => Value.agg (fcells x)) rfl (fun i => 1 + i) (some 62) rfl (by as_aux_lemma => kernel_rfl) (by as_aux_lemma => kernel_rfl) (by as_aux_lemma => kernel_rfl) (by decide) (by as_aux_lemma => kernel_rfl) ?_ ?_ ?_
  · intro v hv
    obtain ⟨x, _, rfl⟩ := List.mem_map.1 hv
    rfl
  · intro i h
    rw [hev2 i (by simpa using h)]
    simp
  have e2 : a2.eval (.tmp 0) = .pointer (some ⟨w.heap.size, 0, none⟩) := (hlow2 0 (by omega)).trans e0
  have hs3 : (a2.put (some 62) (.agg tcells)).tmps.size = 63 := by rw [Act.size_put, hs2, hs1]
  have hd3 : (a2.put (some 62) (.agg tcells)).defers = [] := by rw [Act.defers_put', hd2, hd1]
  have e3 : (a2.put (some 62) (.agg tcells)).eval (.tmp 0) = .pointer (some ⟨w.heap.size, 0, none⟩) := (Act.eval_put_ne _ _ _ _ (by omega)).trans e2
  have e4 : (a2.put (some 62) (.agg tcells)).eval (.tmp 62) = .agg tcells := Act.eval_put_same _ _ _ (by omega)
  change wpList _ _ _ _ (a2.put (some 62) (.agg tcells)) _
  generalize a2.put (some 62) (.agg tcells) = a3 at hs3 hd3 e3 e4 ⊢
  refine wpList_store_rowTo rfl 64 _ _ rfl rfl w.heap.size tcells e3 e4 64 zcells (heap_alloc_new w _) (by rw [tcells_size]; as_aux_lemma => kernel_rfl) (by rw [tcells_size]; as_aux_lemma => kernel_rfl) (by as_aux_lemma => kernel_rfl) ?_
  apply wpList_nil
  refine hK1 _ _ ?_
  apply wp_ret
  have hrow : ((w.alloc (.cells zcells 64 (0, 0))).setRow w.heap.size tcells).heap[w.heap.size]? = some (.cells tcells 64 (0, 0)) :=
    setRow_heap _ _ zcells tcells 64 (0, 0) (heap_alloc_new w _)
  refine bodyPost_ret (results_cell_row Tryd.results33 _ _ w.heap.size 64 tcells (0, 0) _ ?_ hrow Tryd.underlying64 rfl (by rw [tcells_size]; as_aux_lemma => kernel_rfl)) hd3 ⟨tcells, rfl, rfl, ?_⟩
  · exact e3
  · exact below_setRow ((Below.refl _ _).alloc (Nat.le_refl _) _) (Nat.le_refl _) _
set_option maxRecDepth 100000 in
theorem tab_index : ∀ i : Nat, i < 61 → ∀ w : World, (Instr.index 64 (.agg tcells) (.int .i64 (i : Int))).run Tryd.prog w = .ok (.agg #[.string (nm i), .string (vl i), .bool false]) w
  | 0, _, _ => by kernel_rfl
  | 1, _, _ => by kernel_rfl
  | 2, _, _ => by kernel_rfl
  | 3, _, _ => by kernel_rfl
  | 4, _, _ => by kernel_rfl
  | 5, _, _ => by kernel_rfl
  | 6, _, _ => by kernel_rfl
  | 7, _, _ => by kernel_rfl
  | 8, _, _ => by kernel_rfl
  | 9, _, _ => by kernel_rfl
  | 10, _, _ => by kernel_rfl
  | 11, _, _ => by kernel_rfl
  | 12, _, _ => by kernel_rfl
  | 13, _, _ => by kernel_rfl
  | 14, _, _ => by kernel_rfl
  | 15, _, _ => by kernel_rfl
  | 16, _, _ => by kernel_rfl
  | 17, _, _ => by kernel_rfl
  | 18, _, _ => by kernel_rfl
  | 19, _, _ => by kernel_rfl
  | 20, _, _ => by kernel_rfl
  | 21, _, _ => by kernel_rfl
  | 22, _, _ => by kernel_rfl
  | 23, _, _ => by kernel_rfl
  | 24, _, _ => by kernel_rfl
  | 25, _, _ => by kernel_rfl
  | 26, _, _ => by kernel_rfl
  | 27, _, _ => by kernel_rfl
  | 28, _, _ => by kernel_rfl
  | 29, _, _ => by kernel_rfl
  | 30, _, _ => by kernel_rfl
  | 31, _, _ => by kernel_rfl
  | 32, _, _ => by kernel_rfl
  | 33, _, _ => by kernel_rfl
  | 34, _, _ => by kernel_rfl
  | 35, _, _ => by kernel_rfl
  | 36, _, _ => by kernel_rfl
  | 37, _, _ => by kernel_rfl
  | 38, _, _ => by kernel_rfl
  | 39, _, _ => by kernel_rfl
  | 40, _, _ => by kernel_rfl
  | 41, _, _ => by kernel_rfl
  | 42, _, _ => by kernel_rfl
  | 43, _, _ => by kernel_rfl
  | 44, _, _ => by kernel_rfl
  | 45, _, _ => by kernel_rfl
  | 46, _, _ => by kernel_rfl
  | 47, _, _ => by kernel_rfl
  | 48, _, _ => by kernel_rfl
  | 49, _, _ => by kernel_rfl
  | 50, _, _ => by kernel_rfl
  | 51, _, _ => by kernel_rfl
  | 52, _, _ => by kernel_rfl
  | 53, _, _ => by kernel_rfl
  | 54, _, _ => by kernel_rfl
  | 55, _, _ => by kernel_rfl
  | 56, _, _ => by kernel_rfl
  | 57, _, _ => by kernel_rfl
  | 58, _, _ => by kernel_rfl
  | 59, _, _ => by kernel_rfl
  | 60, _, _ => by kernel_rfl
  | n + 61, h, _ => absurd h (by omega)
end Go.Proofs.YtlnppbnbjeakhaaDoor
/- The landed Get. -/
namespace Go.Proofs.YtlnppbnbjeakhaaDoor
open Go.RowKit St
set_option maxRecDepth 100000 in
set_option maxHeartbeats 4000000 in
theorem get_s (i : Int) (w : World) (hi : -9223372036854775808 ≤ i ∧ i ≤ 9223372036854775807) : Calls Tryd.prog 21 #[.int .i64 i] w (StPost w (stg i)) := by
  have hb0 : Below w.heap.size w (w.alloc (.cells #[.string ⟨#[]⟩, .string ⟨#[]⟩, .bool false] 44)) := (Below.refl _ _).alloc (Nat.le_refl _) _
  obtain ⟨g0, hg0⟩ : ∃ g, g = w.heap.size := ⟨_, rfl⟩
  have hlt0 : g0 < (w.alloc (.cells #[.string ⟨#[]⟩, .string ⟨#[]⟩, .bool false] 44)).heap.size := by rw [hg0]; simp
  by_cases h12 : i < 1 ∨ 61 < i
  · have HS : Hid (stg i = (⟨⟨#[]⟩, ⟨#[]⟩, false⟩, false)) := Lib.hid (by rw [stg, if_neg (by omega)])
    have HB := Lib.hid hb0
    clear hb0 hlt0 hg0
    rcases h12 with h1 | h2
    · go_enter Tryd.func21, Tryd.ntmps21
      go_wp2
      refine bodyPost_ret (v := .tuple #[.agg #[.string ⟨#[]⟩, .string ⟨#[]⟩, .bool false], .bool false]) (by simp [results, Tryd.results21, go_sem]) rfl ⟨?_, HB.out⟩
      rw [HS.out]
    · have h1 : ¬ i < 1 := by omega
      go_enter Tryd.func21, Tryd.ntmps21
      go_wp2
      refine bodyPost_ret (v := .tuple #[.agg #[.string ⟨#[]⟩, .string ⟨#[]⟩, .bool false], .bool false]) (by simp [results, Tryd.results21, go_sem]) rfl ⟨?_, HB.out⟩
      rw [HS.out]
  · obtain ⟨j, rfl⟩ : ∃ v : Nat, i = (v : Int) := ⟨i.toNat, by omega⟩
    have j1 : ¬ (j : Int) < 1 := by omega
    have j2 : ¬ (61 : Int) < (j : Int) := by omega
    obtain ⟨I, hI⟩ : ∃ I, I = j - 1 := ⟨_, rfl⟩
    have e1 : (j : Int) - 1 = (I : Int) := by omega
    have HS : Hid (stg (j : Int) = (⟨nm I, vl I, false⟩, true)) := Lib.hid (by rw [stg, if_pos (by omega), Int.toNat_natCast, ← hI])
    have hI61 : I < 61 := by omega
    have HI := Lib.hid hI
    clear hI h12
    go_enter Tryd.func21, Tryd.ntmps21
    go_wp2_with fail
    with_reducible refine (table_any _).mono ?_
    rintro e w2 ⟨T, rfl, hT, hb2⟩
    have hix := tab_index I hI61 w2
    rw [← hT] at hix
    obtain ⟨X, hX⟩ : ∃ X, X = nm I := ⟨_, rfl⟩
    obtain ⟨Y, hY⟩ : ∃ Y, Y = vl I := ⟨_, rfl⟩
    rw [← hX, ← hY] at hix HS
    have hh : w2.heap[g0]? = some (.cells #[.string ⟨#[]⟩, .string ⟨#[]⟩, .bool false] 44) := by
      rw [hb2.block g0 hlt0, hg0]
      exact heap_alloc_new w _
    have q0 : w2.cell? ⟨g0, 0, none⟩ = some (.string ⟨#[]⟩) := cell_of_row _ g0 0 _ 44 _ hh
    have q1 : w2.cell? ⟨g0, 1, none⟩ = some (.string ⟨#[]⟩) := cell_of_row _ g0 1 _ 44 _ hh
    have q2 : w2.cell? ⟨g0, 2, none⟩ = some (.bool false) := cell_of_row _ g0 2 _ 44 _ hh
    have f0 : w2.frozen? ⟨g0, 0, none⟩ = false := frozen_of_row w2 g0 0 _ 44 hh
    have f1 : w2.frozen? ⟨g0, 1, none⟩ = false := frozen_of_row w2 g0 1 _ 44 hh
    have f2 : w2.frozen? ⟨g0, 2, none⟩ = false := frozen_of_row w2 g0 2 _ 44 hh
    have hb3 := hb0.trans (hb2.mono hb0.size)
    have hgB : w.heap.size ≤ g0 := by omega
    have hg2 : g0 < w2.heap.size := by have := hb2.size; omega
    rw [← hg0]
    have HG0 := Lib.hid hg0
    have hs2 := ((hb3.setCell (p := ⟨g0, 0, none⟩) hgB (.string X)).setCell (p := ⟨g0, 1, none⟩) hgB (.string Y)).setCell (p := ⟨g0, 2, none⟩) hgB (.bool false)
    clear hh hb2 hb0 hlt0 hg0 hT hX hY hb3
    go_wp2
    refine bodyPost_ret (v := .tuple #[.agg #[.string X, .string Y, .bool false], .bool true]) (by simp [results, Tryd.results21, go_sem, q0, q1, q2]) rfl ⟨?_, hs2⟩
    rw [HS.out]
theorem sget_f (i : Int) (w : World) (_ : Rdy w) (hi : Rng i) : Calls Tryd.prog 21 #[.int .i64 i] w (StPost w (stg i)) := get_s i w hi
end Go.Proofs.YtlnppbnbjeakhaaDoor
/- The landed at: the field of an index. -/
namespace Go.Proofs.YtlnppbnbjeakhaaDoor
open Go.RowKit

theorem ufield_low (L : List Fld) (n : Nat) (h : n ≤ 61) : ufield L (n : Int) = stg (n : Int) := by
  rw [ufield]
  by_cases h0 : 1 ≤ n
  · have e : stg (n : Int) = (⟨St.nm ((n : Int).toNat - 1), St.vl ((n : Int).toNat - 1), false⟩, true) := by rw [stg, if_pos (by omega)]
    rw [e]
    rfl
  · have hn : n = 0 := by omega
    subst hn
    rw [show stg ((0 : Nat) : Int) = (⟨⟨#[]⟩, ⟨#[]⟩, false⟩, false) from rfl]
    show getL L (((0 : Nat) : Int) - 61) = _
    rw [getL, if_neg (by omega)]
theorem ufield_high (L : List Fld) (n : Nat) (h : 61 < n) : ufield L (n : Int) = getL L ((n : Int) - 61) := by
  have e : (stg (n : Int)).2 = false := by rw [stg, if_neg (by omega)]
  rw [ufield, e]
  rfl
set_option maxRecDepth 100000 in
set_option maxHeartbeats 4000000 in
theorem uat_f (w : World) (hR : Rdy w) (S : Nat → Prop) (p t m n : Nat) (L : List Fld) (hc : w.cell? ⟨p, 0, none⟩ = some (.pointer (some ⟨t, 0, none⟩))) (hT : DT w S t m L) (hn : n ≤ 2147483647) :
    Calls Tryd.prog 39 #[.pointer (some ⟨p, 0, none⟩), .int .i64 (n : Int)] w (FPost w (ufield L (n : Int))) := by
  have hpl := World.block_lt_of_cell? w _ hc
  obtain ⟨g0, hg0⟩ : ∃ g, g = w.heap.size := ⟨_, rfl⟩
  obtain ⟨wa, hwa⟩ : ∃ wa, wa = w.alloc (.cells #[.string ⟨#[]⟩, .string ⟨#[]⟩, .bool false] 44) := ⟨_, rfl⟩
  have hb0 : Below w.heap.size w wa := by rw [hwa]; exact (Below.refl _ _).alloc (Nat.le_refl _) _
  have hh0 : wa.heap[g0]? = some (.cells #[.string ⟨#[]⟩, .string ⟨#[]⟩, .bool false] 44) := by rw [hwa, hg0]; exact heap_alloc_new w _
  have hlt0 : g0 < wa.heap.size := by rw [hwa, hg0]; simp
  have hgB : w.heap.size ≤ g0 := by omega
  have hTa : DT wa S t m L := hT.keep (S' := fun _ => False) (Keeps.of_below hb0) (fun _ _ h => h)
  have hRa := hR.below hb0
  have hca : wa.cell? ⟨p, 0, none⟩ = some (.pointer (some ⟨t, 0, none⟩)) := (hb0.cell (p := ⟨p, 0, none⟩) hpl).trans hc
  have HALL : Hid (Calls Tryd.prog 31 #[.pointer (some ⟨t, 0, none⟩), .int .i64 ((n : Int) - 61)] wa (FPost wa (getL L ((n : Int) - 61)))) := Lib.hid (dget_f wa S t m L ((n : Int) - 61) hRa hTa (by unfold Rng; omega))
  have HSTA : Hid (Calls Tryd.prog 21 #[.int .i64 (n : Int)] wa (StPost wa (stg (n : Int)))) := Lib.hid (sget_f (n : Int) wa hRa (by unfold Rng; omega))
  obtain ⟨F, hF⟩ : ∃ F, F = ufield L (n : Int) := ⟨_, rfl⟩
  rw [← hF]
  have HF := Lib.hid hF
  obtain ⟨⟨X, Y, Z⟩, B⟩ := F
  have HB0 := Lib.hid hb0
  have HH0 := Lib.hid hh0
  have HLT := Lib.hid hlt0
  clear hF hb0 hh0 hlt0 hT hTa hR hRa hc hpl
  by_cases h61 : n ≤ 61
  · have HS := HSTA.out
    rw [← ufield_low L n h61, ← HF.out, hwa] at HS
    replace HS := Lib.hid HS
    have d : ¬ (61 : Int) < (n : Int) := by omega
    clear hca HALL HSTA h61 HF
    go_enter Tryd.func39, Tryd.ntmps39
    go_wp2_with fail
    with_reducible refine (HS.out).mono ?_
    rw [← hwa]
    rintro e w1 ⟨rfl, hb1⟩
    simp only []
    rw [← hg0]
    have hb2 := HB0.out.trans (hb1.mono HB0.out.size)
    have hh2 := (hb1.block g0 HLT.out).trans HH0.out
    have f0 : w1.frozen? ⟨g0, 0, none⟩ = false := frozen_of_row w1 g0 0 _ 44 hh2
    have f1 : w1.frozen? ⟨g0, 1, none⟩ = false := frozen_of_row w1 g0 1 _ 44 hh2
    have f2 : w1.frozen? ⟨g0, 2, none⟩ = false := frozen_of_row w1 g0 2 _ 44 hh2
    have q0 : w1.cell? ⟨g0, 0, none⟩ = some (.string ⟨#[]⟩) := cell_of_row w1 g0 0 _ 44 _ hh2
    have q1 : w1.cell? ⟨g0, 1, none⟩ = some (.string ⟨#[]⟩) := cell_of_row w1 g0 1 _ 44 _ hh2
    have q2 : w1.cell? ⟨g0, 2, none⟩ = some (.bool false) := cell_of_row w1 g0 2 _ 44 _ hh2
    have hs1 := ((hb2.setCell (p := ⟨g0, 0, none⟩) hgB (.string X)).setCell (p := ⟨g0, 1, none⟩) hgB (.string Y)).setCell (p := ⟨g0, 2, none⟩) hgB (.bool Z)
    clear hh2 hwa hg0 hb2 hb1 HS
    go_wp2
    refine bodyPost_ret (v := .tuple #[.agg #[.string X, .string Y, .bool Z], .bool B]) (by simp [results, Tryd.results39, go_sem, q0, q1, q2]) rfl ⟨rfl, hs1⟩
  · have HS := HALL.out
    rw [← ufield_high L n (by omega), ← HF.out, hwa] at HS
    replace HS := Lib.hid HS
    have d : (61 : Int) < (n : Int) := by omega
    rw [hwa] at hca
    clear HALL HSTA h61 HF
    go_enter Tryd.func39, Tryd.ntmps39
    go_wp2_with fail
    with_reducible refine (HS.out).mono ?_
    rw [← hwa]
    rintro e w1 ⟨rfl, hb1⟩
    simp only []
    rw [← hg0]
    have hb2 := HB0.out.trans (hb1.mono HB0.out.size)
    have hh2 := (hb1.block g0 HLT.out).trans HH0.out
    have f0 : w1.frozen? ⟨g0, 0, none⟩ = false := frozen_of_row w1 g0 0 _ 44 hh2
    have f1 : w1.frozen? ⟨g0, 1, none⟩ = false := frozen_of_row w1 g0 1 _ 44 hh2
    have f2 : w1.frozen? ⟨g0, 2, none⟩ = false := frozen_of_row w1 g0 2 _ 44 hh2
    have q0 : w1.cell? ⟨g0, 0, none⟩ = some (.string ⟨#[]⟩) := cell_of_row w1 g0 0 _ 44 _ hh2
    have q1 : w1.cell? ⟨g0, 1, none⟩ = some (.string ⟨#[]⟩) := cell_of_row w1 g0 1 _ 44 _ hh2
    have q2 : w1.cell? ⟨g0, 2, none⟩ = some (.bool false) := cell_of_row w1 g0 2 _ 44 _ hh2
    have hs1 := ((hb2.setCell (p := ⟨g0, 0, none⟩) hgB (.string X)).setCell (p := ⟨g0, 1, none⟩) hgB (.string Y)).setCell (p := ⟨g0, 2, none⟩) hgB (.bool Z)
    clear hh2 hwa hg0 hb2 hb1 HS hca
    go_wp2
    refine bodyPost_ret (v := .tuple #[.agg #[.string X, .string Y, .bool Z], .bool B]) (by simp [results, Tryd.results39, go_sem, q0, q1, q2]) rfl ⟨rfl, hs1⟩
end Go.Proofs.YtlnppbnbjeakhaaDoor
