/- The faces' contracts of the landed table; the laws' texts know these names alone. -/
import Derived.Test.YtiandidencnlcaaDoorLSTotal
import Derived.Test.YtiandidencnlcaaDoorLDFind
import Derived.Test.YtiandidencnlcaaDoorLDAdd
import Derived.Test.YtiandidencnlcaaDoorHAux
import Derived.Test.YtiandidencnlcaaDoorLRowF
import Derived.Test.YtiandidencnlcaaDoorDGetL
import Derived.Great.Walk
import Derived.Great.CaseRows
import Derived.Laws.CopyOwn

/- The landed encoder in memory: a table, the limit told last, the least set since (4096, if there was none). -/
namespace Go.Proofs.YtiandidencnlcaaDoor
open Go.RowKit

/-- The program's encoder lies at block p, its table at t; S: the blocks that are its own. -/
def QE (w : World) (S : Nat → Prop) (p t : Nat) (s : EncS) : Prop :=
  ∃ S1 least, w.heap[p]? = some (.cells #[.pointer (some ⟨t, 0, none⟩), .int .i64 (s.told : Int), .int .i64 ((least : Nat) : Int)] 61 (0, 0)) ∧ DT w S1 t s.most s.tab ∧ ¬ S1 p ∧ (∀ x, S x ↔ x = p ∨ S1 x) ∧ s.told ≤ 4096 ∧ least ≤ 4096 ∧ (s.set = true → least = s.least) ∧ (s.set = false → least = 4096 ∧ s.most = s.told) ∧ Free S
section
variable {w w' : World} {S S' : Nat → Prop} {p t : Nat} {s : EncS}
theorem QE.low (h : QE w S p t s) : ∀ x, S x → x < w.heap.size := by
  obtain ⟨S1, least, hh, hT, _, hS, _⟩ := h
  intro x hx
  rcases (hS x).1 hx with rfl | h
  · exact lt_of_heap hh
  · exact hT.low x h
theorem QE.keep (h : QE w S p t s) (hk : Keeps S' w w') (hd : ∀ x, S x → ¬ S' x) : QE w' S p t s := by
  obtain ⟨S1, least, hh, hT, hn, hS, hb⟩ := h
  exact ⟨S1, least, (hk.block p (lt_of_heap hh) (hd p ((hS p).2 (.inl rfl)))).trans hh, hT.keep hk (fun x hx => hd x ((hS x).2 (.inr hx))), hn, hS, hb⟩
theorem QE.quiet (h : QE w S p t s) (hb : Below w.heap.size w w') : QE w' S p t s := h.keep (S' := fun _ => False) (Keeps.of_below hb) (fun _ _ h => h)
theorem QE.dt (h : QE w S p t s) : ∃ S2, DT w S2 t s.most s.tab := by
  obtain ⟨S1, _, _, hT, _⟩ := h
  exact ⟨S1, hT⟩
theorem QE.fits (h : QE w S p t s) : tot s.tab ≤ s.most ∧ s.most ≤ 4096 := by
  obtain ⟨S2, hT⟩ := h.dt
  exact hT.fits
end
/-- What a method of the program's encoder leaves. -/
def QPost (S : Nat → Prop) (w : World) (p t : Nat) (s : EncS) (w' : World) : Prop := ∃ S', QE w' S' p t s ∧ (∀ x, S' x → S x ∨ w.heap.size ≤ x) ∧ Keeps S w w'
/-- What a block hands back: bytes in new memory, what went wrong; the encoder then. -/
def QEPost (S : Nat → Prop) (w : World) (p t : Nat) (r : List Nat × Nat × EncS) (e : Ending) (w' : World) : Prop :=
  ∃ S' A c, e = .returned (.tuple #[.slice A r.1.length c, .int .i64 ((r.2.1 : Nat) : Int)]) ∧ QE w' S' p t r.2.2 ∧ (∀ x, S' x → S x ∨ w.heap.size ≤ x) ∧ Keeps S w w' ∧ At .u8 w' w'.heap.size A r.1 ∧ (A = none → c = 0) ∧ r.1.length ≤ c ∧ (∀ b o s, A = some ⟨b, o, s⟩ → w.heap.size ≤ b ∧ ¬ S' b)
end Go.Proofs.YtiandidencnlcaaDoor
/- The landed table(): an array of sixty-one fields by value; what lies at an index of it. -/
namespace Go.Proofs.YtiandidencnlcaaDoor
open Go.RowKit St

def fcells (x : ByteArray × ByteArray) : Array Value := #[.string x.1, .string x.2, .bool false]
/-- One operation a field, as the region has them: the value left out where it is empty. -/
def fOps (t : TypeId) (pos : String) : Nat → List (ByteArray × ByteArray) → List Oper
  | _, [] => []
  | d, x :: xs => { dst := some d, op := .build t (if x.2.data.size = 0 then #[(0, .const (.string x.1))] else #[(0, .const (.string x.1)), (1, .const (.string x.2))]), type := t, pos := pos, after := #[], guard := none } :: fOps t pos (d + 1) xs
theorem wpList_flds {P : Program} {ops : Array Oper} {rest : List Oper} {w : World} {Q : Exit → Act → World → Prop} (t : TypeId) (pos : String)
    (h1 : ∀ n : ByteArray, P.built t [(0, .string n)] = some #[.string n, .string ⟨#[]⟩, .bool false])
    (h2 : ∀ n v : ByteArray, P.built t [(0, .string n), (1, .string v)] = some #[.string n, .string v, .bool false]) :
    ∀ (xs : List (ByteArray × ByteArray)) (d : Nat) (a : Act), d + xs.length ≤ a.tmps.size →
      (∀ a' : Act, a'.tmps.size = a.tmps.size → a'.defers = a.defers → (∀ i (h : i < xs.length), a'.eval (.tmp (d + i)) = .agg (fcells xs[i])) →
        (∀ j, j < d → a'.eval (.tmp j) = a.eval (.tmp j)) → wpList P ops Q rest a' w) →
      wpList P ops Q (fOps t pos d xs ++ rest) a w
  | [], d, a, _, h => h a rfl rfl (fun i hi => absurd hi (by simp)) (fun _ _ => rfl)
  | x :: xs, d, a, hd, h => by
    have hlt : d < a.tmps.size := by simp at hd; omega
    show wpList P ops Q (_ :: (fOps t pos (d + 1) xs ++ rest)) a w
    refine wpList_buildTo rfl t _ rfl (some d) rfl (fcells x) ?_ ?_
    · by_cases hv : x.2.data.size = 0
      · rw [if_pos hv]
        have e : x.2 = ⟨#[]⟩ := by
          obtain ⟨x1, ⟨x2⟩⟩ := x
          simp only [] at hv ⊢
          rw [Array.eq_empty_of_size_eq_zero hv]
        unfold fcells
        rw [e]
        simpa [Act.eval] using h1 x.1
      · rw [if_neg hv]
        simpa [Act.eval, fcells] using h2 x.1 x.2
    refine wpList_flds t pos h1 h2 xs (d + 1) _ (by rw [Act.size_put]; simp at hd; omega) fun a' hs hdf hev hlow => ?_
    refine h a' (by rw [hs, Act.size_put]) (by rw [hdf, Act.defers_put']) (fun i hi => ?_) (fun j hj => ?_)
    · cases i with
      | zero => rw [Nat.add_zero, hlow d (by omega), Act.eval_put_same _ _ _ hlt]; rfl
      | succ i =>
        have := hev i (by simpa using hi)
        rw [show d + (i + 1) = d + 1 + i by omega, this]
        rfl
    · rw [hlow j (by omega), Act.eval_put_ne _ _ _ _ (by omega)]
/-- An array literal whose parts are aggregates of s cells each. -/
theorem wpList_buildRowsArr {P : Program} {ops : Array Oper} {rest : List Oper} {o : Oper} {a : Act} {w : World} {Q : Exit → Act → World → Prop} (hg : o.guard = none) (t e : TypeId) (n : Nat) (parts : Array (Nat × Operand)) (s : Nat) (vs : List Value)
    (ho : o.op = .build t parts) (ix : Nat → Nat) (dst : Option Tmp) (hdst : o.dst = dst)
    (hu : P.underlying t = some (.array n e)) (hsz : (P.info? e).map (·.size) = some s) (hz : ((P.info? t).bind (·.zero)).map (·.cells.size) = some (vs.length * s))
    (hs : 0 < s) (hparts : parts.toList = (List.range vs.length).map fun i => (i, Operand.tmp (ix i)))
    (h1 : ∀ v ∈ vs, v.cells.size = s) (hev : ∀ i (h : i < vs.length), a.eval (.tmp (ix i)) = vs[i])
    (h : wpList P ops Q rest (a.put dst (.agg (vs.flatMap fun v => v.cells.toList).toArray)) w) : wpList P ops Q (o :: rest) a w := by
  refine wpList_buildTo hg t parts ho dst hdst (vs.flatMap fun v => v.cells.toList).toArray ?_ h
  have e1 : (parts.map fun (i, x) => (i, a.eval x)).toList = (vs.zipIdx 0).map fun x => (x.2, x.1) := by
    rw [Array.toList_map, hparts, List.map_map]
    apply List.ext_getElem
    · simp
    · intro i h1 h2
      have hi : i < vs.length := by simpa using h1
      simp only [List.getElem_map, List.getElem_range, Function.comp, List.getElem_zipIdx, Nat.zero_add]
      rw [hev i hi]
  rw [e1]
  unfold Program.built
  cases hit : P.info? t with
  | none => simp [hit] at hz
  | some it =>
    cases hie : P.info? e with
    | none => simp [hie] at hsz
    | some ie =>
      simp only [hie, Option.map_some, Option.some.injEq] at hsz
      simp only [hit, Option.bind_some] at hz
      cases hzz : it.zero with
      | none => simp [hzz] at hz
      | some z =>
        simp only [hzz, Option.map_some, Option.some.injEq] at hz
        simp only [hu, hzz, hie, hsz]
        exact Great.fill_whole hs vs z.cells h1 hz.symm
/-- Names and values of the table. -/
def pairs : List (ByteArray × ByteArray) := (List.range 61).map fun i => (nm i, vl i)
theorem pairs_len : pairs.length = 61 := by simp [pairs]
/-- The cells of the table: name, value, false in turn. -/
def tcells : Array Value := ((pairs.map fun x => Value.agg (fcells x)).flatMap fun v => v.cells.toList).toArray
def zcells : Array Value := (List.replicate 61 [Value.string ⟨#[]⟩, Value.string ⟨#[]⟩, Value.bool false]).flatten.toArray
theorem tcells_size : tcells.size = 183 := by decide +kernel
def TbPost (w : World) (e : Ending) (w' : World) : Prop := ∃ T, e = .returned (.agg T) ∧ T = tcells ∧ Below w.heap.size w w'
set_option maxRecDepth 100000 in
set_option maxHeartbeats 4000000 in
theorem table_any (w : World) : Calls Tryd.prog 78 #[] w (TbPost w) := by
  refine calls_of_wp Tryd.func78 rfl ?_
  refine Great.wp_anyFrame 63 (by as_aux_lemma => kernel_rfl) rfl fun a0 hs0 hd0 => ?_
  apply wp_seq_k; intro K0 hK0
  apply wp_region_lit
  refine Great.wpList_allocTo rfl (some 0) rfl (.pointer (some ⟨w.heap.size, 0, none⟩)) (.cells zcells 106 (0, 0)) (by as_aux_lemma => kernel_rfl) ?_
  apply wpList_nil
  refine hK0 _ _ ?_
  have e0 := Act.eval_put_same a0 0 (.pointer (some ⟨w.heap.size, 0, none⟩)) (by omega)
  have hs1 : (a0.put (some 0) (.pointer (some ⟨w.heap.size, 0, none⟩))).tmps.size = 63 := by rw [Act.size_put, hs0]
  have hd1 : (a0.put (some 0) (.pointer (some ⟨w.heap.size, 0, none⟩))).defers = [] := by rw [Act.defers_put', hd0]
  generalize a0.put (some 0) (.pointer (some ⟨w.heap.size, 0, none⟩)) = a1 at e0 hs1 hd1 ⊢
  clear hK0 K0
  apply wp_seq_k; intro K1 hK1
  apply wp_region_lit
  refine Great.wpList_splitAt 61 (fOps 52 "stat.go:69" 1 pairs) (by as_aux_lemma => kernel_rfl) ?_
  refine wpList_flds 52 "stat.go:69" (fun _ => by as_aux_lemma => kernel_rfl) (fun _ _ => by as_aux_lemma => kernel_rfl) pairs 1 _ (by rw [pairs_len]; omega) fun a2 hs2 hd2 hev2 hlow2 => ?_
  refine wpList_buildRowsArr rfl 106 52 61 _ 3 (pairs.map fun x => Value.agg (fcells x)) rfl (fun i => 1 + i) (some 62) rfl (by as_aux_lemma => kernel_rfl) (by as_aux_lemma => kernel_rfl) (by as_aux_lemma => kernel_rfl) (by decide) (by as_aux_lemma => kernel_rfl) ?_ ?_ ?_
  · intro v hv
    obtain ⟨x, _, rfl⟩ := List.mem_map.1 hv
    rfl
  · intro i h
    rw [hev2 i (by simpa using h)]
    simp
  have e2 : a2.eval (.tmp 0) = .pointer (some ⟨w.heap.size, 0, none⟩) := (hlow2 0 (by omega)).trans e0
  have hs3 : (a2.put (some 62) (.agg tcells)).tmps.size = 63 := by rw [Act.size_put, hs2, hs1]
  have hd3 : (a2.put (some 62) (.agg tcells)).defers = [] := by rw [Act.defers_put', hd2, hd1]
  have e3 : (a2.put (some 62) (.agg tcells)).eval (.tmp 0) = .pointer (some ⟨w.heap.size, 0, none⟩) := (Act.eval_put_ne _ _ _ _ (by omega)).trans e2
  have e4 : (a2.put (some 62) (.agg tcells)).eval (.tmp 62) = .agg tcells := Act.eval_put_same _ _ _ (by omega)
  change wpList _ _ _ _ (a2.put (some 62) (.agg tcells)) _
  generalize a2.put (some 62) (.agg tcells) = a3 at hs3 hd3 e3 e4 ⊢
  refine wpList_store_rowTo rfl 106 _ _ rfl rfl w.heap.size tcells e3 e4 106 zcells (heap_alloc_new w _) (by rw [tcells_size]; as_aux_lemma => kernel_rfl) (by rw [tcells_size]; as_aux_lemma => kernel_rfl) (by as_aux_lemma => kernel_rfl) ?_
  apply wpList_nil
  refine hK1 _ _ ?_
  apply wp_ret
  have hrow : ((w.alloc (.cells zcells 106 (0, 0))).setRow w.heap.size tcells).heap[w.heap.size]? = some (.cells tcells 106 (0, 0)) :=
    setRow_heap _ _ zcells tcells 106 (0, 0) (heap_alloc_new w _)
  refine bodyPost_ret (results_cell_row Tryd.results78 _ _ w.heap.size 106 tcells (0, 0) _ ?_ hrow Tryd.underlying106 rfl (by rw [tcells_size]; as_aux_lemma => kernel_rfl)) hd3 ⟨tcells, rfl, rfl, ?_⟩
  · exact e3
  · exact below_setRow ((Below.refl _ _).alloc (Nat.le_refl _) _) (Nat.le_refl _) _
set_option maxRecDepth 100000 in
theorem tab_index : ∀ i : Nat, i < 61 → ∀ w : World, (Instr.index 106 (.agg tcells) (.int .i64 (i : Int))).run Tryd.prog w = .ok (.agg #[.string (nm i), .string (vl i), .bool false]) w
  | 0, _, _ => by kernel_rfl
  | 1, _, _ => by kernel_rfl
  | 2, _, _ => by kernel_rfl
  | 3, _, _ => by kernel_rfl
  | 4, _, _ => by kernel_rfl
  | 5, _, _ => by kernel_rfl
  | 6, _, _ => by kernel_rfl
  | 7, _, _ => by kernel_rfl
  | 8, _, _ => by kernel_rfl
  | 9, _, _ => by kernel_rfl
  | 10, _, _ => by kernel_rfl
  | 11, _, _ => by kernel_rfl
  | 12, _, _ => by kernel_rfl
  | 13, _, _ => by kernel_rfl
  | 14, _, _ => by kernel_rfl
  | 15, _, _ => by kernel_rfl
  | 16, _, _ => by kernel_rfl
  | 17, _, _ => by kernel_rfl
  | 18, _, _ => by kernel_rfl
  | 19, _, _ => by kernel_rfl
  | 20, _, _ => by kernel_rfl
  | 21, _, _ => by kernel_rfl
  | 22, _, _ => by kernel_rfl
  | 23, _, _ => by kernel_rfl
  | 24, _, _ => by kernel_rfl
  | 25, _, _ => by kernel_rfl
  | 26, _, _ => by kernel_rfl
  | 27, _, _ => by kernel_rfl
  | 28, _, _ => by kernel_rfl
  | 29, _, _ => by kernel_rfl
  | 30, _, _ => by kernel_rfl
  | 31, _, _ => by kernel_rfl
  | 32, _, _ => by kernel_rfl
  | 33, _, _ => by kernel_rfl
  | 34, _, _ => by kernel_rfl
  | 35, _, _ => by kernel_rfl
  | 36, _, _ => by kernel_rfl
  | 37, _, _ => by kernel_rfl
  | 38, _, _ => by kernel_rfl
  | 39, _, _ => by kernel_rfl
  | 40, _, _ => by kernel_rfl
  | 41, _, _ => by kernel_rfl
  | 42, _, _ => by kernel_rfl
  | 43, _, _ => by kernel_rfl
  | 44, _, _ => by kernel_rfl
  | 45, _, _ => by kernel_rfl
  | 46, _, _ => by kernel_rfl
  | 47, _, _ => by kernel_rfl
  | 48, _, _ => by kernel_rfl
  | 49, _, _ => by kernel_rfl
  | 50, _, _ => by kernel_rfl
  | 51, _, _ => by kernel_rfl
  | 52, _, _ => by kernel_rfl
  | 53, _, _ => by kernel_rfl
  | 54, _, _ => by kernel_rfl
  | 55, _, _ => by kernel_rfl
  | 56, _, _ => by kernel_rfl
  | 57, _, _ => by kernel_rfl
  | 58, _, _ => by kernel_rfl
  | 59, _, _ => by kernel_rfl
  | 60, _, _ => by kernel_rfl
  | n + 61, h, _ => absurd h (by omega)
end Go.Proofs.YtiandidencnlcaaDoor
/- Contract of the reference's Find. -/
namespace Go.Proofs.YtiandidencnlcaaDoor
open Go.RowKit St

def found (n v : ByteArray) : Nat × Nat := fnd n.toList v.toList 61 0
theorem fnd_le (n v : List UInt8) : ∀ f i, (fnd n v f i).1 ≤ i + f ∧ (fnd n v f i).2 ≤ i + f
  | 0, i => by simp [fnd]
  | f + 1, i => by
    have := fnd_le n v f (i + 1)
    rw [fnd]
    split
    · split
      · simp
        try omega
      · simp
        omega
    · omega
def FdPost (w : World) (s : Nat × Nat) (e : Ending) (w' : World) : Prop := e = .returned (.tuple #[.int .i64 ((s.1 : Nat) : Int), .int .i64 ((s.2 : Nat) : Int)]) ∧ Below w.heap.size w w'
def FdR (n v : ByteArray) (b o i : Value) : Prop := ∃ j : Nat, j ≤ 61 ∧ i = .int .i64 ((j : Int) - 1) ∧ b = .int .i64 (((fnd n.toList v.toList (61 - j) j).1 : Nat) : Int) ∧ o = .int .i64 (((fnd n.toList v.toList (61 - j) j).2 : Nat) : Int)
set_option maxRecDepth 100000 in
set_option maxHeartbeats 4000000 in
theorem rfind_any (n v : ByteArray) (w : World) : Calls Tryd.prog 54 #[.string n, .string v] w (FdPost w (found n v)) := by
  obtain ⟨D, hD⟩ : ∃ D, D = found n v := ⟨_, rfl⟩
  rw [← hD]
  have HD := Lib.hid hD
  clear hD
  go_enter Tryd.func54, Tryd.ntmps54
  go_wp2_with fail
  with_reducible refine (rknown_any w).mono ?_
  rintro e w2 ⟨g, rfl, hat, hb2⟩
  have HAT := Lib.hid hat
  clear hat
  go_wp2
  go_loop [7, 8, 9] (fun b o i => FdR n v b o i) (fun _ _ i => (intOf i + 1).toNat)
  case atStart => exact ⟨61, by omega, rfl, rfl, rfl⟩
  case round =>
    obtain ⟨j, hj, rfl, rfl, rfl⟩ := hrel
    by_cases h0 : 0 < j
    · obtain ⟨I, hI⟩ : ∃ I, I = j - 1 := ⟨_, rfl⟩
      rw [show (j : Int) - 1 = (I : Int) by omega]
      have HN : Hid (fnd n.toList v.toList (61 - I) I = if (nm I).toList == n.toList then (if (vl I).toList == v.toList then (I + 1, I + 1) else ((fnd n.toList v.toList (61 - j) j).1, I + 1)) else fnd n.toList v.toList (61 - j) j) := Lib.hid (by
        rw [show 61 - I = 61 - j + 1 by omega, fnd, show I + 1 = j by omega])
      obtain ⟨S, hS⟩ : ∃ S, S = fnd n.toList v.toList (61 - j) j := ⟨_, rfl⟩
      rw [← hS] at HN ⊢
      obtain ⟨P, hP⟩ : ∃ P, P = 2 * I := ⟨_, rfl⟩
      obtain ⟨Q, hQ⟩ : ∃ Q, Q = 2 * I + 1 := ⟨_, rfl⟩
      obtain ⟨c0, c1⟩ := tab_at HAT.out I (by omega)
      rw [← hP] at c0
      rw [← hQ] at c1
      obtain ⟨X, hX⟩ : ∃ X, X = nm I := ⟨_, rfl⟩
      obtain ⟨Y, hY⟩ : ∃ Y, Y = vl I := ⟨_, rfl⟩
      rw [← hX] at c0 HN
      rw [← hY] at c1 HN
      have e1 : 2 * (I : Int) = (P : Int) := by omega
      have e2 : (P : Int) + 1 = (Q : Int) := by omega
      have p1 : (P : Int) < 122 := by omega
      have p2 : (Q : Int) < 122 := by omega
      have p1' : P < 122 := by omega
      have p2' : Q < 122 := by omega
      have hI61 : I < 61 := by omega
      obtain ⟨s1, s2⟩ := S
      clear hI hP hQ hX hY hS
      cases hN : X.toList == n.toList with
      | false =>
        have HN2 : Hid (fnd n.toList v.toList (61 - I) I = (s1, s2)) := Lib.hid (by rw [HN.out, hN]; rfl)
        go_wp2
        go_round
        case rel => exact ⟨I, by omega, by go_num, by rw [HN2.out], by rw [HN2.out]⟩
        case measure => simp [intOf]
      | true =>
        cases hV : Y.toList == v.toList with
        | false =>
          have HN2 : Hid (fnd n.toList v.toList (61 - I) I = (s1, I + 1)) := Lib.hid (by rw [HN.out, hN, hV]; rfl)
          go_wp2
          go_round
          case rel => exact ⟨I, by omega, by go_num, by rw [HN2.out], by rw [HN2.out]; go_num⟩
          case measure => simp [intOf]
        | true =>
          have HN2 : Hid (fnd n.toList v.toList (61 - I) I = (I + 1, I + 1)) := Lib.hid (by rw [HN.out, hN, hV]; rfl)
          go_wp2
          go_round
          case rel => exact ⟨I, by omega, by go_num, by rw [HN2.out]; go_num, by rw [HN2.out]; go_num⟩
          case measure => simp [intOf]
    · obtain rfl : j = 0 := by omega
      have HE : Hid (fnd n.toList v.toList (61 - 0) 0 = D) := Lib.hid (by rw [HD.out]; rfl)
      rw [HE.out]
      obtain ⟨d1, d2⟩ := D
      go_wp2
      go_ret2
      exact ⟨rfl, hb2⟩
end Go.Proofs.YtiandidencnlcaaDoor
