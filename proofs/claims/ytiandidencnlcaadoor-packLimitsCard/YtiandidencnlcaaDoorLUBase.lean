/- Where a representation ends, and how great its field is. -/
import Derived.Test.YtiandidencnlcaaDoorQMath
import Derived.Test.YtiandidencnlcaaDoorLULit
import Derived.Test.YtiandidencnlcaaDoorLRowF
import Derived.Test.YtiandidencnlcaaDoorLDAdd
import Derived.Test.YtiandidencnlcaaDoorLSTotal
import Derived.Test.YtiandidencnlcaaDoorLStr
namespace Go.Proofs.YtiandidencnlcaaDoor
open Go.RowKit

/-- Where a representation ends. -/
theorem uone_next (b : List Nat) (k m : Nat) (L : List Fld) (hk : k < b.length) (h : (uone b k m L).ok = true) : k < (uone b k m L).next ∧ (uone b k m L).next ≤ b.length := by
  rw [uone] at h ⊢
  obtain ⟨y, hy⟩ : ∃ y, y = b.getD k 0 := ⟨_, rfl⟩
  rw [← hy] at h ⊢
  obtain ⟨bt, hbt⟩ : ∃ bt, bt = ubits y := ⟨_, rfl⟩
  have hb : 1 ≤ bt ∧ bt ≤ 8 := by rw [hbt]; unfold ubits; repeat (first | (split <;> try omega))
  rw [← hbt] at h ⊢
  obtain ⟨G, hG⟩ : ∃ G, G = Pn.getI (b.drop k) (bt : Int) := ⟨_, rfl⟩
  rw [← hG] at h ⊢
  obtain ⟨n, u, e⟩ := G
  simp only [uoneG] at h ⊢
  by_cases he : e = 0
  · subst he
    have hu := get_used (b.drop k) bt n u hb.1 hb.2 hG.symm
    rw [List.length_drop] at hu
    rw [if_neg (by omega)] at h ⊢
    split
    · exact ⟨by simp only []; omega, by simp only []; omega⟩
    · rename_i h1
      rw [if_neg h1] at h
      split
      · rename_i h2
        rw [if_pos h2] at h
        split
        · exact ⟨by simp only []; omega, by simp only []; omega⟩
        · exact ⟨by simp only []; omega, by simp only []; omega⟩
      · rename_i h2
        rw [if_neg h2, ulit] at h
        rw [ulit]
        split at h
        · simp [ubad] at h
        · rename_i h3
          have hN := uname_end b n (k + u) L (by omega) (by simpa using h3)
          rw [if_neg h3]
          rw [ulit2] at h ⊢
          split at h
          · simp [ubad] at h
          · rename_i h4
            rw [if_neg h4]
            obtain ⟨T, hT⟩ : ∃ T, T = utext b (uname b n (k + u) L).2.1 := ⟨_, rfl⟩
            rw [← hT] at h4 ⊢
            obtain ⟨t, k2, ok2⟩ := T
            simp only [] at h4 ⊢
            have : ok2 = true := by simpa using h4
            subst this
            have := utext_end hT.symm
            omega
  · rw [if_pos he] at h
    simp [ubad] at h
theorem ufield_size (L : List Fld) (i : Int) (h : tot L ≤ 4096) : fsize (ufield L i).1 ≤ 40000 := by
  rw [ufield]
  split
  · rw [stg]
    split
    · have h1 := nm_small ⟨i.toNat - 1, by omega⟩
      have h2 := vl_small ⟨i.toNat - 1, by omega⟩
      unfold fsize
      simp only [] at h1 h2 ⊢
      omega
    · decide
  · rw [getL]
    split
    · rename_i h1
      have hlt : (i - 61).toNat - 1 < L.length := by omega
      rw [List.getD, List.getElem?_eq_getElem hlt]
      have := fld_le (List.getElem_mem hlt)
      simp only [Option.getD_some]
      omega
    · decide
theorem uone_size (b : List Nat) (k m : Nat) (L : List Fld) (hL : tot L ≤ 4096) : fsize (uone b k m L).fld ≤ 40000 := by
  have h0 : fsize noFld ≤ 40000 := by decide
  rw [uone, uoneG]
  split
  · exact h0
  · split
    · exact ufield_size L _ hL
    · split
      · split <;> exact h0
      · rw [ulit]
        split
        · exact h0
        · rw [ulit2]
          split
          · exact h0
          · unfold fsize
            simp only []
            rw [str_size]
            have h1 := uname_size b (Pn.getI (b.drop k) (ubits (b.getD k 0) : Int)).1 (k + (Pn.getI (b.drop k) (ubits (b.getD k 0) : Int)).2.1) L hL
            have h2 := utext_len b (uname b (Pn.getI (b.drop k) (ubits (b.getD k 0) : Int)).1 (k + (Pn.getI (b.drop k) (ubits (b.getD k 0) : Int)).2.1) L).2.1
            omega
end Go.Proofs.YtiandidencnlcaaDoor
/- The landed read at work: the table, the row of the fields, the field's box; what holds at each label. -/
namespace Go.Proofs.YtiandidencnlcaaDoor
open Go.RowKit

/-- The table at t, the row v of the fields r, the box g with the field fd. -/
def Ds (w : World) (St : Nat → Prop) (t g m : Nat) (L : List Fld) (v : Value) (r : List Fld) (fd : Fld) (wr : World) : Prop :=
  ∃ S', DT wr S' t m L ∧ (∀ x, S' x → St x ∨ w.heap.size ≤ x) ∧ Keeps St w wr ∧ wr.ownsRow w.heap.size 52 3 v r.length (cF r) ∧ (∀ j, v.ownBlock = some j → ¬ S' j ∧ j ≠ g) ∧ wr.heap[g]? = some (.cells #[.string fd.name, .string fd.value, .bool fd.never] 52 (0, 0)) ∧ ¬ S' g ∧ w.heap.size ≤ g ∧ NoNev L
/-- What read hands back. -/
def RdPost (w : World) (St : Nat → Prop) (t : Nat) (D : Blk) (e : Ending) (w' : World) : Prop :=
  ∃ S' A c m1 L1, e = .returned (.tuple #[.slice A D.out.length c, .int .i64 ((D.err : Nat) : Int)]) ∧ DT w' S' t m1 L1 ∧ NoNev L1 ∧ (D.dead = false → m1 = D.most ∧ L1 = D.tab) ∧ (∀ x, S' x → St x ∨ w.heap.size ≤ x) ∧ Keeps St w w' ∧ AtF w' w'.heap.size A D.out ∧ (A = none → c = 0) ∧ D.out.length ≤ c ∧ (∀ b o s, A = some ⟨b, o, s⟩ → w.heap.size ≤ b ∧ ¬ S' b) ∧ (D.dead = true ∧ D.err = 2 ∧ D.out = [] ∧ A = none ∨ D.dead = false ∧ D.err ≠ 2)
section
variable {w wr w' w1 : World} {St S' : Nat → Prop} {t g m : Nat} {L r : List Fld} {v : Value} {fd fd2 : Fld} {D : Blk}
theorem Ds.quiet (h : Ds w St t g m L v r fd wr) (hb : Below wr.heap.size wr w') : Ds w St t g m L v r fd w' := by
  obtain ⟨S1, h1, h2, h3, h4, h5, h6, h7, h8⟩ := h
  have hk : Keeps (fun _ => False) wr w' := Keeps.of_below hb
  exact ⟨S1, h1.keep hk (fun _ _ h => h), h2, h3.trans hk (fun _ h => h.elim), rowF_keep h4 hb, h5, (hb.block g (lt_of_heap h6)).trans h6, h7, h8⟩
/-- Behind a method of the table. -/
theorem Ds.step {m2 : Nat} {L2 : List Fld} (h2 : ∀ x, S' x → St x ∨ w.heap.size ≤ x) (h3 : Keeps St w wr) (h4 : wr.ownsRow w.heap.size 52 3 v r.length (cF r)) (h5 : ∀ j, v.ownBlock = some j → ¬ S' j ∧ j ≠ g) (h6 : wr.heap[g]? = some (.cells #[.string fd.name, .string fd.value, .bool fd.never] 52 (0, 0))) (h7 : ¬ S' g) (h8 : w.heap.size ≤ g)
    (hnf : NoNev L2) (hP : DPost S' wr t m2 L2 w') : Ds w St t g m2 L2 v r fd w' := by
  obtain ⟨S2, hT, hS2, hK⟩ := hP
  have hgl := lt_of_heap h6
  refine ⟨S2, hT, fun x hx => ?_, h3.trans hK (fun x hx hlt => ?_), row_keeps h4 hK (fun j hj => (h5 j hj).1), fun j hj => ⟨fun hx => ?_, (h5 j hj).2⟩, (hK.block g hgl h7).trans h6, fun hx => ?_, h8, hnf⟩
  · rcases hS2 x hx with h | h
    · exact h2 x h
    · exact .inr (Nat.le_trans h3.size h)
  · rcases h2 x hx with h | h
    · exact h
    · omega
  · rcases hS2 j hx with h | h
    · exact (h5 j hj).1 h
    · have := (h4.lt j hj).2
      omega
  · rcases hS2 g hx with h | h
    · exact h7 h
    · omega
/-- Another field in the box. -/
theorem Ds.poke (h : Ds w St t g m L v r fd wr) (hk : Keeps (fun x => x = g) wr w') (hh : w'.heap[g]? = some (.cells #[.string fd2.name, .string fd2.value, .bool fd2.never] 52 (0, 0))) : Ds w St t g m L v r fd2 w' := by
  obtain ⟨S1, h1, h2, h3, h4, h5, h6, h7, h8, h9⟩ := h
  exact ⟨S1, h1.keep hk (fun x hx e => h7 (e ▸ hx)), h2, h3.trans hk (fun x hx hlt => by omega), row_keeps h4 hk (fun j hj e => (h5 j hj).2 e), h5, hh, h7, h8, h9⟩
theorem Ds.put (h : Ds w St t g m L v r fd wr) : Ds w St t g m L v r fd2 (((wr.setCell ⟨g, 0, none⟩ (.string fd2.name)).setCell ⟨g, 1, none⟩ (.string fd2.value)).setCell ⟨g, 2, none⟩ (.bool fd2.never)) := by
  obtain ⟨_, _, _, _, _, _, h6, _⟩ := id h
  refine h.poke ((((Keeps.refl (fun x => x = g) wr).setCell (p := ⟨g, 0, none⟩) rfl _).setCell (p := ⟨g, 1, none⟩) rfl _).setCell (p := ⟨g, 2, none⟩) rfl _) ?_
  have h1 : (wr.setCell ⟨g, 0, none⟩ (.string fd2.name)).heap[g]? = some (.cells #[.string fd2.name, .string fd.value, .bool fd.never] 52) := by
    have := heap_setCell_same wr g 0 _ 52 (.string fd2.name) h6
    simpa using this
  have h2 : ((wr.setCell ⟨g, 0, none⟩ (.string fd2.name)).setCell ⟨g, 1, none⟩ (.string fd2.value)).heap[g]? = some (.cells #[.string fd2.name, .string fd2.value, .bool fd.never] 52) := by
    have := heap_setCell_same _ g 1 _ 52 (.string fd2.value) h1
    simpa using this
  have := heap_setCell_same _ g 2 _ 52 (.bool fd2.never) h2
  simpa using this
theorem Ds.never {z : Bool} (h : Ds w St t g m L v r fd wr) : Ds w St t g m L v r ⟨fd.name, fd.value, z⟩ (wr.setCell ⟨g, 2, none⟩ (.bool z)) := by
  obtain ⟨_, _, _, _, _, _, h6, _⟩ := id h
  refine h.poke ((Keeps.refl (fun x => x = g) wr).setCell (p := ⟨g, 2, none⟩) rfl _) ?_
  have := heap_setCell_same wr g 2 _ 52 (.bool z) h6
  simpa using this
/-- The row has grown by one. -/
theorem Ds.grown {f : Fld} {v2 : Value} {o : Obj} (h : Ds w St t g m L v r fd wr) (hg : (wr.alloc o).grownBy w1 v.ownBlock) (hown : w1.ownsRow w.heap.size 52 3 v2 (r.length + 1) (cF (r ++ [f]))) (hv2 : ∀ k, v2.ownBlock = some k → v.ownBlock = some k ∨ (wr.alloc o).heap.size ≤ k) : Ds w St t g m L v2 (r ++ [f]) fd w1 := by
  obtain ⟨S1, h1, h2, h3, h4, h5, h6, h7, h8, h9⟩ := h
  have hk : Keeps (fun x => v.ownBlock = some x) wr w1 := by
    have ha : Keeps (fun x => v.ownBlock = some x) wr (wr.alloc o) := Keeps.of_below ((Below.refl _ _).alloc (Nat.le_refl _) o)
    refine ha.trans (S' := fun x => v.ownBlock = some x) ⟨hg.os, hg.tape, hg.output, hg.size, fun k hk hn => hg.block k hk (fun e => hn e.symm)⟩ (fun x hx _ => hx)
  have hgl := lt_of_heap h6
  refine ⟨S1, h1.keep hk (fun x hx e => (h5 x e).1 hx), h2, h3.trans hk (fun x hx hlt => ?_), by rw [List.length_append]; exact hown, fun k hk => ⟨fun hx => ?_, fun hx => ?_⟩, (hk.block g hgl (fun e => (h5 g e).2 rfl)).trans h6, h7, h8, h9⟩
  · have := rowF_block h4 x hx
    omega
  · rcases hv2 k hk with h | h
    · exact (h5 k h).1 hx
    · have := h1.low k hx
      simp at h
      omega
  · rcases hv2 k hk with h | h
    · exact (h5 k h).2 hx
    · simp at h
      omega
theorem Ds.bad {m3 : Nat} {L3 : List Fld} (h : Ds w St t g m L v r fd wr) : RdPost w St t ⟨[], 2, true, m3, L3⟩ (.returned (.tuple #[.slice none 0 0, .int .i64 2])) wr := by
  obtain ⟨S1, h1, h2, h3, h4, h5, h6, h7, h8, h9⟩ := h
  exact ⟨S1, none, 0, m, L, rfl, h1, h9, fun h => (Bool.noConfusion h), h2, h3, atF_nil _ _ _, fun _ => rfl, Nat.le_refl _, fun b o s h => (by cases h), .inl ⟨rfl, rfl, rfl, rfl⟩⟩
theorem Ds.long (h : Ds w St t g m L v r fd wr) : RdPost w St t ⟨[], 3, false, m, L⟩ (.returned (.tuple #[.slice none 0 0, .int .i64 3])) wr := by
  obtain ⟨S1, h1, h2, h3, h4, h5, h6, h7, h8, h9⟩ := h
  exact ⟨S1, none, 0, m, L, rfl, h1, h9, fun _ => ⟨rfl, rfl⟩, h2, h3, atF_nil _ _ _, fun _ => rfl, Nat.le_refl _, fun b o s h => (by cases h), .inr ⟨rfl, by simp⟩⟩
theorem Ds.done (h : Ds w St t g m L v r fd wr) : RdPost w St t ⟨r, 0, false, m, L⟩ (.returned (.tuple #[v, .int .i64 0])) wr := by
  obtain ⟨S1, h1, h2, h3, h4, h5, h6, h7, h8, h9⟩ := h
  obtain ⟨A, c, rfl, hc, hA⟩ := rowF_shape h4
  exact ⟨S1, A, c, m, L, rfl, h1, h9, fun _ => ⟨rfl, rfl⟩, h2, h3, AtF.of_own h4, hA, hc, fun b o s e => ⟨by
    subst e
    exact rowF_block h4 b rfl, by
    subst e
    exact (h5 b rfl).1⟩, Or.inr ⟨rfl, by simp⟩⟩
end
/-- The rest of the block b from k on lies at A, as long as the decoder's own blocks alone turn. -/
structure Rst (w : World) (St : Nat → Prop) (b : List Nat) (k : Nat) (A : Option Addr) (n c : Nat) : Prop where
  at' : ∀ W, Keeps St w W → At .u8 W W.heap.size A (b.drop k)
  len : b.length - k = n
  cap : n ≤ c
  nil : A = none → c = 0
theorem Rst.cut {w : World} {St : Nat → Prop} {b : List Nat} {k j n c c' : Nat} {A A' : Option Addr} (h : Rst w St b k A n c) (hc : Cut A c A' c' j n) : Rst w St b (k + j) A' (n - j) c' := by
  refine ⟨fun W hK => ?_, by have := h.len; omega, hc.cap, hc.nil h.nil⟩
  have := hc.at' W (b.drop k) (by rw [List.length_drop]; exact h.len) (h.at' W hK)
  rwa [List.drop_drop] at this
/-- What does not turn while read runs. -/
structure REnv (w : World) (St : Nat → Prop) (p t g : Nat) (b : List Nat) : Prop where
  rdy : Rdy w
  free : Free St
  byt : ∀ x ∈ b, x < 256
  len : b.length ≤ 100000
  cel : w.cell? ⟨p, 0, none⟩ = some (.pointer (some ⟨t, 0, none⟩))
  own : ¬ St p
theorem REnv.low {w : World} {St : Nat → Prop} {p t g : Nat} {b : List Nat} (h : REnv w St p t g b) : p < w.heap.size := World.block_lt_of_cell? w _ h.cel
/-- How many limits may still come. -/
def limsLeft (lims : Nat) (out : List Fld) : Nat := if tot out = 0 then 2 - lims else 0
/-- Between two representations: the rest from k on is to be read, the fields so far are out. -/
def RC (w : World) (St : Nat → Prop) (t g : Nat) (b : List Nat) (room : Int) (D : Blk) (A : Option Addr) (n c : Nat) (v : Value) (T q k : Nat) (wr : World) : Prop :=
  ∃ (lims f m : Nat) (out r L : List Fld) (fd : Fld), Rst w St b k A n c ∧ k ≤ b.length ∧ lims ≤ 2 ∧ q = limsLeft lims out ∧ T = tot out ∧ out.length ≤ k ∧ tot out ≤ 40000 * k ∧ b.length - k < f ∧ ugo b room f k lims out m L = D ∧ ((T : Int) ≤ room → r = out) ∧ Ds w St t g m L v r fd wr
/-- Behind a representation that is a field (in the box). -/
def RF (w : World) (St : Nat → Prop) (t g : Nat) (b : List Nat) (room : Int) (D : Blk) (A : Option Addr) (n c : Nat) (v : Value) (T k : Nat) (wr : World) : Prop :=
  ∃ (lims f m : Nat) (out r L : List Fld) (fd : Fld), Rst w St b k A n c ∧ k ≤ b.length ∧ lims ≤ 2 ∧ T = tot out ∧ out.length < k ∧ tot out + 40000 ≤ 40000 * k ∧ fsize fd ≤ 40000 ∧ b.length - k < f ∧ ugo b room f k lims (out ++ [fd]) m L = D ∧ ((T : Int) ≤ room → r = out) ∧ Ds w St t g m L v r fd wr
/-- Behind what was no representation. -/
def RB (w : World) (St : Nat → Prop) (t g : Nat) (D : Blk) (wr : World) : Prop :=
  ∃ (m m3 : Nat) (L L3 : List Fld) (v : Value) (r : List Fld) (fd : Fld), D = ⟨[], 2, true, m3, L3⟩ ∧ Ds w St t g m L v r fd wr
/-- read's frame at a label; u: the scratch slots. -/
def RFr (p g : Nat) (room : Int) (v1 x8 x10 x11 x12 x13 x14 : Value) (a : Act) : Prop :=
  ∃ u : Nat → Value, a = { tmps := #[.pointer (some ⟨p, 0, none⟩), v1, .int .i64 room, undef, undef, undef, .slice none 0 0, .int .i64 0, x8, .pointer (some ⟨g, 0, none⟩), x10, x11, x12, x13, x14, u 15, u 16, u 17, u 18, u 19, u 20, u 21, u 22, u 23, u 24, u 25, u 26, u 27, u 28, u 29, u 30, u 31, u 32, u 33, u 34, u 35, u 36, u 37, u 38, u 39, u 40, u 41, u 42, u 43, u 44, u 45, u 46, u 47, u 48, u 49, u 50, u 51, u 52, u 53, u 54, u 55, u 56, u 57, u 58, u 59, u 60, u 61, u 62, u 63, u 64, u 65, u 66, u 67, u 68, u 69, u 70, u 71, u 72, u 73, u 74, u 75, u 76, u 77, u 78, u 79, u 80, u 81, u 82, u 83, u 84, u 85, u 86, u 87, u 88, u 89, u 90, u 91, u 92, u 93, u 94, u 95, u 96, u 97, u 98, u 99, u 100, u 101, u 102, u 103, u 104, u 105, u 106], defers := [] }
set_option maxRecDepth 100000 in
theorem RFr.mk {p g : Nat} {room : Int} {v1 x8 x10 x11 x12 x13 x14 : Value} {u15 u16 u17 u18 u19 u20 u21 u22 u23 u24 u25 u26 u27 u28 u29 u30 u31 u32 u33 u34 u35 u36 u37 u38 u39 u40 u41 u42 u43 u44 u45 u46 u47 u48 u49 u50 u51 u52 u53 u54 u55 u56 u57 u58 u59 u60 u61 u62 u63 u64 u65 u66 u67 u68 u69 u70 u71 u72 u73 u74 u75 u76 u77 u78 u79 u80 u81 u82 u83 u84 u85 u86 u87 u88 u89 u90 u91 u92 u93 u94 u95 u96 u97 u98 u99 u100 u101 u102 u103 u104 u105 u106 : Value} : RFr p g room v1 x8 x10 x11 x12 x13 x14 { tmps := #[.pointer (some ⟨p, 0, none⟩), v1, .int .i64 room, undef, undef, undef, .slice none 0 0, .int .i64 0, x8, .pointer (some ⟨g, 0, none⟩), x10, x11, x12, x13, x14, u15, u16, u17, u18, u19, u20, u21, u22, u23, u24, u25, u26, u27, u28, u29, u30, u31, u32, u33, u34, u35, u36, u37, u38, u39, u40, u41, u42, u43, u44, u45, u46, u47, u48, u49, u50, u51, u52, u53, u54, u55, u56, u57, u58, u59, u60, u61, u62, u63, u64, u65, u66, u67, u68, u69, u70, u71, u72, u73, u74, u75, u76, u77, u78, u79, u80, u81, u82, u83, u84, u85, u86, u87, u88, u89, u90, u91, u92, u93, u94, u95, u96, u97, u98, u99, u100, u101, u102, u103, u104, u105, u106], defers := [] } :=
  ⟨fun i => (#[u15, u16, u17, u18, u19, u20, u21, u22, u23, u24, u25, u26, u27, u28, u29, u30, u31, u32, u33, u34, u35, u36, u37, u38, u39, u40, u41, u42, u43, u44, u45, u46, u47, u48, u49, u50, u51, u52, u53, u54, u55, u56, u57, u58, u59, u60, u61, u62, u63, u64, u65, u66, u67, u68, u69, u70, u71, u72, u73, u74, u75, u76, u77, u78, u79, u80, u81, u82, u83, u84, u85, u86, u87, u88, u89, u90, u91, u92, u93, u94, u95, u96, u97, u98, u99, u100, u101, u102, u103, u104, u105, u106] : Array Value).getD (i - 15) undef, rfl⟩
def lenOf : Value → Nat
  | .slice _ n _ => n
  | _ => 0
def okOf : Value → Bool
  | .bool b => b
  | _ => false
/-- What holds at read's labels: 0 the end, 1 the next representation, 2 an index, 3 one that is added, 4 a limit, 5 a field. -/
def RJ (w : World) (St : Nat → Prop) (p t g : Nat) (b : List Nat) (room : Int) (D : Blk) : Nat → Act → World → Prop
  | 0, a, wr => ∃ (x8 x10 x11 x13 : Value) (A : Option Addr) (c T q : Nat), RFr p g room (.slice A 0 c) x8 x10 x11 (.int .i64 (T : Int)) x13 (.int .i64 (q : Int)) a ∧ RC w St t g b room D A 0 c x8 T q b.length wr
  | 1, a, wr => ∃ (x8 x10 x11 x13 : Value) (A : Option Addr) (n c T q k : Nat), RFr p g room (.slice A n c) x8 x10 x11 (.int .i64 (T : Int)) x13 (.int .i64 (q : Int)) a ∧ RC w St t g b room D A n c x8 T q k wr
  | 2, a, wr => ∃ (x8 x10 x11 x13 : Value) (A : Option Addr) (n c T q k : Nat), RFr p g room (.slice A n c) x8 x10 x11 (.int .i64 (T : Int)) x13 (.int .i64 (q : Int)) a ∧ RC w St t g b room D A n c x8 T q k wr ∧ k < b.length ∧ 128 ≤ b.getD k 0
  | 3, a, wr => ∃ (x8 x10 x11 x13 : Value) (A : Option Addr) (n c T q k : Nat), RFr p g room (.slice A n c) x8 x10 x11 (.int .i64 (T : Int)) x13 (.int .i64 (q : Int)) a ∧ RC w St t g b room D A n c x8 T q k wr ∧ k < b.length ∧ 64 ≤ b.getD k 0 ∧ b.getD k 0 < 128
  | 4, a, wr => ∃ (x8 x10 x11 x13 : Value) (A : Option Addr) (n c T q k : Nat), RFr p g room (.slice A n c) x8 x10 x11 (.int .i64 (T : Int)) x13 (.int .i64 (q : Int)) a ∧ RC w St t g b room D A n c x8 T q k wr ∧ k < b.length ∧ 32 ≤ b.getD k 0 ∧ b.getD k 0 < 64
  | 5, a, wr => ∃ (x8 x10 x11 x14 : Value) (A : Option Addr) (n c T : Nat) (ok : Bool), RFr p g room (.slice A n c) x8 x10 x11 (.int .i64 (T : Int)) (.bool ok) x14 a ∧ (ok = true → ∃ k, RF w St t g b room D A n c x8 T k wr) ∧ (ok = false → RB w St t g D wr)
  | _, _, _ => False
/-- It falls at every jump. -/
def Rμ (l : Nat) (a : Act) (_ : World) : Nat :=
  match l with
  | 0 => 0
  | 1 => 3 * lenOf (a.tmps.getD 1 undef) + 2
  | 5 => if okOf (a.tmps.getD 13 undef) then 3 * lenOf (a.tmps.getD 1 undef) + 3 else 0
  | _ => 3 * lenOf (a.tmps.getD 1 undef) + 1
/-- The code behind the first scope. -/
def scopeIn : Code → Code
  | .scope c => c
  | .seq _ c => scopeIn c
  | _ => .skip
def scopeOf : Option Code → Code
  | some c => scopeIn c
  | _ => .skip
/-- What is to be shown of each label. -/
def Passes (w : World) (St : Nat → Prop) (p t g : Nat) (b : List Nat) (room : Int) (D : Blk) (l : Nat) : Prop := ∀ (a : Act) (wr : World), RJ w St p t g b room D l a wr →
  ∃ rest, findLabel (scopeOf Tryd.f40.body) l = some rest ∧ rest.wp Tryd.prog (jumpsTo (fun l' a' w' => RJ w St p t g b room D l' a' w' ∧ Rμ l' a' w' < Rμ l a wr) (bodyPost Tryd.prog Tryd.f40 (RdPost w St t D))) a wr
/-- The same of label 1, to which the run falls at first. -/
def Passes1 (w : World) (St : Nat → Prop) (p t g : Nat) (b : List Nat) (room : Int) (D : Blk) : Prop := ∀ (a : Act) (wr : World), RJ w St p t g b room D 1 a wr →
  ∃ rest, findLabel (scopeOf Tryd.f40.body) 1 = some (Code.skip.seq rest) ∧ rest.wp Tryd.prog (jumpsTo (fun l' a' w' => RJ w St p t g b room D l' a' w' ∧ Rμ l' a' w' < Rμ 1 a wr) (bodyPost Tryd.prog Tryd.f40 (RdPost w St t D))) a wr
theorem wp_of_label {P : Program} {Q : Exit → Act → World → Prop} {a : Act} {w : World} {c rest rest0 : Code} {l : Nat} (h : findLabel c l = some (Code.skip.seq rest)) (h0 : findLabel c l = some (Code.skip.seq rest0)) (hp : rest.wp P Q a w) : rest0.wp P Q a w := by
  rw [h] at h0
  injection h0 with h0
  injection h0 with _ h0
  exact h0 ▸ hp
theorem jumpsTo_mono {J J' : Nat → Act → World → Prop} {Q : Exit → Act → World → Prop} (h : ∀ l a w, J l a w → J' l a w) : ∀ e a w, jumpsTo J Q e a w → jumpsTo J' Q e a w := by
  intro e a w hq
  cases e <;> first | exact hq | exact h _ _ _ hq
/-- A literal's representation, by name and value. -/
theorem uone_lit (b : List Nat) (k m : Nat) (L : List Fld) (y : Nat) (hy : b.getD k 0 = y) (h1 : y < 128) (h2 : ¬ (32 ≤ y ∧ y < 64)) (V : (ByteArray × ByteArray) × Nat × Bool) (hV : V = ulits b k L (Pn.getI (b.drop k) (ubits y : Int))) :
    uone b k m L = if V.2.2 = false then ubad m L else ⟨⟨V.1.1, V.1.2, decide (16 ≤ y ∧ y < 32)⟩, V.2.1, false, true, m, if 64 ≤ y then addL m ⟨V.1.1, V.1.2, decide (16 ≤ y ∧ y < 32)⟩ L else L⟩ := by
  rw [uone, hy]
  obtain ⟨R, hR⟩ : ∃ R, R = Pn.getI (b.drop k) (ubits y : Int) := ⟨_, rfl⟩
  rw [← hR] at hV ⊢
  obtain ⟨n, u, e⟩ := R
  simp only [uoneG]
  by_cases he : e = 0
  · have q1 : ¬ e ≠ 0 := fun h => h he
    have q2 : ¬ 128 ≤ y := by omega
    have hV1 : V = ulits1 b (uname b n (k + u) L) := by rw [hV, ulits, if_neg q1]
    rw [if_neg q1, if_neg q2, if_neg h2, hV1]
    obtain ⟨N, hN⟩ : ∃ N, N = uname b n (k + u) L := ⟨_, rfl⟩
    rw [← hN, ulit, ulits1]
    by_cases hN2 : N.2.2 = false
    · rw [if_pos hN2, if_pos hN2]
      rfl
    · rw [if_neg hN2, if_neg hN2, ulit2, ulits2]
      by_cases hT2 : (utext b N.2.1).2.2 = false
      · rw [if_pos hT2, if_pos hT2]
        rfl
      · rw [if_neg hT2, if_neg hT2]
        rfl
  · have hV1 : V = ((⟨#[]⟩, ⟨#[]⟩), 0, false) := by rw [hV, ulits, if_pos he]
    rw [if_pos he, hV1]
    rfl
end Go.Proofs.YtiandidencnlcaaDoor
