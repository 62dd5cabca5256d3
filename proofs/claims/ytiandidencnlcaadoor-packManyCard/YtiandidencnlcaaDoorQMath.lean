/- Chapter 8 over plain values: strings, representations, blocks. -/
import Derived.Test.YtiandidencnlcaaDoorDGetL
import Derived.Test.YtiandidencnlcaaDoorPGetD
import Derived.Test.YtiandidencnlcaaDoorHRead
import Derived.Test.YtiandidencnlcaaDoorLStr
import Derived.Test.YtiandidencnlcaaDoorLMem
import Derived.Laws.Strings
import Derived.Below
namespace Go.Proofs.YtiandidencnlcaaDoor
open Go.RowKit

theorem rd_used : ∀ (f : Nat) (l : List Nat) (j n v u : Nat), Pn.rd f l j n = (v, u, 0) → j + 2 ≤ u ∧ u ≤ j + 1 + l.length ∧ v ≤ 2147483647
  | 0, _, _, _, _, _, h => by simp [Pn.rd] at h
  | f + 1, [], _, _, _, _, h => by simp [Pn.rd] at h
  | f + 1, x :: r, j, n, v, u, h => by
    rw [Pn.rd] at h
    split at h
    · simp at h
    · split at h
      · injection h with h1 h2
        injection h2 with h2 h3
        rw [List.length_cons]
        omega
      · have := rd_used f r (j + 1) _ v u h
        rw [List.length_cons]
        omega
/-- A number that is read has at least one byte, and they are there. -/
theorem get_used (l : List Nat) (b : Nat) (v u : Nat) (hb1 : 1 ≤ b) (hb8 : b ≤ 8) (h : Pn.getI l (b : Int) = (v, u, 0)) : 1 ≤ u ∧ u ≤ l.length ∧ v ≤ 2147483647 := by
  rw [Pn.getI, if_neg (by omega), Int.toNat_natCast] at h
  rcases l with _ | ⟨x, r⟩
  · simp [Pn.getN] at h
  · rw [Pn.getN] at h
    have hp : 2 ^ b ≤ 256 := Pn.full_bound hb8
    have hm := Nat.mod_lt x (Pn.two_pos b)
    split at h
    · injection h with h1 h2
      injection h2 with h2 h3
      rw [List.length_cons]
      omega
    · have := rd_used 5 r 0 _ v u h
      rw [List.length_cons]
      omega
/-- The field with an index, of both tables. -/
def ufield (L : List Fld) (i : Int) : Fld × Bool := if (stg i).2 then ((stg i).1, true) else getL L (i - 61)
def utextG (b : List Nat) (k n u e : Nat) : List Nat × Nat × Bool :=
  if e ≠ 0 ∨ 16384 < n ∨ b.length < k + u + n then ([], 0, false)
  else if b.getD k 0 < 128 then ((b.drop (k + u)).take n, k + u + n, true)
  else ((Hf.dec ((b.drop (k + u)).take n) 16384).1, k + u + n, decide ((Hf.dec ((b.drop (k + u)).take n) 16384).2 = 0))
/-- A string at a place: its bytes, where it ends, is it one. -/
def utext (b : List Nat) (k : Nat) : List Nat × Nat × Bool := if b.length ≤ k then ([], 0, false) else utextG b k (Pn.getI (b.drop k) 7).1 (Pn.getI (b.drop k) 7).2.1 (Pn.getI (b.drop k) 7).2.2
theorem utext_end {b : List Nat} {k : Nat} {s : List Nat} {e : Nat} (h : utext b k = (s, e, true)) : k < e ∧ e ≤ b.length := by
  rw [utext] at h
  split at h
  · simp at h
  · obtain ⟨G, hG⟩ : ∃ G, G = Pn.getI (b.drop k) 7 := ⟨_, rfl⟩
    rw [← hG] at h
    obtain ⟨n, u, r⟩ := G
    simp only [utextG] at h
    split at h
    · simp at h
    · rename_i h1 h2
      have hr : r = 0 := by omega
      subst hr
      have := get_used (b.drop k) 7 n u (by omega) (by omega) hG.symm
      rw [List.length_drop] at this
      split at h
      · injection h with h3 h4
        injection h4 with h4 h5
        omega
      · injection h with h3 h4
        injection h4 with h4 h5
        omega
def noFld : Fld := ⟨⟨#[]⟩, ⟨#[]⟩, false⟩
/-- How many bits of the first byte the number has. -/
def ubits (c : Nat) : Nat := if 128 ≤ c then 7 else if 64 ≤ c then 6 else if 32 ≤ c then 5 else 4
/-- What a representation is: its field, where it ends, is it a limit, is it one; the table then. -/
structure Rep where
  fld : Fld
  next : Nat
  lim : Bool
  ok : Bool
  most : Nat
  tab : List Fld
def ubad (m : Nat) (L : List Fld) : Rep := ⟨noFld, 0, false, false, m, L⟩
/-- The name's part of a literal: the name, where it ends, is it one. -/
def uname (b : List Nat) (n k : Nat) (L : List Fld) : ByteArray × Nat × Bool := if 0 < n then ((ufield L (n : Int)).1.name, k, (ufield L (n : Int)).2) else (str (utext b k).1, (utext b k).2.1, (utext b k).2.2)
def ulit2 (m : Nat) (L : List Fld) (c : Nat) (nm : ByteArray) (T : List Nat × Nat × Bool) : Rep :=
  if T.2.2 = false then ubad m L else ⟨⟨nm, str T.1, decide (16 ≤ c ∧ c < 32)⟩, T.2.1, false, true, m, if 64 ≤ c then addL m ⟨nm, str T.1, decide (16 ≤ c ∧ c < 32)⟩ L else L⟩
def ulit (b : List Nat) (m : Nat) (L : List Fld) (c : Nat) (N : ByteArray × Nat × Bool) : Rep := if N.2.2 = false then ubad m L else ulit2 m L c N.1 (utext b N.2.1)
def uoneG (b : List Nat) (k m : Nat) (L : List Fld) (c n u e : Nat) : Rep :=
  if e ≠ 0 then ubad m L
  else if 128 ≤ c then ⟨(ufield L (n : Int)).1, k + u, false, (ufield L (n : Int)).2, m, L⟩
  else if 32 ≤ c ∧ c < 64 then if n ≤ 4096 then ⟨noFld, k + u, true, true, n, fitL n L⟩ else ⟨noFld, k + u, true, false, m, L⟩
  else ulit b m L c (uname b n (k + u) L)
def uone (b : List Nat) (k m : Nat) (L : List Fld) : Rep :=
  uoneG b k m L (b.getD k 0) (Pn.getI (b.drop k) (ubits (b.getD k 0) : Int)).1 (Pn.getI (b.drop k) (ubits (b.getD k 0) : Int)).2.1 (Pn.getI (b.drop k) (ubits (b.getD k 0) : Int)).2.2
/-- What a block is: its fields and what went wrong, is it dead then, the table then. -/
structure Blk where
  out : List Fld
  err : Nat
  dead : Bool
  most : Nat
  tab : List Fld
def ugo (b : List Nat) (room : Int) : Nat → Nat → Nat → List Fld → Nat → List Fld → Blk
  | 0, _, _, out, m, L => ⟨out, 0, false, m, L⟩
  | f + 1, k, lims, out, m, L =>
    if k < b.length then
      if (uone b k m L).ok = false then ⟨[], 2, true, (uone b k m L).most, (uone b k m L).tab⟩
      else if (uone b k m L).lim then
        if tot out = 0 ∧ lims + 1 ≤ 2 then ugo b room f (uone b k m L).next (lims + 1) out (uone b k m L).most (uone b k m L).tab
        else ⟨[], 2, true, (uone b k m L).most, (uone b k m L).tab⟩
      else ugo b room f (uone b k m L).next lims (out ++ [(uone b k m L).fld]) (uone b k m L).most (uone b k m L).tab
    else if room < (tot out : Int) then ⟨[], 3, false, m, L⟩ else ⟨out, 0, false, m, L⟩
/-- A whole block. -/
def udec (b : List Nat) (room : Int) (dead : Bool) (m : Nat) (L : List Fld) : Blk := if dead then ⟨[], 5, true, m, L⟩ else ugo b room (b.length + 1) 0 0 [] m L
end Go.Proofs.YtiandidencnlcaaDoor
/- How long what is read can be. -/
namespace Go.Proofs.YtiandidencnlcaaDoor
open Go.RowKit

theorem run_len (M : Nat) : ∀ (l : List Nat) (w k : Nat) (out : List Nat), out.length ≤ M → (Hf.run (M : Int) l w k out).1.length ≤ M
  | [], w, k, out, h => by
    rw [Hf.run]
    split
    · simp
    · exact h
  | x :: r, w, k, out, h => by
    rw [Hf.run]
    split
    · exact run_len M r _ _ out h
    · split
      · simp
      · split
        · simp
        · exact run_len M r _ _ _ (by simp; omega)
theorem dec_len (b : List Nat) : (Hf.dec b 16384).1.length ≤ 16384 := run_len 16384 _ 0 0 [] (by simp)
theorem str_size (l : List Nat) : (str l).size = l.length := by
  show ((l.map fun x => UInt8.ofNat x).toArray).size = l.length
  simp
theorem utext_len (b : List Nat) (k : Nat) : (utext b k).1.length ≤ 16384 := by
  rw [utext]
  split
  · simp
  · rw [utextG]
    split
    · simp
    · split
      · simp
        omega
      · exact dec_len _
theorem fld_le {L : List Fld} {f : Fld} (h : f ∈ L) : fsize f ≤ tot L := by
  induction L with
  | nil => simp at h
  | cons x r ih =>
    rw [tot]
    rcases List.mem_cons.1 h with rfl | h
    · omega
    · have := ih h
      omega
theorem nm_small : ∀ i : Fin 61, (St.nm i.val).size ≤ 4096 := by decide +kernel
theorem vl_small : ∀ i : Fin 61, (St.vl i.val).size ≤ 4096 := by decide +kernel
theorem ufield_name (L : List Fld) (i : Int) (h : tot L ≤ 4096) : (ufield L i).1.name.size ≤ 4096 := by
  rw [ufield]
  split
  · rw [stg]
    split
    · exact nm_small ⟨i.toNat - 1, by omega⟩
    · decide
  · rw [getL]
    split
    · rename_i h1
      have hlt : (i - 61).toNat - 1 < L.length := by omega
      rw [List.getD, List.getElem?_eq_getElem hlt]
      have := fld_le (List.getElem_mem hlt)
      unfold fsize at this
      simp only [Option.getD_some]
      omega
    · decide
theorem uname_size (b : List Nat) (n k : Nat) (L : List Fld) (h : tot L ≤ 4096) : (uname b n k L).1.size ≤ 16384 := by
  rw [uname]
  split
  · have := ufield_name L (n : Int) h
    simp only []
    omega
  · simp only []
    rw [str_size]
    exact utext_len b k
theorem uname_end (b : List Nat) (n k : Nat) (L : List Fld) (hk : k ≤ b.length) (h : (uname b n k L).2.2 = true) : k ≤ (uname b n k L).2.1 ∧ (uname b n k L).2.1 ≤ b.length := by
  rw [uname] at h ⊢
  split at h
  · rename_i h1
    rw [if_pos h1]
    exact ⟨Nat.le_refl _, hk⟩
  · rename_i h1
    rw [if_neg h1]
    simp only [] at h ⊢
    obtain ⟨G, hG⟩ : ∃ G, G = utext b k := ⟨_, rfl⟩
    rw [← hG] at h ⊢
    obtain ⟨s, e, o⟩ := G
    simp only [] at h ⊢
    subst h
    have := utext_end hG.symm
    omega
end Go.Proofs.YtiandidencnlcaaDoor
/- Strings as lists of numbers; a string appended onto a row of bytes of the call's own. From stage 8 on. -/
namespace Go.Proofs.YtiandidencnlcaaDoor
open Go.RowKit

/-- A string's bytes. -/
def nums (s : ByteArray) : List Nat := s.data.toList.map fun b => b.toNat
theorem nums_len (s : ByteArray) : (nums s).length = s.size := by
  rw [nums, List.length_map, Array.length_toList]
  rfl
theorem nums_lt (s : ByteArray) : ∀ x ∈ nums s, x < 256 := by
  intro x hx
  simp only [nums, List.mem_map] at hx
  obtain ⟨b, _, rfl⟩ := hx
  exact b.toNat_lt
theorem str_nums (s : ByteArray) : str (nums s) = s := by
  obtain ⟨d⟩ := s
  have h : ((fun x => UInt8.ofNat x) ∘ fun b : UInt8 => b.toNat) = id := by funext b; simp
  simp [str, nums, h]
theorem cells_nums (s : ByteArray) : Lib.strCells s = cn .u8 (nums s) := by
  simp [Lib.strCells, cn, nums, Function.comp_def]
/-- A string appended onto a row of the call's own. -/
theorem wpList_append_s {w : World} {ops : Array Oper} {rest : List Oper} {o : Oper} {a : Act} {Q : Exit → Act → World → Prop} (hgd : o.guard = none) (s x : Operand)
    (ho : o.op = .call { callee := .builtin .append, args := #[s, x], argTypes := #[34, 9] }) (base : Nat)
    (v : Value) (n : Nat) (l : List Nat) (hs : a.eval s = v) (hown : w.ownsRow base 5 1 v n (cn .u8 l)) (m : ByteArray) (hx : a.eval x = .string m)
    (hlen : n + m.size ≤ 1000000) (hbase : base ≤ w.heap.size)
    (h : ∀ v' w', w'.ownsRow base 5 1 v' (n + m.size) (cn .u8 (l ++ nums m)) → w.grownBy w' v.ownBlock → wpList Tryd.prog ops Q rest (a.put o.dst v') w') : wpList Tryd.prog ops Q (o :: rest) a w := by
  obtain ⟨i0, hi0, hz0, hz1, hz2⟩ := info_parts infoU8
  refine Lib.wpList_append_own_string w hgd s x 34 9 ho base 5 i0 Tryd.underlying34 Tryd.underlying9 hi0 hz0 hz1 hz2 v n (cn .u8 l) hs hown m hx ?_ ?_ hbase ?_
  · unfold maxLen; omega
  · omega
  · intro v' w' h1 h2 _
    rw [cells_nums, cn_app] at h1
    exact h v' w' h1 h2
end Go.Proofs.YtiandidencnlcaaDoor
/- What is found in the static table is that one's; nothing of the program is named here. -/
namespace Go.Proofs.YtiandidencnlcaaDoor
open Go.RowKit St

theorem toList_data (s : ByteArray) : s.toList = s.data.toList := by
  obtain ⟨⟨l⟩⟩ := s
  exact ByteArray.toList_mk l
theorem bytes_inj {a b : ByteArray} (h : a.toList = b.toList) : a = b := by
  rw [toList_data, toList_data] at h
  obtain ⟨⟨l⟩⟩ := a
  obtain ⟨⟨m⟩⟩ := b
  simp at h
  rw [h]
/-- What is found is that one's. -/
theorem fnd_is (n v : List UInt8) : ∀ f i, ((fnd n v f i).1 = 0 ∨ (i < (fnd n v f i).1 ∧ (fnd n v f i).1 ≤ i + f ∧ (nm ((fnd n v f i).1 - 1)).toList = n ∧ (vl ((fnd n v f i).1 - 1)).toList = v ∧ i < (fnd n v f i).2 ∧ (fnd n v f i).2 ≤ (fnd n v f i).1)) ∧
    ((fnd n v f i).2 = 0 ∨ (i < (fnd n v f i).2 ∧ (fnd n v f i).2 ≤ i + f ∧ (nm ((fnd n v f i).2 - 1)).toList = n))
  | 0, i => ⟨.inl rfl, .inl rfl⟩
  | f + 1, i => by
    have ih := fnd_is n v f (i + 1)
    cases hN : (nm i).toList == n with
    | false =>
      have e : fnd n v (f + 1) i = fnd n v f (i + 1) := by rw [fnd, hN]; rfl
      rw [e]
      refine ⟨?_, ?_⟩
      · rcases ih.1 with h | ⟨h1, h2, h3, h4, h5, h6⟩
        · exact .inl h
        · exact .inr ⟨by omega, by omega, h3, h4, by omega, h6⟩
      · rcases ih.2 with h | ⟨h1, h2, h3⟩
        · exact .inl h
        · exact .inr ⟨by omega, by omega, h3⟩
    | true =>
      have hN' : (nm i).toList = n := by simpa using hN
      cases hV : (vl i).toList == v with
      | false =>
        have e : fnd n v (f + 1) i = ((fnd n v f (i + 1)).1, i + 1) := by rw [fnd, hN, hV]; rfl
        rw [e]
        refine ⟨?_, .inr ⟨by simp, by simp, by simpa using hN'⟩⟩
        rcases ih.1 with h | ⟨h1, h2, h3, h4, h5, h6⟩
        · exact .inl h
        · exact .inr ⟨by simp; omega, by simp; omega, h3, h4, by simp, by simp; omega⟩
      | true =>
        have hV' : (vl i).toList = v := by simpa using hV
        have e : fnd n v (f + 1) i = (i + 1, i + 1) := by rw [fnd, hN, hV]; rfl
        rw [e]
        exact ⟨.inr ⟨by simp, by simp, by simpa using hN', by simpa using hV', by simp, by simp⟩, .inr ⟨by simp, by simp, by simpa using hN'⟩⟩
end Go.Proofs.YtiandidencnlcaaDoor
/- Chapter 9 over plain values: strings and fields written; what chapter 8 reads of them. -/
namespace Go.Proofs.YtiandidencnlcaaDoor
open Go.RowKit

/-- A string as it is written: Huffman, if that is shorter. -/
def pstr (s : List Nat) : List Nat := if (Hf.nBits s + 7) / 8 < s.length then Pn.put 128 7 ((Hf.nBits s + 7) / 8) ++ Hf.enc s else Pn.put 0 7 s.length ++ s
/-- The index with both, and the one with the name: static ahead of dynamic; 0: none. -/
def pboth (L : List Fld) (n v : ByteArray) : Nat := if 0 < (St.fnd n.toList v.toList 61 0).1 then (St.fnd n.toList v.toList 61 0).1 else if 0 < (fndL n.toList v.toList L 0).1 then 61 + (fndL n.toList v.toList L 0).1 else 0
def pname (L : List Fld) (n v : ByteArray) : Nat := if 0 < (St.fnd n.toList v.toList 61 0).2 then (St.fnd n.toList v.toList 61 0).2 else if 0 < (fndL n.toList v.toList L 0).2 then 61 + (fndL n.toList v.toList L 0).2 else 0
/-- A literal. -/
def plit (L : List Fld) (f : Fld) : List Nat :=
  Pn.put (if f.never then 16 else 64) (if f.never then 4 else 6) (pname L f.name f.value) ++ ((if pname L f.name f.value = 0 then pstr (nums f.name) else []) ++ pstr (nums f.value))
/-- One field: its bytes; the table then. -/
def pfld (m : Nat) (L : List Fld) (f : Fld) : List Nat × List Fld :=
  if 0 < pboth L f.name f.value ∧ f.never = false then (Pn.put 128 7 (pboth L f.name f.value), L) else (plit L f, if f.never then L else addL m f L)
/-- All fields, one behind the other. -/
def pall (m : Nat) : List Fld → List Fld → List Nat × List Fld
  | L, [] => ([], L)
  | L, f :: r => ((pfld m L f).1 ++ (pall m (pfld m L f).2 r).1, (pall m (pfld m L f).2 r).2)
/-- No field in the table has Never. -/
def Open (L : List Fld) : Prop := ∀ g ∈ L, g.never = false
theorem open_fit {m : Nat} {L : List Fld} (h : Open L) : Open (fitL m L) := fun g hg => by
  obtain ⟨k, hk⟩ := fit_pre m L
  rw [hk] at hg
  exact h g (List.mem_of_mem_take hg)
theorem open_add {m : Nat} {f : Fld} {L : List Fld} (h : Open L) : Open (addL m f L) := open_fit (fun g hg => by
  rcases List.mem_cons.1 hg with rfl | hg
  · rfl
  · exact h g hg)
theorem open_fld {m : Nat} {L : List Fld} {f : Fld} (h : Open L) : Open (pfld m L f).2 := by
  unfold pfld
  split
  · exact h
  · show Open (if f.never then L else addL m f L)
    split
    · exact h
    · exact open_add h
/-- What is found in the dynamic table is that one's. -/
theorem fndL_is (n v : List UInt8) : ∀ (l : List Fld) (i : Nat), ((fndL n v l i).1 = 0 ∨ (i < (fndL n v l i).1 ∧ ∃ h : (fndL n v l i).1 - i - 1 < l.length, (l[(fndL n v l i).1 - i - 1]).name.toList = n ∧ (l[(fndL n v l i).1 - i - 1]).value.toList = v)) ∧
    ((fndL n v l i).2 = 0 ∨ (i < (fndL n v l i).2 ∧ ∃ h : (fndL n v l i).2 - i - 1 < l.length, (l[(fndL n v l i).2 - i - 1]).name.toList = n))
  | [], i => ⟨.inl rfl, .inl rfl⟩
  | f :: r, i => by
    have ih := fndL_is n v r (i + 1)
    have up : ∀ k, i + 1 < k → k - i - 1 = (k - (i + 1) - 1) + 1 := fun k hk => by omega
    have one : ∀ k, (k = 0 ∨ (i + 1 < k ∧ ∃ h : k - (i + 1) - 1 < r.length, (r[k - (i + 1) - 1]).name.toList = n ∧ (r[k - (i + 1) - 1]).value.toList = v)) → (k = 0 ∨ (i < k ∧ ∃ h : k - i - 1 < (f :: r).length, ((f :: r)[k - i - 1]).name.toList = n ∧ ((f :: r)[k - i - 1]).value.toList = v)) := fun k hk => by
      rcases hk with h | ⟨h1, h2, h3⟩
      · exact .inl h
      · refine .inr ⟨by omega, by rw [List.length_cons]; omega, ?_⟩
        simp only [up k h1, List.getElem_cons_succ]
        exact h3
    have two : ∀ k, (k = 0 ∨ (i + 1 < k ∧ ∃ h : k - (i + 1) - 1 < r.length, (r[k - (i + 1) - 1]).name.toList = n)) → (k = 0 ∨ (i < k ∧ ∃ h : k - i - 1 < (f :: r).length, ((f :: r)[k - i - 1]).name.toList = n)) := fun k hk => by
      rcases hk with h | ⟨h1, h2, h3⟩
      · exact .inl h
      · refine .inr ⟨by omega, by rw [List.length_cons]; omega, ?_⟩
        simp only [up k h1, List.getElem_cons_succ]
        exact h3
    have e1 : i + 1 - i - 1 = 0 := by omega
    cases hN : f.name.toList == n with
    | false =>
      have e : fndL n v (f :: r) i = fndL n v r (i + 1) := by rw [fndL, hN]; rfl
      rw [e]
      exact ⟨one _ ih.1, two _ ih.2⟩
    | true =>
      have hN' : f.name.toList = n := by simpa using hN
      cases hV : f.value.toList == v with
      | false =>
        have e : fndL n v (f :: r) i = ((fndL n v r (i + 1)).1, i + 1) := by rw [fndL, hN, hV]; rfl
        rw [e]
        refine ⟨one _ ih.1, .inr ⟨by simp, ?_⟩⟩
        simp only [e1]
        exact ⟨by simp, hN'⟩
      | true =>
        have hV' : f.value.toList = v := by simpa using hV
        have e : fndL n v (f :: r) i = (i + 1, i + 1) := by rw [fndL, hN, hV]; rfl
        rw [e]
        refine ⟨.inr ⟨by simp, ?_⟩, .inr ⟨by simp, ?_⟩⟩
        · simp only [e1]
          exact ⟨by simp, hN', hV'⟩
        · simp only [e1]
          exact ⟨by simp, hN'⟩
theorem ufield_s (L : List Fld) (k : Nat) (h1 : 1 ≤ k) (h2 : k ≤ 61) : ufield L (k : Int) = (⟨St.nm (k - 1), St.vl (k - 1), false⟩, true) := by
  have hs : stg (k : Int) = (⟨St.nm (k - 1), St.vl (k - 1), false⟩, true) := by rw [stg, if_pos (by omega), Int.toNat_natCast]
  rw [ufield, hs]
  rfl
theorem ufield_d (L : List Fld) (j : Nat) (h1 : 1 ≤ j) (h : j - 1 < L.length) : ufield L ((61 + j : Nat) : Int) = (L[j - 1], true) := by
  have hs : stg ((61 + j : Nat) : Int) = (⟨⟨#[]⟩, ⟨#[]⟩, false⟩, false) := by rw [stg, if_neg (by omega)]
  rw [ufield, hs]
  show getL L _ = _
  rw [getL, if_pos (by omega), show (((61 + j : Nat) : Int) - 61).toNat - 1 = j - 1 by omega, List.getD, List.getElem?_eq_getElem h, Option.getD_some]
/-- What an index that was found stands for. -/
theorem both_is {L : List Fld} {n v : ByteArray} (hL : Open L) (h : 0 < pboth L n v) : ufield L (pboth L n v : Int) = (⟨n, v, false⟩, true) := by
  by_cases h1 : 0 < (St.fnd n.toList v.toList 61 0).1
  · have e : pboth L n v = (St.fnd n.toList v.toList 61 0).1 := by rw [pboth, if_pos h1]
    rw [e]
    rcases (fnd_is n.toList v.toList 61 0).1 with h2 | ⟨_, h3, h4, h5, _⟩
    · omega
    · rw [ufield_s L _ h1 (by omega), bytes_inj h4, bytes_inj h5]
  · by_cases h2 : 0 < (fndL n.toList v.toList L 0).1
    · have e : pboth L n v = 61 + (fndL n.toList v.toList L 0).1 := by rw [pboth, if_neg h1, if_pos h2]
      rw [e]
      rcases (fndL_is n.toList v.toList L 0).1 with h3 | ⟨_, h4, h5, h6⟩
      · omega
      · simp only [Nat.sub_zero] at h4 h5 h6
        have hn := hL _ (List.getElem_mem h4)
        rw [ufield_d L _ h2 h4]
        generalize L[(fndL n.toList v.toList L 0).1 - 1] = g at h5 h6 hn
        obtain ⟨a, b, c⟩ := g
        simp only [] at h5 h6 hn
        rw [bytes_inj h5, bytes_inj h6, hn]
    · rw [pboth, if_neg h1, if_neg h2] at h
      omega
theorem name_is {L : List Fld} {n v : ByteArray} (h : 0 < pname L n v) : (ufield L (pname L n v : Int)).1.name = n ∧ (ufield L (pname L n v : Int)).2 = true := by
  by_cases h1 : 0 < (St.fnd n.toList v.toList 61 0).2
  · have e : pname L n v = (St.fnd n.toList v.toList 61 0).2 := by rw [pname, if_pos h1]
    rw [e]
    rcases (fnd_is n.toList v.toList 61 0).2 with h2 | ⟨_, h3, h4⟩
    · omega
    · rw [ufield_s L _ h1 (by omega)]
      exact ⟨bytes_inj h4, rfl⟩
  · by_cases h2 : 0 < (fndL n.toList v.toList L 0).2
    · have e : pname L n v = 61 + (fndL n.toList v.toList L 0).2 := by rw [pname, if_neg h1, if_pos h2]
      rw [e]
      rcases (fndL_is n.toList v.toList L 0).2 with h3 | ⟨_, h4, h5⟩
      · omega
      · simp only [Nat.sub_zero] at h4 h5
        rw [ufield_d L _ h2 h4]
        exact ⟨bytes_inj h5, rfl⟩
    · rw [pname, if_neg h1, if_neg h2] at h
      omega
theorem fndL_le (n v : List UInt8) (l : List Fld) : (fndL n v l 0).1 ≤ l.length ∧ (fndL n v l 0).2 ≤ l.length := by
  refine ⟨?_, ?_⟩
  · rcases (fndL_is n v l 0).1 with h | ⟨_, h, _⟩ <;> omega
  · rcases (fndL_is n v l 0).2 with h | ⟨_, h, _⟩ <;> omega
theorem both_le (L : List Fld) (n v : ByteArray) (h : L.length ≤ 1000) : pboth L n v ≤ 1061 := by
  have h1 := (fndL_le n.toList v.toList L).1
  have h2 : (St.fnd n.toList v.toList 61 0).1 ≤ 61 := by rcases (fnd_is n.toList v.toList 61 0).1 with h | ⟨_, h, _⟩ <;> omega
  unfold pboth
  split
  · omega
  · split <;> omega
theorem name_le (L : List Fld) (n v : ByteArray) (h : L.length ≤ 1000) : pname L n v ≤ 1061 := by
  have h1 := (fndL_le n.toList v.toList L).2
  have h2 : (St.fnd n.toList v.toList 61 0).2 ≤ 61 := by rcases (fnd_is n.toList v.toList 61 0).2 with h | ⟨_, h, _⟩ <;> omega
  unfold pname
  split
  · omega
  · split <;> omega
end Go.Proofs.YtiandidencnlcaaDoor
