/- Chapter 8 over plain values: strings, representations, blocks. -/
import Derived.Test.YtlnppbnbjeakhaaDoorSStg
import Derived.Test.YtlnppbnbjeakhaaDoorDGetL
import Derived.Test.YtlnppbnbjeakhaaDoorLStr
import Derived.Test.YtlnppbnbjeakhaaDoorHRead
namespace Go.Proofs.YtlnppbnbjeakhaaDoor
open Go.RowKit

theorem rd_used : ∀ (f : Nat) (l : List Nat) (j n v u : Nat), Pn.rd f l j n = (v, u, 0) → j + 2 ≤ u ∧ u ≤ j + 1 + l.length ∧ v ≤ 2147483647
  | 0, _, _, _, _, _, h => by simp [Pn.rd] at h
  | f + 1, [], _, _, _, _, h => by simp [Pn.rd] at h
  | f + 1, x :: r, j, n, v, u, h => by
    rw [Pn.rd] at h
    split at h
    · simp at h
    · split at h
      · injection h with h1 h2
        injection h2 with h2 h3
        rw [List.length_cons]
        omega
      · have := rd_used f r (j + 1) _ v u h
        rw [List.length_cons]
        omega
/-- A number that is read has at least one byte, and they are there. -/
theorem get_used (l : List Nat) (b : Nat) (v u : Nat) (hb1 : 1 ≤ b) (hb8 : b ≤ 8) (h : Pn.getI l (b : Int) = (v, u, 0)) : 1 ≤ u ∧ u ≤ l.length ∧ v ≤ 2147483647 := by
  rw [Pn.getI, if_neg (by omega), Int.toNat_natCast] at h
  rcases l with _ | ⟨x, r⟩
  · simp [Pn.getN] at h
  · rw [Pn.getN] at h
    have hp : 2 ^ b ≤ 256 := Pn.full_bound hb8
    have hm := Nat.mod_lt x (Pn.two_pos b)
    split at h
    · injection h with h1 h2
      injection h2 with h2 h3
      rw [List.length_cons]
      omega
    · have := rd_used 5 r 0 _ v u h
      rw [List.length_cons]
      omega
/-- The field with an index, of both tables. -/
def ufield (L : List Fld) (i : Int) : Fld × Bool := if (stg i).2 then ((stg i).1, true) else getL L (i - 61)
def utextG (b : List Nat) (k n u e : Nat) : List Nat × Nat × Bool :=
  if e ≠ 0 ∨ 16384 < n ∨ b.length < k + u + n then ([], 0, false)
  else if b.getD k 0 < 128 then ((b.drop (k + u)).take n, k + u + n, true)
  else ((Hf.dec ((b.drop (k + u)).take n) 16384).1, k + u + n, decide ((Hf.dec ((b.drop (k + u)).take n) 16384).2 = 0))
/-- A string at a place: its bytes, where it ends, is it one. -/
def utext (b : List Nat) (k : Nat) : List Nat × Nat × Bool := if b.length ≤ k then ([], 0, false) else utextG b k (Pn.getI (b.drop k) 7).1 (Pn.getI (b.drop k) 7).2.1 (Pn.getI (b.drop k) 7).2.2
theorem utext_end {b : List Nat} {k : Nat} {s : List Nat} {e : Nat} (h : utext b k = (s, e, true)) : k < e ∧ e ≤ b.length := by
  rw [utext] at h
  split at h
  · simp at h
  · obtain ⟨G, hG⟩ : ∃ G, G = Pn.getI (b.drop k) 7 := ⟨_, rfl⟩
    rw [← hG] at h
    obtain ⟨n, u, r⟩ := G
    simp only [utextG] at h
    split at h
    · simp at h
    · rename_i h1 h2
      have hr : r = 0 := by omega
      subst hr
      have := get_used (b.drop k) 7 n u (by omega) (by omega) hG.symm
      rw [List.length_drop] at this
      split at h
      · injection h with h3 h4
        injection h4 with h4 h5
        omega
      · injection h with h3 h4
        injection h4 with h4 h5
        omega
def noFld : Fld := ⟨⟨#[]⟩, ⟨#[]⟩, false⟩
/-- How many bits of the first byte the number has. -/
def ubits (c : Nat) : Nat := if 128 ≤ c then 7 else if 64 ≤ c then 6 else if 32 ≤ c then 5 else 4
/-- What a representation is: its field, where it ends, is it a limit, is it one; the table then. -/
structure Rep where
  fld : Fld
  next : Nat
  lim : Bool
  ok : Bool
  most : Nat
  tab : List Fld
def ubad (m : Nat) (L : List Fld) : Rep := ⟨noFld, 0, false, false, m, L⟩
/-- The name's part of a literal: the name, where it ends, is it one. -/
def uname (b : List Nat) (n k : Nat) (L : List Fld) : ByteArray × Nat × Bool := if 0 < n then ((ufield L (n : Int)).1.name, k, (ufield L (n : Int)).2) else (str (utext b k).1, (utext b k).2.1, (utext b k).2.2)
def ulit2 (m : Nat) (L : List Fld) (c : Nat) (nm : ByteArray) (T : List Nat × Nat × Bool) : Rep :=
  if T.2.2 = false then ubad m L else ⟨⟨nm, str T.1, decide (16 ≤ c ∧ c < 32)⟩, T.2.1, false, true, m, if 64 ≤ c then addL m ⟨nm, str T.1, decide (16 ≤ c ∧ c < 32)⟩ L else L⟩
def ulit (b : List Nat) (m : Nat) (L : List Fld) (c : Nat) (N : ByteArray × Nat × Bool) : Rep := if N.2.2 = false then ubad m L else ulit2 m L c N.1 (utext b N.2.1)
def uoneG (b : List Nat) (k m : Nat) (L : List Fld) (c n u e : Nat) : Rep :=
  if e ≠ 0 then ubad m L
  else if 128 ≤ c then ⟨(ufield L (n : Int)).1, k + u, false, (ufield L (n : Int)).2, m, L⟩
  else if 32 ≤ c ∧ c < 64 then if n ≤ 4096 then ⟨noFld, k + u, true, true, n, fitL n L⟩ else ⟨noFld, k + u, true, false, m, L⟩
  else ulit b m L c (uname b n (k + u) L)
def uone (b : List Nat) (k m : Nat) (L : List Fld) : Rep :=
  uoneG b k m L (b.getD k 0) (Pn.getI (b.drop k) (ubits (b.getD k 0) : Int)).1 (Pn.getI (b.drop k) (ubits (b.getD k 0) : Int)).2.1 (Pn.getI (b.drop k) (ubits (b.getD k 0) : Int)).2.2
/-- What a block is: its fields and what went wrong, is it dead then, the table then. -/
structure Blk where
  out : List Fld
  err : Nat
  dead : Bool
  most : Nat
  tab : List Fld
def ugo (b : List Nat) (room : Int) : Nat → Nat → Nat → List Fld → Nat → List Fld → Blk
  | 0, _, _, out, m, L => ⟨out, 0, false, m, L⟩
  | f + 1, k, lims, out, m, L =>
    if k < b.length then
      if (uone b k m L).ok = false then ⟨[], 2, true, (uone b k m L).most, (uone b k m L).tab⟩
      else if (uone b k m L).lim then
        if tot out = 0 ∧ lims + 1 ≤ 2 then ugo b room f (uone b k m L).next (lims + 1) out (uone b k m L).most (uone b k m L).tab
        else ⟨[], 2, true, (uone b k m L).most, (uone b k m L).tab⟩
      else ugo b room f (uone b k m L).next lims (out ++ [(uone b k m L).fld]) (uone b k m L).most (uone b k m L).tab
    else if room < (tot out : Int) then ⟨[], 3, false, m, L⟩ else ⟨out, 0, false, m, L⟩
/-- A whole block. -/
def udec (b : List Nat) (room : Int) (dead : Bool) (m : Nat) (L : List Fld) : Blk := if dead then ⟨[], 5, true, m, L⟩ else ugo b room (b.length + 1) 0 0 [] m L
end Go.Proofs.YtlnppbnbjeakhaaDoor
/- How long what is read can be. -/
namespace Go.Proofs.YtlnppbnbjeakhaaDoor
open Go.RowKit

theorem run_len (M : Nat) : ∀ (l : List Nat) (w k : Nat) (out : List Nat), out.length ≤ M → (Hf.run (M : Int) l w k out).1.length ≤ M
  | [], w, k, out, h => by
    rw [Hf.run]
    split
    · simp
    · exact h
  | x :: r, w, k, out, h => by
    rw [Hf.run]
    split
    · exact run_len M r _ _ out h
    · split
      · simp
      · split
        · simp
        · exact run_len M r _ _ _ (by simp; omega)
theorem dec_len (b : List Nat) : (Hf.dec b 16384).1.length ≤ 16384 := run_len 16384 _ 0 0 [] (by simp)
theorem str_size (l : List Nat) : (str l).size = l.length := by
  show ((l.map fun x => UInt8.ofNat x).toArray).size = l.length
  simp
theorem utext_len (b : List Nat) (k : Nat) : (utext b k).1.length ≤ 16384 := by
  rw [utext]
  split
  · simp
  · rw [utextG]
    split
    · simp
    · split
      · simp
        omega
      · exact dec_len _
theorem fld_le {L : List Fld} {f : Fld} (h : f ∈ L) : fsize f ≤ tot L := by
  induction L with
  | nil => simp at h
  | cons x r ih =>
    rw [tot]
    rcases List.mem_cons.1 h with rfl | h
    · omega
    · have := ih h
      omega
theorem nm_small : ∀ i : Fin 61, (St.nm i.val).size ≤ 4096 := by decide +kernel
theorem vl_small : ∀ i : Fin 61, (St.vl i.val).size ≤ 4096 := by decide +kernel
theorem ufield_name (L : List Fld) (i : Int) (h : tot L ≤ 4096) : (ufield L i).1.name.size ≤ 4096 := by
  rw [ufield]
  split
  · rw [stg]
    split
    · exact nm_small ⟨i.toNat - 1, by omega⟩
    · decide
  · rw [getL]
    split
    · rename_i h1
      have hlt : (i - 61).toNat - 1 < L.length := by omega
      rw [List.getD, List.getElem?_eq_getElem hlt]
      have := fld_le (List.getElem_mem hlt)
      unfold fsize at this
      simp only [Option.getD_some]
      omega
    · decide
theorem uname_size (b : List Nat) (n k : Nat) (L : List Fld) (h : tot L ≤ 4096) : (uname b n k L).1.size ≤ 16384 := by
  rw [uname]
  split
  · have := ufield_name L (n : Int) h
    simp only []
    omega
  · simp only []
    rw [str_size]
    exact utext_len b k
theorem uname_end (b : List Nat) (n k : Nat) (L : List Fld) (hk : k ≤ b.length) (h : (uname b n k L).2.2 = true) : k ≤ (uname b n k L).2.1 ∧ (uname b n k L).2.1 ≤ b.length := by
  rw [uname] at h ⊢
  split at h
  · rename_i h1
    rw [if_pos h1]
    exact ⟨Nat.le_refl _, hk⟩
  · rename_i h1
    rw [if_neg h1]
    simp only [] at h ⊢
    obtain ⟨G, hG⟩ : ∃ G, G = utext b k := ⟨_, rfl⟩
    rw [← hG] at h ⊢
    obtain ⟨s, e, o⟩ := G
    simp only [] at h ⊢
    subst h
    have := utext_end hG.symm
    omega
end Go.Proofs.YtlnppbnbjeakhaaDoor
/- Tables none of whose fields is never to be added. -/
namespace Go.Proofs.YtlnppbnbjeakhaaDoor
open Go.RowKit

/-- No field of the list is never to be added. -/
def NoNev (L : List Fld) : Prop := ∀ f ∈ L, f.never = false
theorem NoNev.field {L : List Fld} (h : NoNev L) (i : Int) : (ufield L i).1.never = false := by
  rw [ufield]
  split
  · rw [stg]
    split <;> rfl
  · rw [getL]
    split
    · rename_i h1
      have hlt : (i - 61).toNat - 1 < L.length := by omega
      rw [List.getD, List.getElem?_eq_getElem hlt]
      exact h _ (List.getElem_mem hlt)
    · rfl
theorem NoNev.fit {L : List Fld} (h : NoNev L) (m : Nat) : NoNev (fitL m L) := by
  obtain ⟨k, hk⟩ := fit_pre m L
  rw [hk]
  exact fun f hf => h f (List.mem_of_mem_take hf)
theorem NoNev.add {L : List Fld} (h : NoNev L) (m : Nat) (f : Fld) : NoNev (addL m f L) := by
  rw [addL]
  refine NoNev.fit (fun g hg => ?_) m
  rcases List.mem_cons.1 hg with rfl | hg
  · rfl
  · exact h g hg
theorem NoNev.nil : NoNev [] := fun f hf => by simp at hf
end Go.Proofs.YtlnppbnbjeakhaaDoor
