/- Contract of the reference's Decode. -/
import Derived.Test.YtlnppbnbjeakhaaDoorUROne5
import Derived.Test.YtlnppbnbjeakhaaDoorLDAdd
import Derived.Test.YtlnppbnbjeakhaaDoorDObj
namespace Go.Proofs.YtlnppbnbjeakhaaDoor
open Go.RowKit

/-- What a block hands back: fields in new memory, what went wrong; the decoder then. -/
def BlPost (S : Nat → Prop) (w : World) (p q : Nat) (r : Blk) (e : Ending) (w' : World) : Prop :=
  ∃ S' A c, e = .returned (.tuple #[.slice A r.out.length c, .int .i64 ((r.err : Nat) : Int)]) ∧ RD w' S' p q r.most r.tab r.dead ∧ (∀ x, S' x → S x ∨ w.heap.size ≤ x) ∧ Keeps S w w' ∧ AtF w' w'.heap.size A r.out ∧ (A = none → c = 0) ∧ r.out.length ≤ c ∧ (∀ b o s, A = some ⟨b, o, s⟩ → w.heap.size ≤ b ∧ ¬ S' b)
/-- The decoder at work, and the row of the fields so far beside it. -/
def Dc (w : World) (S : Nat → Prop) (p q m : Nat) (L : List Fld) (v : Value) (out : List Fld) (wr : World) : Prop :=
  ∃ S', RD wr S' p q m L false ∧ (∀ x, S' x → S x ∨ w.heap.size ≤ x) ∧ Keeps S w wr ∧ wr.ownsRow w.heap.size 44 3 v out.length (cF out) ∧ (∀ j, v.ownBlock = some j → ¬ S' j)
section
variable {w wr w' w1 : World} {S S' : Nat → Prop} {p q m : Nat} {L out : List Fld} {v : Value}
theorem Dc.quiet (h : Dc w S p q m L v out wr) (hb : Below wr.heap.size wr w') : Dc w S p q m L v out w' := by
  obtain ⟨S1, h1, h2, h3, h4, h5⟩ := h
  exact ⟨S1, h1.quiet hb, h2, h3.trans (S' := fun _ => False) (Keeps.of_below hb) (fun _ h => h.elim), rowF_keep h4 hb, h5⟩
theorem Dc.one {m2 : Nat} {L2 : List Fld} (h2 : ∀ x, S' x → S x ∨ w.heap.size ≤ x) (h3 : Keeps S w wr) (h4 : wr.ownsRow w.heap.size 44 3 v out.length (cF out)) (h5 : ∀ j, v.ownBlock = some j → ¬ S' j) (hP : RDPost S' wr p q m2 L2 false w') : Dc w S p q m2 L2 v out w' := by
  obtain ⟨S2, hR, hS2, hK⟩ := hP
  refine ⟨S2, hR, fun x hx => ?_, h3.trans hK (fun x hx hlt => ?_), row_keeps h4 hK h5, fun j hj hx => ?_⟩
  · rcases hS2 x hx with h | h
    · exact h2 x h
    · exact .inr (Nat.le_trans h3.size h)
  · rcases h2 x hx with h | h
    · exact h
    · omega
  · rcases hS2 j hx with h | h
    · exact h5 j hj h
    · have := (h4.lt j hj).2
      omega
/-- The row has grown by one. -/
theorem Dc.grown {f : Fld} {v2 : Value} {o : Obj} (h : Dc w S p q m L v out wr) (hg : (wr.alloc o).grownBy w1 v.ownBlock) (hown : w1.ownsRow w.heap.size 44 3 v2 (out.length + 1) (cF (out ++ [f]))) (hv2 : ∀ k, v2.ownBlock = some k → v.ownBlock = some k ∨ (wr.alloc o).heap.size ≤ k) : Dc w S p q m L v2 (out ++ [f]) w1 := by
  obtain ⟨S1, h1, h2, h3, h4, h5⟩ := h
  have hk : Keeps (fun x => v.ownBlock = some x) wr w1 := by
    have ha : Keeps (fun x => v.ownBlock = some x) wr (wr.alloc o) := Keeps.of_below ((Below.refl _ _).alloc (Nat.le_refl _) o)
    refine ha.trans (S' := fun x => v.ownBlock = some x) ⟨hg.os, hg.tape, hg.output, hg.size, fun k hk hn => hg.block k hk (fun e => hn e.symm)⟩ (fun x hx _ => hx)
  refine ⟨S1, h1.keep hk (fun x hx e => h5 x e hx), h2, h3.trans hk (fun x hx hlt => ?_), by rw [List.length_append]; exact hown, fun k hk hx => ?_⟩
  · have := rowF_block h4 x hx
    omega
  · rcases hv2 k hk with h | h
    · exact h5 k h hx
    · have := h1.low k hx
      simp at h
      omega
theorem RD.kill {dead : Bool} (h : RD w S p q m L dead) : RD (w.setCell ⟨p, 1, none⟩ (.bool true)) S p q m L true := by
  obtain ⟨S1, hh, hT, hn, hS, hp, hm⟩ := h
  have hk : Keeps (fun x => x = p) w (w.setCell ⟨p, 1, none⟩ (.bool true)) := (Keeps.refl (fun x => x = p) w).setCell (p := ⟨p, 1, none⟩) rfl _
  refine ⟨S1, ?_, hT.keep hk (fun x hx e => hn (e ▸ hx)), hn, hS, Nat.lt_of_lt_of_le hp hk.size, hm⟩
  have := heap_setCell_same w p 1 _ 36 (.bool true) hh
  simpa using this
theorem Dc.dead (h : Dc w S p q m L v out wr) : BlPost S w p q ⟨[], 2, true, m, L⟩ (.returned (.tuple #[.slice none 0 0, .int .i64 2])) (wr.setCell ⟨p, 1, none⟩ (.bool true)) := by
  obtain ⟨S1, h1, h2, h3, h4, h5⟩ := h
  have hk : Keeps S1 wr (wr.setCell ⟨p, 1, none⟩ (.bool true)) := (Keeps.refl S1 wr).setCell (p := ⟨p, 1, none⟩) h1.own _
  refine ⟨S1, none, 0, rfl, h1.kill, h2, h3.trans hk (fun x hx hlt => ?_), atF_nil _ _ _, fun _ => rfl, Nat.le_refl _, fun b o s h => by cases h⟩
  rcases h2 x hx with h | h
  · exact h
  · omega
theorem Dc.long (h : Dc w S p q m L v out wr) : BlPost S w p q ⟨[], 3, false, m, L⟩ (.returned (.tuple #[.slice none 0 0, .int .i64 3])) wr := by
  obtain ⟨S1, h1, h2, h3, h4, h5⟩ := h
  exact ⟨S1, none, 0, rfl, h1, h2, h3, atF_nil _ _ _, fun _ => rfl, Nat.le_refl _, fun b o s h => by cases h⟩
theorem Dc.done (h : Dc w S p q m L v out wr) : BlPost S w p q ⟨out, 0, false, m, L⟩ (.returned (.tuple #[v, .int .i64 0])) wr := by
  obtain ⟨S1, h1, h2, h3, h4, h5⟩ := h
  obtain ⟨A, c, rfl, hc, hA⟩ := rowF_shape h4
  exact ⟨S1, A, c, rfl, h1, h2, h3, AtF.of_own h4, hA, hc, fun b o s e => by
    subst e
    exact ⟨rowF_block h4 b rfl, h5 b rfl⟩⟩
end
/-- Where a representation ends. -/
theorem uone_next (b : List Nat) (k m : Nat) (L : List Fld) (hk : k < b.length) (h : (uone b k m L).ok = true) : k < (uone b k m L).next ∧ (uone b k m L).next ≤ b.length := by
  rw [uone] at h ⊢
  obtain ⟨y, hy⟩ : ∃ y, y = b.getD k 0 := ⟨_, rfl⟩
  rw [← hy] at h ⊢
  obtain ⟨bt, hbt⟩ : ∃ bt, bt = ubits y := ⟨_, rfl⟩
  have hb : 1 ≤ bt ∧ bt ≤ 8 := by rw [hbt]; unfold ubits; repeat (first | (split <;> try omega))
  rw [← hbt] at h ⊢
  obtain ⟨G, hG⟩ : ∃ G, G = Pn.getI (b.drop k) (bt : Int) := ⟨_, rfl⟩
  rw [← hG] at h ⊢
  obtain ⟨n, u, e⟩ := G
  simp only [uoneG] at h ⊢
  by_cases he : e = 0
  · subst he
    have hu := get_used (b.drop k) bt n u hb.1 hb.2 hG.symm
    rw [List.length_drop] at hu
    rw [if_neg (by omega)] at h ⊢
    split
    · exact ⟨by simp only []; omega, by simp only []; omega⟩
    · rename_i h1
      rw [if_neg h1] at h
      split
      · rename_i h2
        rw [if_pos h2] at h
        split
        · exact ⟨by simp only []; omega, by simp only []; omega⟩
        · exact ⟨by simp only []; omega, by simp only []; omega⟩
      · rename_i h2
        rw [if_neg h2, ulit] at h
        rw [ulit]
        split at h
        · simp [ubad] at h
        · rename_i h3
          have hN := uname_end b n (k + u) L (by omega) (by simpa using h3)
          rw [if_neg h3]
          rw [ulit2] at h ⊢
          split at h
          · simp [ubad] at h
          · rename_i h4
            rw [if_neg h4]
            obtain ⟨T, hT⟩ : ∃ T, T = utext b (uname b n (k + u) L).2.1 := ⟨_, rfl⟩
            rw [← hT] at h4 ⊢
            obtain ⟨t, k2, ok2⟩ := T
            simp only [] at h4 ⊢
            have : ok2 = true := by simpa using h4
            subst this
            have := utext_end hT.symm
            omega
  · rw [if_pos he] at h
    simp [ubad] at h
theorem ufield_size (L : List Fld) (i : Int) (h : tot L ≤ 4096) : fsize (ufield L i).1 ≤ 40000 := by
  rw [ufield]
  split
  · rw [stg]
    split
    · have h1 := nm_small ⟨i.toNat - 1, by omega⟩
      have h2 := vl_small ⟨i.toNat - 1, by omega⟩
      unfold fsize
      simp only [] at h1 h2 ⊢
      omega
    · decide
  · rw [getL]
    split
    · rename_i h1
      have hlt : (i - 61).toNat - 1 < L.length := by omega
      rw [List.getD, List.getElem?_eq_getElem hlt]
      have := fld_le (List.getElem_mem hlt)
      simp only [Option.getD_some]
      omega
    · decide
theorem uone_size (b : List Nat) (k m : Nat) (L : List Fld) (hL : tot L ≤ 4096) : fsize (uone b k m L).fld ≤ 40000 := by
  have h0 : fsize noFld ≤ 40000 := by decide
  rw [uone, uoneG]
  split
  · exact h0
  · split
    · exact ufield_size L _ hL
    · split
      · split <;> exact h0
      · rw [ulit]
        split
        · exact h0
        · rw [ulit2]
          split
          · exact h0
          · unfold fsize
            simp only []
            rw [str_size]
            have h1 := uname_size b (Pn.getI (b.drop k) (ubits (b.getD k 0) : Int)).1 (k + (Pn.getI (b.drop k) (ubits (b.getD k 0) : Int)).2.1) L hL
            have h2 := utext_len b (uname b (Pn.getI (b.drop k) (ubits (b.getD k 0) : Int)).1 (k + (Pn.getI (b.drop k) (ubits (b.getD k 0) : Int)).2.1) L).2.1
            omega
end Go.Proofs.YtlnppbnbjeakhaaDoor
