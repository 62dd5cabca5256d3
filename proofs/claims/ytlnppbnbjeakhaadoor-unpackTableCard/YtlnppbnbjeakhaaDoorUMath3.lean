/- Chapter 8 over plain values: a block read with two rooms. -/
import Derived.Test.YtlnppbnbjeakhaaDoorURBlock
namespace Go.Proofs.YtlnppbnbjeakhaaDoor
open Go.RowKit

/-- The table stays within its limit. -/
theorem uone_fits (b : List Nat) (k m : Nat) (L : List Fld) (h : tot L ≤ m) (hm : m ≤ 4096) : tot (uone b k m L).tab ≤ (uone b k m L).most ∧ (uone b k m L).most ≤ 4096 := by
  rw [uone, uoneG]
  split
  · exact ⟨h, hm⟩
  · split
    · exact ⟨h, hm⟩
    · split
      · split
        · rename_i hn
          exact ⟨fit_tot _ _, hn⟩
        · exact ⟨h, hm⟩
      · rw [ulit]
        split
        · exact ⟨h, hm⟩
        · rw [ulit2]
          split
          · exact ⟨h, hm⟩
          · simp only []
            refine ⟨?_, hm⟩
            split
            · exact fit_tot _ _
            · exact h
/-- What a block says of fields o, with that room. -/
def Says (r : Int) (D : Blk) (o : List Fld) : Prop := (D.err = 3 ∧ D.out = [] ∧ r < (tot o : Int)) ∨ (D.err = 0 ∧ D.out = o ∧ (tot o : Int) ≤ r)
/-- Both are dead, or both say the same fields, each with its own room. -/
def Pair (r1 r2 : Int) (M : Nat) (A B : Blk) : Prop :=
  A.dead = B.dead ∧ A.most = B.most ∧ A.tab = B.tab ∧ tot A.tab ≤ A.most ∧ A.most ≤ 4096 ∧
  ((A.dead = true ∧ A.err = 2 ∧ B.err = 2 ∧ A.out = [] ∧ B.out = []) ∨ (A.dead = false ∧ ∃ o, tot o ≤ M ∧ Says r1 A o ∧ Says r2 B o))
theorem ugo_room (b : List Nat) (r1 r2 : Int) (M : Nat) : ∀ (f k lims : Nat) (out : List Fld) (m : Nat) (L : List Fld), tot L ≤ m → m ≤ 4096 → b.length < k + f → k ≤ b.length → tot out + 40000 * f ≤ M → Pair r1 r2 M (ugo b r1 f k lims out m L) (ugo b r2 f k lims out m L)
  | 0, k, lims, out, m, L, h1, h2, h3, h0, h4 => by omega
  | f + 1, k, lims, out, m, L, h1, h2, h3, h0, h4 => by
    have hf := uone_fits b k m L h1 h2
    rw [ugo, ugo]
    by_cases hk : k < b.length
    · rw [if_pos hk, if_pos hk]
      by_cases ho : (uone b k m L).ok = false
      · rw [if_pos ho, if_pos ho]
        exact ⟨rfl, rfl, rfl, hf.1, hf.2, .inl ⟨rfl, rfl, rfl, rfl, rfl⟩⟩
      · rw [if_neg ho, if_neg ho]
        have hn := uone_next b k m L hk (by simpa using ho)
        have hs := uone_size b k m L (by omega)
        by_cases hl : (uone b k m L).lim = true
        · rw [if_pos hl, if_pos hl]
          by_cases hc : tot out = 0 ∧ lims + 1 ≤ 2
          · rw [if_pos hc, if_pos hc]
            exact ugo_room b r1 r2 M f _ _ _ _ _ hf.1 hf.2 (by omega) (by omega) (by omega)
          · rw [if_neg hc, if_neg hc]
            exact ⟨rfl, rfl, rfl, hf.1, hf.2, .inl ⟨rfl, rfl, rfl, rfl, rfl⟩⟩
        · rw [if_neg hl, if_neg hl]
          refine ugo_room b r1 r2 M f _ _ _ _ _ hf.1 hf.2 (by omega) (by omega) ?_
          rw [tot_app]
          simp only [tot]
          omega
    · rw [if_neg hk, if_neg hk]
      have hs : ∀ r : Int, Says r (if r < (tot out : Int) then ⟨[], 3, false, m, L⟩ else ⟨out, 0, false, m, L⟩) out := fun r => by
        split
        · rename_i h
          exact .inl ⟨rfl, rfl, h⟩
        · rename_i h
          exact .inr ⟨rfl, rfl, by omega⟩
      have hd : ∀ r : Int, (if r < (tot out : Int) then (⟨[], 3, false, m, L⟩ : Blk) else ⟨out, 0, false, m, L⟩).dead = false ∧ (if r < (tot out : Int) then (⟨[], 3, false, m, L⟩ : Blk) else ⟨out, 0, false, m, L⟩).most = m ∧ (if r < (tot out : Int) then (⟨[], 3, false, m, L⟩ : Blk) else ⟨out, 0, false, m, L⟩).tab = L := fun r => by
        split <;> exact ⟨rfl, rfl, rfl⟩
      refine ⟨by rw [(hd r1).1, (hd r2).1], by rw [(hd r1).2.1, (hd r2).2.1], by rw [(hd r1).2.2, (hd r2).2.2], by rw [(hd r1).2.1, (hd r1).2.2]; exact h1, by rw [(hd r1).2.1]; exact h2, .inr ⟨(hd r1).1, out, by omega, hs r1, hs r2⟩⟩
/-- A block read with any room, and with the greatest. -/
theorem udec_room (b : List Nat) (room : Int) (m : Nat) (L : List Fld) (h1 : tot L ≤ m) (h2 : m ≤ 4096) (hn : b.length ≤ 20000) :
    (udec b room false m L).dead = (udec b 2147483647 false m L).dead ∧ (udec b room false m L).most = (udec b 2147483647 false m L).most ∧ (udec b room false m L).tab = (udec b 2147483647 false m L).tab ∧
    ((((udec b room false m L).dead = true ∧ (udec b room false m L).err = 2 ∧ (udec b 2147483647 false m L).err = 2 ∧ (udec b room false m L).out = [] ∧ (udec b 2147483647 false m L).out = [])) ∨
     ((udec b room false m L).dead = false ∧ (udec b 2147483647 false m L).err = 0 ∧ tot (udec b 2147483647 false m L).out ≤ 1000000000 ∧
       (((udec b room false m L).err = 3 ∧ (udec b room false m L).out = [] ∧ room < (tot (udec b 2147483647 false m L).out : Int)) ∨
        ((udec b room false m L).err = 0 ∧ (udec b room false m L).out = (udec b 2147483647 false m L).out ∧ (tot (udec b 2147483647 false m L).out : Int) ≤ room)))) := by
  have h := ugo_room b room 2147483647 1000000000 (b.length + 1) 0 0 [] m L h1 h2 (by omega) (by omega) (by simp [tot]; omega)
  simp only [udec, Bool.false_eq_true, if_false]
  obtain ⟨e1, e2, e3, _, _, h⟩ := h
  refine ⟨e1, e2, e3, ?_⟩
  rcases h with h | ⟨hd, o, ho, ha, hb⟩
  · exact .inl h
  · rcases hb with ⟨_, _, hb⟩ | ⟨hb1, hb2, _⟩
    · omega
    · rw [hb2]
      exact .inr ⟨hd, hb1, ho, ha⟩
end Go.Proofs.YtlnppbnbjeakhaaDoor
