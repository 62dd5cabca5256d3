/- Contract of the reference's Static. -/
import Derived.Test.YtlnppbnbjeakhaaDoorSStg
import Derived.Test.YtlnppbnbjeakhaaDoorDRef2
import Derived.Test.YtlnppbnbjeakhaaDoorURText
namespace Go.Proofs.YtlnppbnbjeakhaaDoor
open Go.RowKit St
set_option maxRecDepth 100000 in
set_option maxHeartbeats 4000000 in
theorem rstat_any (i : Int) (w : World) (hi : -9223372036854775808 ≤ i ∧ i ≤ 9223372036854775807) : Calls Tryd.prog 51 #[.int .i64 i] w (StPost w (stg i)) := by
  have hb0 : Below w.heap.size w (w.alloc (.cells #[.string ⟨#[]⟩, .string ⟨#[]⟩, .bool false] 44)) := (Below.refl _ _).alloc (Nat.le_refl _) _
  go_enter Tryd.func51, Tryd.ntmps51
  go_wp2_with fail
  with_reducible refine (rknown_any _).mono ?_
  rintro e w2 ⟨g, rfl, hat, hb2⟩
  obtain ⟨g0, hg0⟩ : ∃ g, g = w.heap.size := ⟨_, rfl⟩
  have hlt0 : g0 < (w.alloc (.cells #[.string ⟨#[]⟩, .string ⟨#[]⟩, .bool false] 44)).heap.size := by rw [hg0]; simp
  have hh : w2.heap[g0]? = some (.cells #[.string ⟨#[]⟩, .string ⟨#[]⟩, .bool false] 44) := by
    rw [hb2.block g0 hlt0, hg0]
    exact heap_alloc_new w _
  have q0 : w2.cell? ⟨g0, 0, none⟩ = some (.string ⟨#[]⟩) := cell_of_row _ g0 0 _ 44 _ hh
  have q1 : w2.cell? ⟨g0, 1, none⟩ = some (.string ⟨#[]⟩) := cell_of_row _ g0 1 _ 44 _ hh
  have q2 : w2.cell? ⟨g0, 2, none⟩ = some (.bool false) := cell_of_row _ g0 2 _ 44 _ hh
  have f0 : w2.frozen? ⟨g0, 0, none⟩ = false := frozen_of_row w2 g0 0 _ 44 hh
  have f1 : w2.frozen? ⟨g0, 1, none⟩ = false := frozen_of_row w2 g0 1 _ 44 hh
  have f2 : w2.frozen? ⟨g0, 2, none⟩ = false := frozen_of_row w2 g0 2 _ 44 hh
  have hb3 := hb0.trans (hb2.mono hb0.size)
  have hgB : w.heap.size ≤ g0 := by omega
  have hg2 : g0 < w2.heap.size := by have := hb2.size; omega
  have HAT := Lib.hid hat
  rw [← hg0]
  have HG0 := Lib.hid hg0
  clear hh hb2 hb0 hlt0 hat hg0
  have hs1 := ((hb3.setCell (p := ⟨g0, 0, none⟩) hgB (.string ⟨#[]⟩)).setCell (p := ⟨g0, 1, none⟩) hgB (.string ⟨#[]⟩)).setCell (p := ⟨g0, 2, none⟩) hgB (.bool false)
  by_cases h1 : i < 1
  · have HS : Hid (stg i = (⟨⟨#[]⟩, ⟨#[]⟩, false⟩, false)) := Lib.hid (by rw [stg, if_neg (by omega)])
    go_wp2
    refine bodyPost_ret (v := .tuple #[.agg #[.string ⟨#[]⟩, .string ⟨#[]⟩, .bool false], .bool false]) (by simp [results, Tryd.results51, go_sem, q0, q1, q2]) rfl ⟨?_, hs1⟩
    rw [HS.out]
  · by_cases h2 : 61 < i
    · have HS : Hid (stg i = (⟨⟨#[]⟩, ⟨#[]⟩, false⟩, false)) := Lib.hid (by rw [stg, if_neg (by omega)])
      go_wp2
      refine bodyPost_ret (v := .tuple #[.agg #[.string ⟨#[]⟩, .string ⟨#[]⟩, .bool false], .bool false]) (by simp [results, Tryd.results51, go_sem, q0, q1, q2]) rfl ⟨?_, hs1⟩
      rw [HS.out]
    · obtain ⟨j, rfl⟩ : ∃ v : Nat, i = (v : Int) := ⟨i.toNat, by omega⟩
      obtain ⟨I, hI⟩ : ∃ I, I = j - 1 := ⟨_, rfl⟩
      obtain ⟨P, hP⟩ : ∃ P, P = 2 * I := ⟨_, rfl⟩
      obtain ⟨Q, hQ⟩ : ∃ Q, Q = 2 * I + 1 := ⟨_, rfl⟩
      obtain ⟨c0, c1⟩ := tab_at HAT.out I (by omega)
      rw [← hP] at c0
      rw [← hQ] at c1
      obtain ⟨X, hX⟩ : ∃ X, X = nm I := ⟨_, rfl⟩
      obtain ⟨Y, hY⟩ : ∃ Y, Y = vl I := ⟨_, rfl⟩
      rw [← hX] at c0
      rw [← hY] at c1
      have e1 : 2 * (j : Int) - 2 = (P : Int) := by omega
      have e2 : 2 * (j : Int) - 1 = (Q : Int) := by omega
      have p1 : (P : Int) < 122 := by omega
      have p2 : (Q : Int) < 122 := by omega
      have p1' : P < 122 := by omega
      have p2' : Q < 122 := by omega
      have j1 : ¬ (j : Int) < 1 := by omega
      have j2 : ¬ (61 : Int) < (j : Int) := by omega
      have HS : Hid (stg (j : Int) = (⟨X, Y, false⟩, true)) := Lib.hid (by rw [stg, if_pos (by omega), Int.toNat_natCast, ← hI, hX, hY])
      have hs2 := below_drewN (((hb3.setCell (p := ⟨g0, 0, none⟩) hgB (.string X)).setCell (p := ⟨g0, 1, none⟩) hgB (.string Y)).setCell (p := ⟨g0, 2, none⟩) hgB (.bool false)) 1
      clear hs1 hI hP hQ hX hY h1 h2
      go_wp2
      go_region
      go_wp2
      refine bodyPost_ret (v := .tuple #[.agg #[.string X, .string Y, .bool false], .bool true]) (by simp [results, Tryd.results51, go_sem, q0, q1, q2]) rfl ⟨?_, hs2⟩
      rw [HS.out]
end Go.Proofs.YtlnppbnbjeakhaaDoor
/- Contract of the document's own table: Get. -/
namespace Go.Proofs.YtlnppbnbjeakhaaDoor
open Go.RowKit

set_option maxRecDepth 100000 in
set_option maxHeartbeats 4000000 in
theorem rtget_any (w : World) (S : Nat → Prop) (p m : Nat) (l : List Fld) (i : Int) (h : RT w S p m l) (hi : -9223372036854775808 ≤ i ∧ i ≤ 9223372036854775807) :
    Calls Tryd.prog 52 #[.pointer (some ⟨p, 0, none⟩), .int .i64 i] w (FPost w (getL l i)) := by
  obtain ⟨⟨A, c, hh, hat, hA0, hnc, hAS⟩, hSp, hlow, hsm⟩ := h
  have hpl : p < w.heap.size := hlow p hSp
  obtain ⟨n, hn⟩ : ∃ n, n = l.length := ⟨_, rfl⟩
  rw [← hn] at hh
  have HN := Lib.hid hn
  have hb0 : Below w.heap.size w (w.alloc (.cells #[.string ⟨#[]⟩, .string ⟨#[]⟩, .bool false] 44)) := (Below.refl _ _).alloc (Nat.le_refl _) _
  have y1 : (w.alloc (.cells #[.string ⟨#[]⟩, .string ⟨#[]⟩, .bool false] 44)).cell? ⟨p, 1, none⟩ = some (.slice A n c) := (hb0.cell (p := ⟨p, 1, none⟩) hpl).trans (cell_of_row _ p 1 _ 61 _ hh)
  have hnn : (n : Int) ≤ 9223372036854775807 := by have := tot_pos l; omega
  by_cases h1 : i < 1
  · have HS : Hid (getL l i = (⟨⟨#[]⟩, ⟨#[]⟩, false⟩, false)) := Lib.hid (by rw [getL, if_neg (by omega)])
    clear hn hh hat
    go_enter Tryd.func52, Tryd.ntmps52
    go_wp2
    refine bodyPost_ret (v := .tuple #[.agg #[.string ⟨#[]⟩, .string ⟨#[]⟩, .bool false], .bool false]) (by simp [results, Tryd.results52, go_sem]) rfl ⟨?_, hb0⟩
    rw [HS.out]
  · by_cases h2 : (n : Int) < i
    · have HS : Hid (getL l i = (⟨⟨#[]⟩, ⟨#[]⟩, false⟩, false)) := Lib.hid (by rw [getL, if_neg (by omega)])
      clear hn hh hat
      go_enter Tryd.func52, Tryd.ntmps52
      go_wp2
      refine bodyPost_ret (v := .tuple #[.agg #[.string ⟨#[]⟩, .string ⟨#[]⟩, .bool false], .bool false]) (by simp [results, Tryd.results52, go_sem]) rfl ⟨?_, hb0⟩
      rw [HS.out]
    · obtain ⟨j, rfl⟩ : ∃ v : Nat, i = (v : Int) := ⟨i.toNat, by omega⟩
      obtain ⟨I, hI⟩ : ∃ I, I = j - 1 := ⟨_, rfl⟩
      have hIl : I < l.length := by omega
      obtain ⟨b, o, rfl, hbl, hc⟩ := hat.pos (by omega)
      obtain ⟨c0, c1, c2⟩ := hc I hIl
      obtain ⟨f, hf⟩ : ∃ f, f = l[I] := ⟨_, rfl⟩
      rw [← hf] at c0 c1 c2
      obtain ⟨X, Y, Z⟩ := f
      simp only [] at c0 c1 c2
      have HS : Hid (getL l (j : Int) = (⟨X, Y, Z⟩, true)) := Lib.hid (by rw [getL, if_pos (by omega), Int.toNat_natCast, ← hI, List.getD, List.getElem?_eq_getElem hIl, hf]; rfl)
      have d0 : (w.alloc (.cells #[.string ⟨#[]⟩, .string ⟨#[]⟩, .bool false] 44)).cell? ⟨b, o + I * 3, none⟩ = some (.string X) := (hb0.cell (p := ⟨b, o + I * 3, none⟩) hbl).trans c0
      have d1 : (w.alloc (.cells #[.string ⟨#[]⟩, .string ⟨#[]⟩, .bool false] 44)).cell? ⟨b, o + I * 3 + 1, none⟩ = some (.string Y) := (hb0.cell (p := ⟨b, o + I * 3 + 1, none⟩) hbl).trans c1
      have d2 : (w.alloc (.cells #[.string ⟨#[]⟩, .string ⟨#[]⟩, .bool false] 44)).cell? ⟨b, o + I * 3 + 2, none⟩ = some (.bool Z) := (hb0.cell (p := ⟨b, o + I * 3 + 2, none⟩) hbl).trans c2
      have eI : (j : Int) - 1 = (I : Int) := by omega
      have In : (I : Int) < (n : Int) := by omega
      have ewi : IntKind.i64.wrap (I : Int) = (I : Int) := IntWalk.i64_in _ (by omega)
      have hbZ : Below w.heap.size w (w.alloc (.cells #[.string X, .string Y, .bool Z] 44)) := (Below.refl _ _).alloc (Nat.le_refl _) _
      clear hn hh hat hI hf hc c0 c1 c2
      go_enter Tryd.func52, Tryd.ntmps52
      go_wp2
      refine bodyPost_ret (v := .tuple #[.agg #[.string X, .string Y, .bool Z], .bool true]) (by simp [results, Tryd.results52, go_sem]) rfl ⟨?_, hbZ⟩
      rw [HS.out]
end Go.Proofs.YtlnppbnbjeakhaaDoor
/- The document's own decoder in memory; its New and field. -/
namespace Go.Proofs.YtlnppbnbjeakhaaDoor
open Go.RowKit

/-- The document's decoder lies at block p, its table at q: its limit m, its fields L; dead: is it; S: the blocks that are its own. -/
def RD (w : World) (S : Nat → Prop) (p q m : Nat) (L : List Fld) (dead : Bool) : Prop :=
  ∃ S1, w.heap[p]? = some (.cells #[.pointer (some ⟨q, 0, none⟩), .bool dead] 36 (0, 0)) ∧ RT w S1 q m L ∧ ¬ S1 p ∧ (∀ x, S x ↔ x = p ∨ S1 x) ∧ p < w.heap.size ∧ tot L ≤ m ∧ m ≤ 4096
section
variable {w w' w1 w2 w3 : World} {S S' : Nat → Prop} {p q m : Nat} {L : List Fld} {dead : Bool}
theorem RD.low (h : RD w S p q m L dead) : ∀ x, S x → x < w.heap.size := by
  obtain ⟨S1, _, hT, _, hS, hp, _⟩ := h
  intro x hx
  rcases (hS x).1 hx with rfl | h
  · exact hp
  · exact hT.low x h
theorem RD.fits (h : RD w S p q m L dead) : tot L ≤ m ∧ m ≤ 4096 := by
  obtain ⟨_, _, _, _, _, _, h1, h2⟩ := h
  exact ⟨h1, h2⟩
theorem RD.own (h : RD w S p q m L dead) : S p := by
  obtain ⟨S1, _, _, _, hS, _⟩ := h
  exact (hS p).2 (.inl rfl)
theorem RD.keep (h : RD w S p q m L dead) (hk : Keeps S' w w') (hd : ∀ x, S x → ¬ S' x) : RD w' S p q m L dead := by
  obtain ⟨S1, hh, hT, hn, hS, hp, hm⟩ := h
  exact ⟨S1, (hk.block p hp (hd p ((hS p).2 (.inl rfl)))).trans hh, hT.keep hk (fun x hx => hd x ((hS x).2 (.inr hx))), hn, hS, Nat.lt_of_lt_of_le hp hk.size, hm⟩
theorem RD.quiet (h : RD w S p q m L dead) (hb : Below w.heap.size w w') : RD w' S p q m L dead := h.keep (S' := fun _ => False) (Keeps.of_below hb) (fun _ _ h => h)
theorem RD.cell0 (h : RD w S p q m L dead) : w.cell? ⟨p, 0, none⟩ = some (.pointer (some ⟨q, 0, none⟩)) := by
  obtain ⟨_, hh, _⟩ := h
  exact cell_of_row _ p 0 _ 36 _ hh
theorem RD.cell1 (h : RD w S p q m L dead) : w.cell? ⟨p, 1, none⟩ = some (.bool dead) := by
  obtain ⟨_, hh, _⟩ := h
  exact cell_of_row _ p 1 _ 36 _ hh
/-- What a method of the decoder leaves. -/
def RDPost (S : Nat → Prop) (w : World) (p q m : Nat) (L : List Fld) (dead : Bool) (w' : World) : Prop := ∃ S', RD w' S' p q m L dead ∧ (∀ x, S' x → S x ∨ w.heap.size ≤ x) ∧ Keeps S w w'
theorem RDPost.quiet {w0 : World} (h : RDPost S w0 p q m L dead w) (hb : Below w.heap.size w w') : RDPost S w0 p q m L dead w' := by
  obtain ⟨S', h1, h2, h3⟩ := h
  exact ⟨S', h1.quiet hb, h2, h3.trans (S' := fun _ => False) (Keeps.of_below hb) (fun _ h => h.elim)⟩
theorem RDPost.refl (h : RD w S p q m L dead) : RDPost S w p q m L dead w := ⟨S, h, fun _ hx => .inl hx, Keeps.refl _ _⟩
/-- Only new blocks have turned. -/
theorem RDPost.of_below (h : RD w S p q m L dead) (hb : Below w.heap.size w w') : RDPost S w p q m L dead w' := (RDPost.refl h).quiet hb
theorem RDPost.then {w0 : World} {S1 : Nat → Prop} {m2 : Nat} {L2 : List Fld} {d2 : Bool} (hS : ∀ x, S1 x → S x ∨ w0.heap.size ≤ x) (hK : Keeps S w0 w) (h : RDPost S1 w p q m2 L2 d2 w') : RDPost S w0 p q m2 L2 d2 w' := by
  obtain ⟨S2, h1, h2, h3⟩ := h
  refine ⟨S2, h1, fun x hx => ?_, hK.trans h3 (fun x hx hlt => ?_)⟩
  · rcases h2 x hx with h | h
    · exact hS x h
    · exact .inr (Nat.le_trans hK.size h)
  · rcases hS x hx with h | h
    · exact h
    · omega
/-- Behind a method of the table, between steps that turn new blocks alone. -/
theorem RDPost.table {S1 : Nat → Prop} {m2 : Nat} {L2 : List Fld} (hh : w.heap[p]? = some (.cells #[.pointer (some ⟨q, 0, none⟩), .bool dead] 36 (0, 0))) (hT : RT w S1 q m L) (hn : ¬ S1 p) (hS : ∀ x, S x ↔ x = p ∨ S1 x) (hp : p < w.heap.size) (hm : tot L2 ≤ m2 ∧ m2 ≤ 4096)
    (hb : Below w.heap.size w w1) (h : TPost S1 w1 q m2 L2 w2) (hk : Keeps (fun x => w.heap.size ≤ x ∧ x < w1.heap.size) w2 w3) : RDPost S w p q m2 L2 dead w3 := by
  obtain ⟨S2, hT2, hS2, hK2⟩ := h
  have hk12 : Keeps S1 w w2 := (Keeps.of_below hb).trans hK2 (fun x hx _ => hx)
  have hd : ∀ x, S2 x → ¬ (w.heap.size ≤ x ∧ x < w1.heap.size) := fun x hx ⟨h1, h2⟩ => by
    rcases hS2 x hx with h | h
    · have := hT.low x h
      omega
    · omega
  have hpk : ¬ (w.heap.size ≤ p ∧ p < w1.heap.size) := by omega
  have hp2 : p < w2.heap.size := Nat.lt_of_lt_of_le hp hk12.size
  have hK : Keeps S1 w w3 := hk12.trans hk (fun x hx hlt => by omega)
  refine ⟨fun x => x = p ∨ S2 x, ⟨S2, ?_, hT2.keep hk hd, fun hx => ?_, fun x => Iff.rfl, Nat.lt_of_lt_of_le hp2 hk.size, hm⟩, fun x hx => ?_, hK.mono (fun x _ hx => (hS x).2 (.inr hx))⟩
  · exact ((hk.block p hp2 hpk).trans (hk12.block p hp hn)).trans hh
  · rcases hS2 p hx with h | h
    · exact hn h
    · have := hb.size
      omega
  · rcases hx with rfl | hx
    · exact .inl ((hS _).2 (.inl rfl))
    · rcases hS2 x hx with h | h
      · exact .inl ((hS x).2 (.inr h))
      · exact .inr (Nat.le_trans hb.size h)
end
set_option maxRecDepth 100000 in
theorem runew_any (w : World) : Calls Tryd.prog 10 #[] w fun e w' => ∃ p q S, e = .returned (.pointer (some ⟨p, 0, none⟩)) ∧ RD w' S p q 4096 [] false ∧ (∀ x, S x → w.heap.size ≤ x) ∧ Below w.heap.size w w' := by
  have HN := rnew_ok 4096 w (by omega)
  rw [show ((4096 : Nat) : Int) = 4096 from rfl] at HN
  replace HN := Lib.hid HN
  go_enter Tryd.func10, Tryd.ntmps10
  go_wp2_with fail
  with_reducible refine (HN.out).mono ?_
  rintro e w1 ⟨rfl, hw1⟩
  have hT : RT w1 (fun x => x = w.heap.size) w.heap.size 4096 [] := by rw [hw1]; exact rt_new w 4096
  have hb1 : Below w.heap.size w w1 := by rw [hw1]; exact (Below.refl _ _).alloc (Nat.le_refl _) _
  obtain ⟨q, hq⟩ : ∃ q, q = w.heap.size := ⟨_, rfl⟩
  rw [← hq] at hT ⊢
  have HQ := Lib.hid hq
  clear hq hw1
  have hb2 := hb1.alloc hb1.size (.cells #[.pointer (some ⟨q, 0, none⟩), .bool false] 36)
  have hb3 : Below w1.heap.size w1 (w1.alloc (.cells #[.pointer (some ⟨q, 0, none⟩), .bool false] 36)) := (Below.refl _ _).alloc (Nat.le_refl _) _
  go_wp2
  go_ret
  have hql := hT.low q rfl
  refine ⟨w1.heap.size, q, fun x => x = w1.heap.size ∨ x = q, rfl, ⟨_, heap_alloc_new w1 _, hT.keep (S' := fun _ => False) (Keeps.of_below hb3) (fun _ _ h => h), by omega, fun x => Iff.rfl, by simp, by simp [tot], by omega⟩, fun x hx => ?_, hb2⟩
  have := hb1.size
  have := HQ.out
  omega
set_option maxRecDepth 100000 in
set_option maxHeartbeats 4000000 in
theorem rfield_any (w : World) (S : Nat → Prop) (p q m n : Nat) (L : List Fld) (dead : Bool) (h : RD w S p q m L dead) (hn : n ≤ 2147483647) :
    Calls Tryd.prog 44 #[.pointer (some ⟨p, 0, none⟩), .int .i64 (n : Int)] w (FPost w (ufield L (n : Int))) := by
  obtain ⟨g0, hg0⟩ : ∃ g, g = w.heap.size := ⟨_, rfl⟩
  obtain ⟨wa, hwa⟩ : ∃ wa, wa = w.alloc (.cells #[.string ⟨#[]⟩, .string ⟨#[]⟩, .bool false] 44) := ⟨_, rfl⟩
  have hb0 : Below w.heap.size w wa := by rw [hwa]; exact (Below.refl _ _).alloc (Nat.le_refl _) _
  have hh0 : wa.heap[g0]? = some (.cells #[.string ⟨#[]⟩, .string ⟨#[]⟩, .bool false] 44) := by rw [hwa, hg0]; exact heap_alloc_new w _
  have hlt0 : g0 < wa.heap.size := by rw [hwa, hg0]; simp
  obtain ⟨F, hF⟩ : ∃ F, F = ufield L (n : Int) := ⟨_, rfl⟩
  rw [← hF]
  have HF := Lib.hid hF
  obtain ⟨⟨X2, Y2, Z2⟩, B2⟩ := F
  clear hF
  have HS := rstat_any (n : Int) wa (by omega)
  obtain ⟨G, hG⟩ : ∃ G, G = stg (n : Int) := ⟨_, rfl⟩
  rw [← hG] at HS
  have HG := Lib.hid hG
  obtain ⟨⟨X, Y, Z⟩, B⟩ := G
  rw [hwa] at HS
  replace HS := Lib.hid HS
  have HH := Lib.hid h
  have HGB : Hid (w.heap.size ≤ g0) := Lib.hid (by omega)
  have HH0 := Lib.hid hh0
  clear hG h hh0
  go_enter Tryd.func44, Tryd.ntmps44
  go_wp2_with fail
  with_reducible refine (HS.out).mono ?_
  rw [← hwa]
  rintro e w1 ⟨rfl, hb1⟩
  simp only []
  rw [← hg0]
  obtain ⟨g1, hg1⟩ : ∃ g, g = w1.heap.size := ⟨_, rfl⟩
  obtain ⟨wb, hwb⟩ : ∃ wb, wb = w1.alloc (.cells #[.string X, .string Y, .bool Z] 44) := ⟨_, rfl⟩
  have hbb : Below wa.heap.size wa wb := by rw [hwb]; exact hb1.alloc hb1.size _
  have hb2 := hb0.trans (hbb.mono hb0.size)
  have hh2 : wb.heap[g0]? = some (.cells #[.string ⟨#[]⟩, .string ⟨#[]⟩, .bool false] 44) := (hbb.block g0 hlt0).trans HH0.out
  clear hwa hg0 hb0 hb1 hbb hlt0
  cases B with
  | true =>
    have hU : ((⟨X2, Y2, Z2⟩, B2) : Fld × Bool) = (⟨X, Y, Z⟩, true) := by rw [HF.out, ufield, ← HG.out]; rfl
    have HU := Lib.hid hU
    clear hU
    have hh3 : wb.heap[g1]? = some (.cells #[.string X, .string Y, .bool Z] 44) := by rw [hwb, hg1]; exact heap_alloc_new w1 _
    have f0 : (w1.alloc (.cells #[.string X, .string Y, .bool Z] 44)).frozen? ⟨g0, 0, none⟩ = false := by rw [← hwb]; exact frozen_of_row wb g0 0 _ 44 hh2
    have f1 : (w1.alloc (.cells #[.string X, .string Y, .bool Z] 44)).frozen? ⟨g0, 1, none⟩ = false := by rw [← hwb]; exact frozen_of_row wb g0 1 _ 44 hh2
    have f2 : (w1.alloc (.cells #[.string X, .string Y, .bool Z] 44)).frozen? ⟨g0, 2, none⟩ = false := by rw [← hwb]; exact frozen_of_row wb g0 2 _ 44 hh2
    have q0 : (w1.alloc (.cells #[.string X, .string Y, .bool Z] 44)).cell? ⟨g0, 0, none⟩ = some (.string ⟨#[]⟩) := by rw [← hwb]; exact cell_of_row wb g0 0 _ 44 _ hh2
    have q1 : (w1.alloc (.cells #[.string X, .string Y, .bool Z] 44)).cell? ⟨g0, 1, none⟩ = some (.string ⟨#[]⟩) := by rw [← hwb]; exact cell_of_row wb g0 1 _ 44 _ hh2
    have q2 : (w1.alloc (.cells #[.string X, .string Y, .bool Z] 44)).cell? ⟨g0, 2, none⟩ = some (.bool false) := by rw [← hwb]; exact cell_of_row wb g0 2 _ 44 _ hh2
    have hs1 := ((hb2.setCell (p := ⟨g0, 0, none⟩) HGB.out (.string X)).setCell (p := ⟨g0, 1, none⟩) HGB.out (.string Y)).setCell (p := ⟨g0, 2, none⟩) HGB.out (.bool Z)
    rw [hwb] at hs1
    clear hh2 hh3 hwb hg1 hb2
    go_wp2
    rw [HU.out]
    refine bodyPost_ret (v := .tuple #[.agg #[.string X, .string Y, .bool Z], .bool true]) (by simp [results, Tryd.results44, go_sem, q0, q1, q2]) rfl ⟨rfl, hs1⟩
  | false =>
    have hU : ((⟨X2, Y2, Z2⟩, B2) : Fld × Bool) = getL L ((n : Int) - 61) := by rw [HF.out, ufield, ← HG.out]; rfl
    have hRb := HH.out.quiet hb2
    obtain ⟨S1, _, hT, _⟩ := id hRb
    have x0 := hRb.cell0
    have hgf := rtget_any wb S1 q m L ((n : Int) - 61) hT (by omega)
    rw [← hU] at hgf
    rw [hwb] at hgf x0
    replace hgf := Lib.hid hgf
    clear hT hRb hU hg1
    go_wp2_with fail
    with_reducible refine (hgf.out).mono ?_
    rw [← hwb]
    rintro e w3 ⟨rfl, hb3⟩
    simp only []
    have hlt : g0 < wb.heap.size := by
      rcases Nat.lt_or_ge g0 wb.heap.size with h | h
      · exact h
      · rw [Array.getElem?_eq_none h] at hh2; cases hh2
    have hh3 := (hb3.block g0 hlt).trans hh2
    have hb4 := hb2.trans (hb3.mono hb2.size)
    have f0 : w3.frozen? ⟨g0, 0, none⟩ = false := frozen_of_row w3 g0 0 _ 44 hh3
    have f1 : w3.frozen? ⟨g0, 1, none⟩ = false := frozen_of_row w3 g0 1 _ 44 hh3
    have f2 : w3.frozen? ⟨g0, 2, none⟩ = false := frozen_of_row w3 g0 2 _ 44 hh3
    have q0 : w3.cell? ⟨g0, 0, none⟩ = some (.string ⟨#[]⟩) := cell_of_row w3 g0 0 _ 44 _ hh3
    have q1 : w3.cell? ⟨g0, 1, none⟩ = some (.string ⟨#[]⟩) := cell_of_row w3 g0 1 _ 44 _ hh3
    have q2 : w3.cell? ⟨g0, 2, none⟩ = some (.bool false) := cell_of_row w3 g0 2 _ 44 _ hh3
    have hs1 := ((hb4.setCell (p := ⟨g0, 0, none⟩) HGB.out (.string X2)).setCell (p := ⟨g0, 1, none⟩) HGB.out (.string Y2)).setCell (p := ⟨g0, 2, none⟩) HGB.out (.bool Z2)
    clear hh2 hh3 hwb hb2 hb3 hb4 hlt x0 hgf
    go_wp2
    refine bodyPost_ret (v := .tuple #[.agg #[.string X2, .string Y2, .bool Z2], .bool B2]) (by simp [results, Tryd.results44, go_sem, q0, q1, q2]) rfl ⟨rfl, hs1⟩
end Go.Proofs.YtlnppbnbjeakhaaDoor
