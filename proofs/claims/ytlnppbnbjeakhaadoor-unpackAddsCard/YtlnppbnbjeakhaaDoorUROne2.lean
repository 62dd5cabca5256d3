/- Contract of the reference's one: a representation. -/
import Derived.Test.YtlnppbnbjeakhaaDoorURDec
import Derived.Deep.RegionHeld3
import Derived.StillTailTactics
namespace Go.Proofs.YtlnppbnbjeakhaaDoor
open Go.RowKit

def OnPost (S : Nat → Prop) (w : World) (p q : Nat) (dead : Bool) (r : Rep) (e : Ending) (w' : World) : Prop := e = .returned (.tuple #[.agg #[.string r.fld.name, .string r.fld.value, .bool r.fld.never], .int .i64 ((r.next : Nat) : Int), .bool r.lim, .bool r.ok]) ∧ RDPost S w p q r.most r.tab dead w'
set_option maxRecDepth 100000 in
set_option maxHeartbeats 8000000 in
theorem rone_idx (A : Option Addr) (b : List Nat) (n c k y : Nat) (w : World) (S : Nat → Prop) (p q m : Nat) (L : List Fld) (dead : Bool) (hR : RD w S p q m L dead) (hA : At .u8 w w.heap.size A b) (hb : ∀ x ∈ b, x < 256) (hl : b.length = n) (hnc : n ≤ c) (hn : n ≤ 100000) (hk : k < n) (hy : b[k]? = some y) (hy128 : 128 ≤ y) :
    Calls Tryd.prog 28 #[.pointer (some ⟨p, 0, none⟩), .slice A n c, .int .i64 (k : Int)] w (OnPost S w p q dead (uone b k m L)) := by
  have hkl : k < b.length := by omega
  have hye : y = b[k] := by rw [List.getElem?_eq_getElem hkl] at hy; injection hy with hy; exact hy.symm
  have hgd : b.getD k 0 = y := by rw [List.getD, hy]; rfl
  have hy256 : y < 256 := by rw [hye]; exact hb _ (List.getElem_mem _)
  have hbt : ubits y = 7 := by unfold ubits; repeat (first | rw [if_pos (by omega)] | rw [if_neg (by omega)])
  obtain ⟨G, hG⟩ : ∃ G, G = Pn.getI (b.drop k) 7 := ⟨_, rfl⟩
  have HO : Hid (uone b k m L = uoneG b k m L y G.1 G.2.1 G.2.2) := Lib.hid (by rw [uone, hgd, hbt, hG]; rfl)
  obtain ⟨r, hr⟩ : ∃ r, r = n - k := ⟨_, rfl⟩
  obtain ⟨A2, hA2⟩ : ∃ A2, A2 = cutAt A c k := ⟨_, rfl⟩
  have hsl := fun (W : World) => slice_l A n c k r W (by omega) hr.symm
  rw [← hA2] at hsl
  obtain ⟨wa, hwa⟩ : ∃ wa, wa = (w.alloc (.cells #[.string ⟨#[]⟩, .string ⟨#[]⟩, .bool false] 44)).alloc (.cells #[.string ⟨#[]⟩, .string ⟨#[]⟩, .bool false] 44) := ⟨_, rfl⟩
  have hb0 : Below w.heap.size w (w.alloc (.cells #[.string ⟨#[]⟩, .string ⟨#[]⟩, .bool false] 44)) := (Below.refl _ _).alloc (Nat.le_refl _) _
  have hba : Below w.heap.size w wa := by rw [hwa]; exact hb0.alloc hb0.size _
  obtain ⟨g6, hg6⟩ : ∃ g, g = w.heap.size := ⟨_, rfl⟩
  obtain ⟨g10, hg10⟩ : ∃ g, g = (w.alloc (.cells #[.string ⟨#[]⟩, .string ⟨#[]⟩, .bool false] 44)).heap.size := ⟨_, rfl⟩
  have hg10w : g10 = g6 + 1 := by rw [hg10, hg6]; simp
  have hwas : wa.heap.size = g6 + 2 := by rw [hwa, hg6]; simp
  have hh10 : wa.heap[g10]? = some (.cells #[.string ⟨#[]⟩, .string ⟨#[]⟩, .bool false] 44) := by rw [hwa, hg10]; exact heap_alloc_new _ _
  have hh6 : wa.heap[g6]? = some (.cells #[.string ⟨#[]⟩, .string ⟨#[]⟩, .bool false] 44) := by
    have h1 : Below (w.heap.size + 1) (w.alloc (.cells #[.string ⟨#[]⟩, .string ⟨#[]⟩, .bool false] 44)) wa := by rw [hwa]; exact (Below.refl _ _).alloc (by simp) _
    rw [h1.block g6 (by omega), hg6]
    exact heap_alloc_new w _
  have HG6 := Lib.hid fun (W : World) (hB : Below wa.heap.size wa W) => (hB.block g6 (by omega)).trans hh6
  have HG10 := Lib.hid fun (W : World) (hB : Below wa.heap.size wa W) => (hB.block g10 (by omega)).trans hh10
  have HGB : Hid (w.heap.size ≤ g6) := Lib.hid (by omega)
  have HWS := Lib.hid hwas
  have HGW := Lib.hid hg6
  have HBA := Lib.hid hba
  have HGET := rget_any A2 (b.drop k) r (c - k) 7 wa (by rw [hA2]; exact (hA.up hba).drop (by omega)) (fun x hx => hb x (List.mem_of_mem_drop hx)) (by rw [List.length_drop]; omega) (by omega)
  rw [← hG] at HGET
  obtain ⟨v, u, e⟩ := G
  simp only [] at HO
  have HU : Hid (e = 0 → 1 ≤ u ∧ u ≤ r ∧ v ≤ 2147483647) := Lib.hid (fun he => by
    subst he
    have := get_used (b.drop k) 7 v u (by omega) (by omega) hG.symm
    rw [List.length_drop] at this
    omega)
  rw [hwa] at HGET
  replace HGET := Lib.hid HGET
  obtain ⟨bk, o, rfl, hbk, hc⟩ := hA.pos (by omega)
  have cy : wa.cell? ⟨bk, o + k, none⟩ = some (.int .u8 (y : Int)) := by rw [hye]; exact (hba.cell (p := ⟨bk, o + k, none⟩) hbk).trans (hc k hkl)
  rw [hwa] at cy
  have HRD := Lib.hid hR
  have HA := Lib.hid hA
  have HB := Lib.hid hb
  have HL := Lib.hid hl
  have HR := Lib.hid hr
  have HWA := Lib.hid hwa
  have ki : (k : Int) < (n : Int) := by omega
  have HG10W := Lib.hid hg10w
  clear hR hA hb hl hkl hye hgd hy hbt hG hr hA2 hb0 hg10w hwas hh10 hh6 hc hba hbk
  have y1 : (128 : Int) ≤ (y : Int) := by omega
  have y1d : decide ((128 : Int) ≤ (y : Int)) = true := decide_eq_true y1
  by_cases he : e = 0
  · obtain ⟨hu1, hu2, hv⟩ := HU.out he
    subst he
    obtain ⟨s, hs⟩ : ∃ s, s = k + u := ⟨_, rfl⟩
    have es : (k : Int) + (u : Int) = (s : Int) := by omega
    have hsb : s ≤ 100000 := by have := HR.out; omega
    have HO2 : Hid (uone b k m L = ⟨(ufield L (v : Int)).1, s, false, (ufield L (v : Int)).2, m, L⟩) := Lib.hid (by rw [HO.out, uoneG, if_neg (by omega), if_pos hy128, hs])
    clear hs
    go_enter Tryd.func28, Tryd.ntmps28
    go_wp2_with fail
    with_reducible refine (HGET.out).mono ?_
    rw [← HWA.out]
    rintro e1 w1 ⟨rfl, hb1⟩
    simp only []
    rw [← hg6, ← HG10W.out]
    clear hg6 hg10 hwa
    have hbw1 := HBA.out.trans (hb1.mono HBA.out.size)
    have hff := rfield_any w1 S p q m v L dead (HRD.out.quiet hbw1) hv
    obtain ⟨F, hF⟩ : ∃ F, F = ufield L (v : Int) := ⟨_, rfl⟩
    rw [← hF] at hff HO2
    obtain ⟨⟨X, Y, Z⟩, B⟩ := F
    replace hff := Lib.hid hff
    clear hF cy
    go_wp2_with fail
    with_reducible refine (hff.out).mono ?_
    rintro e2 w2 ⟨rfl, hb2⟩
    simp only []
    have hb3 : Below wa.heap.size wa (w2.alloc (.cells #[.string X, .string Y, .bool Z] 44)) := (hb1.trans (hb2.mono hb1.size)).alloc (Nat.le_trans hb1.size hb2.size) _
    have hbw3 := HBA.out.trans (hb3.mono HBA.out.size)
    have h6 := HG6.out (w2.alloc (.cells #[.string X, .string Y, .bool Z] 44)) hb3
    have f0 : (w2.alloc (.cells #[.string X, .string Y, .bool Z] 44)).frozen? ⟨g6, 0, none⟩ = false := frozen_of_row _ g6 0 _ 44 h6
    have f1 : (w2.alloc (.cells #[.string X, .string Y, .bool Z] 44)).frozen? ⟨g6, 1, none⟩ = false := frozen_of_row _ g6 1 _ 44 h6
    have f2 : (w2.alloc (.cells #[.string X, .string Y, .bool Z] 44)).frozen? ⟨g6, 2, none⟩ = false := frozen_of_row _ g6 2 _ 44 h6
    have q0 : (w2.alloc (.cells #[.string X, .string Y, .bool Z] 44)).cell? ⟨g6, 0, none⟩ = some (.string ⟨#[]⟩) := cell_of_row _ g6 0 _ 44 _ h6
    have q1 : (w2.alloc (.cells #[.string X, .string Y, .bool Z] 44)).cell? ⟨g6, 1, none⟩ = some (.string ⟨#[]⟩) := cell_of_row _ g6 1 _ 44 _ h6
    have q2 : (w2.alloc (.cells #[.string X, .string Y, .bool Z] 44)).cell? ⟨g6, 2, none⟩ = some (.bool false) := cell_of_row _ g6 2 _ 44 _ h6
    have hs1 := ((hbw3.setCell (p := ⟨g6, 0, none⟩) HGB.out (.string X)).setCell (p := ⟨g6, 1, none⟩) HGB.out (.string Y)).setCell (p := ⟨g6, 2, none⟩) HGB.out (.bool Z)
    clear h6 hb1 hb2 hb3 hbw1
    go_wp2
    rw [HO2.out]
    refine bodyPost_ret (v := .tuple #[.agg #[.string X, .string Y, .bool Z], .int .i64 (s : Int), .bool false, .bool B]) (by simp [results, Tryd.results28, go_sem, q0, q1, q2]) rfl ⟨rfl, RDPost.of_below HRD.out hs1⟩
  · have HO2 : Hid (uone b k m L = ubad m L) := Lib.hid (by rw [HO.out, uoneG, if_pos he])
    have qe : ((e : Int) != 0) = true := by simp; omega
    go_enter Tryd.func28, Tryd.ntmps28
    go_wp2_with fail
    with_reducible refine (HGET.out).mono ?_
    rw [← HWA.out]
    rintro e1 w1 ⟨rfl, hb1⟩
    simp only []
    rw [← hg6, ← HG10W.out]
    clear hg6 hg10 hwa
    have hbw1 := HBA.out.trans (hb1.mono HBA.out.size)
    have h6 := HG6.out (w1) hb1
    have f0 : (w1).frozen? ⟨g6, 0, none⟩ = false := frozen_of_row _ g6 0 _ 44 h6
    have f1 : (w1).frozen? ⟨g6, 1, none⟩ = false := frozen_of_row _ g6 1 _ 44 h6
    have f2 : (w1).frozen? ⟨g6, 2, none⟩ = false := frozen_of_row _ g6 2 _ 44 h6
    have q0 : (w1).cell? ⟨g6, 0, none⟩ = some (.string ⟨#[]⟩) := cell_of_row _ g6 0 _ 44 _ h6
    have q1 : (w1).cell? ⟨g6, 1, none⟩ = some (.string ⟨#[]⟩) := cell_of_row _ g6 1 _ 44 _ h6
    have q2 : (w1).cell? ⟨g6, 2, none⟩ = some (.bool false) := cell_of_row _ g6 2 _ 44 _ h6
    have h10 := HG10.out (w1) hb1
    have z0 : (w1).cell? ⟨g10, 0, none⟩ = some (.string ⟨#[]⟩) := cell_of_row _ g10 0 _ 44 _ h10
    have z1 : (w1).cell? ⟨g10, 1, none⟩ = some (.string ⟨#[]⟩) := cell_of_row _ g10 1 _ 44 _ h10
    have z2 : (w1).cell? ⟨g10, 2, none⟩ = some (.bool false) := cell_of_row _ g10 2 _ 44 _ h10
    have hs1 := ((hbw1.setCell (p := ⟨g6, 0, none⟩) HGB.out (.string ⟨#[]⟩)).setCell (p := ⟨g6, 1, none⟩) HGB.out (.string ⟨#[]⟩)).setCell (p := ⟨g6, 2, none⟩) HGB.out (.bool false)
    clear h6 h10
    go_wp2
    rw [HO2.out]
    refine bodyPost_ret (v := .tuple #[.agg #[.string ⟨#[]⟩, .string ⟨#[]⟩, .bool false], .int .i64 0, .bool false, .bool false]) (by simp [results, Tryd.results28, go_sem, q0, q1, q2]) rfl ⟨rfl, RDPost.of_below HRD.out hs1⟩
end Go.Proofs.YtlnppbnbjeakhaaDoor
/- Contract of the reference's one: a limit. -/
namespace Go.Proofs.YtlnppbnbjeakhaaDoor
open Go.RowKit

set_option maxRecDepth 100000 in
set_option maxHeartbeats 8000000 in
theorem rone_lim (A : Option Addr) (b : List Nat) (n c k y : Nat) (w : World) (S : Nat → Prop) (p q m : Nat) (L : List Fld) (dead : Bool) (hR : RD w S p q m L dead) (hA : At .u8 w w.heap.size A b) (hb : ∀ x ∈ b, x < 256) (hl : b.length = n) (hnc : n ≤ c) (hn : n ≤ 100000) (hk : k < n) (hy : b[k]? = some y) (hy32 : 32 ≤ y ∧ y < 64) :
    Calls Tryd.prog 28 #[.pointer (some ⟨p, 0, none⟩), .slice A n c, .int .i64 (k : Int)] w (OnPost S w p q dead (uone b k m L)) := by
  have hkl : k < b.length := by omega
  have hye : y = b[k] := by rw [List.getElem?_eq_getElem hkl] at hy; injection hy with hy; exact hy.symm
  have hgd : b.getD k 0 = y := by rw [List.getD, hy]; rfl
  have hy256 : y < 256 := by rw [hye]; exact hb _ (List.getElem_mem _)
  have hbt : ubits y = 5 := by unfold ubits; repeat (first | rw [if_pos (by omega)] | rw [if_neg (by omega)])
  obtain ⟨G, hG⟩ : ∃ G, G = Pn.getI (b.drop k) 5 := ⟨_, rfl⟩
  have HO : Hid (uone b k m L = uoneG b k m L y G.1 G.2.1 G.2.2) := Lib.hid (by rw [uone, hgd, hbt, hG]; rfl)
  obtain ⟨r, hr⟩ : ∃ r, r = n - k := ⟨_, rfl⟩
  obtain ⟨A2, hA2⟩ : ∃ A2, A2 = cutAt A c k := ⟨_, rfl⟩
  have hsl := fun (W : World) => slice_l A n c k r W (by omega) hr.symm
  rw [← hA2] at hsl
  obtain ⟨wa, hwa⟩ : ∃ wa, wa = (w.alloc (.cells #[.string ⟨#[]⟩, .string ⟨#[]⟩, .bool false] 44)).alloc (.cells #[.string ⟨#[]⟩, .string ⟨#[]⟩, .bool false] 44) := ⟨_, rfl⟩
  have hb0 : Below w.heap.size w (w.alloc (.cells #[.string ⟨#[]⟩, .string ⟨#[]⟩, .bool false] 44)) := (Below.refl _ _).alloc (Nat.le_refl _) _
  have hba : Below w.heap.size w wa := by rw [hwa]; exact hb0.alloc hb0.size _
  obtain ⟨g6, hg6⟩ : ∃ g, g = w.heap.size := ⟨_, rfl⟩
  obtain ⟨g10, hg10⟩ : ∃ g, g = (w.alloc (.cells #[.string ⟨#[]⟩, .string ⟨#[]⟩, .bool false] 44)).heap.size := ⟨_, rfl⟩
  have hg10w : g10 = g6 + 1 := by rw [hg10, hg6]; simp
  have hwas : wa.heap.size = g6 + 2 := by rw [hwa, hg6]; simp
  have hh10 : wa.heap[g10]? = some (.cells #[.string ⟨#[]⟩, .string ⟨#[]⟩, .bool false] 44) := by rw [hwa, hg10]; exact heap_alloc_new _ _
  have hh6 : wa.heap[g6]? = some (.cells #[.string ⟨#[]⟩, .string ⟨#[]⟩, .bool false] 44) := by
    have h1 : Below (w.heap.size + 1) (w.alloc (.cells #[.string ⟨#[]⟩, .string ⟨#[]⟩, .bool false] 44)) wa := by rw [hwa]; exact (Below.refl _ _).alloc (by simp) _
    rw [h1.block g6 (by omega), hg6]
    exact heap_alloc_new w _
  have HG6 := Lib.hid fun (W : World) (hB : Below wa.heap.size wa W) => (hB.block g6 (by omega)).trans hh6
  have HG10 := Lib.hid fun (W : World) (hB : Below wa.heap.size wa W) => (hB.block g10 (by omega)).trans hh10
  have HGB : Hid (w.heap.size ≤ g6) := Lib.hid (by omega)
  have HWS := Lib.hid hwas
  have HGW := Lib.hid hg6
  have HBA := Lib.hid hba
  have HGET := rget_any A2 (b.drop k) r (c - k) 5 wa (by rw [hA2]; exact (hA.up hba).drop (by omega)) (fun x hx => hb x (List.mem_of_mem_drop hx)) (by rw [List.length_drop]; omega) (by omega)
  rw [← hG] at HGET
  obtain ⟨v, u, e⟩ := G
  simp only [] at HO
  have HU : Hid (e = 0 → 1 ≤ u ∧ u ≤ r ∧ v ≤ 2147483647) := Lib.hid (fun he => by
    subst he
    have := get_used (b.drop k) 5 v u (by omega) (by omega) hG.symm
    rw [List.length_drop] at this
    omega)
  rw [hwa] at HGET
  replace HGET := Lib.hid HGET
  obtain ⟨bk, o, rfl, hbk, hc⟩ := hA.pos (by omega)
  have cy : wa.cell? ⟨bk, o + k, none⟩ = some (.int .u8 (y : Int)) := by rw [hye]; exact (hba.cell (p := ⟨bk, o + k, none⟩) hbk).trans (hc k hkl)
  rw [hwa] at cy
  have HRD := Lib.hid hR
  have HA := Lib.hid hA
  have HB := Lib.hid hb
  have HL := Lib.hid hl
  have HR := Lib.hid hr
  have HWA := Lib.hid hwa
  have ki : (k : Int) < (n : Int) := by omega
  have HG10W := Lib.hid hg10w
  clear hR hA hb hl hkl hye hgd hy hbt hG hr hA2 hb0 hg10w hwas hh10 hh6 hc hba hbk
  have y1 : ¬ (128 : Int) ≤ (y : Int) := by omega
  have y2 : ¬ (64 : Int) ≤ (y : Int) := by omega
  have y3 : (32 : Int) ≤ (y : Int) := by omega
  have y4 : (y : Int) < 64 := by omega
  have y3d : decide ((32 : Int) ≤ (y : Int)) = true := decide_eq_true y3
  have y4d : decide ((y : Int) < 64) = true := decide_eq_true y4
  by_cases he : e = 0
  · obtain ⟨hu1, hu2, hv⟩ := HU.out he
    subst he
    obtain ⟨s, hs⟩ : ∃ s, s = k + u := ⟨_, rfl⟩
    have es : (k : Int) + (u : Int) = (s : Int) := by omega
    have hsb : s ≤ 100000 := by have := HR.out; omega
    by_cases hv2 : v ≤ 4096
    · have HO2 : Hid (uone b k m L = ⟨noFld, s, true, true, v, fitL v L⟩) := Lib.hid (by rw [HO.out, uoneG, if_neg (by omega), if_neg (by omega), if_pos hy32, if_pos hv2, hs])
      have v1 : (v : Int) ≤ 4096 := by omega
      have v1d : decide ((v : Int) ≤ 4096) = true := decide_eq_true v1
      clear hs
      go_enter Tryd.func28, Tryd.ntmps28
      go_wp2_with fail
      with_reducible refine (HGET.out).mono ?_
      rw [← HWA.out]
      rintro e1 w1 ⟨rfl, hb1⟩
      simp only []
      rw [← hg6, ← HG10W.out]
      clear hg6 hg10 hwa
      have hbw1 := HBA.out.trans (hb1.mono HBA.out.size)
      obtain ⟨S1, hh, hT, hn1, hS, hp, hm⟩ := HRD.out
      have hbd : Below w.heap.size w w1.drew := hbw1.drew
      have hbd2 : Below wa.heap.size wa w1.drew := hb1.drew
      have HLM := Lib.hid (rlimit_ok w1.drew S1 q m v L (hT.keep (S' := fun _ => False) (Keeps.of_below hbd) (fun _ _ h => h)) hv2)
      have x0 : w1.cell? ⟨p, 0, none⟩ = some (.pointer (some ⟨q, 0, none⟩)) := (HRD.out.quiet hbw1).cell0
      have h10 := HG10.out (w1) hb1
      have z0 : (w1).cell? ⟨g10, 0, none⟩ = some (.string ⟨#[]⟩) := cell_of_row _ g10 0 _ 44 _ h10
      have z1 : (w1).cell? ⟨g10, 1, none⟩ = some (.string ⟨#[]⟩) := cell_of_row _ g10 1 _ 44 _ h10
      have z2 : (w1).cell? ⟨g10, 2, none⟩ = some (.bool false) := cell_of_row _ g10 2 _ 44 _ h10
      have HFIN := Lib.hid fun (w2 w3 : World) (hP : TPost S1 w1.drew q v (fitL v L) w2) (hk : Keeps (fun x => w.heap.size ≤ x ∧ x < w1.drew.heap.size) w2 w3) => RDPost.table (dead := dead) hh hT hn1 hS hp ⟨fit_tot v L, hv2⟩ hbd hP hk
      have HN6 : Hid (¬ S1 g6 ∧ ¬ S1 g10) := Lib.hid ⟨fun h => by have := hT.low g6 h; have := HGB.out; omega, fun h => by have := hT.low g10 h; have := HGB.out; have := HG10W.out; omega⟩
      have HL6 : Hid (g6 < w1.drew.heap.size ∧ g10 < w1.drew.heap.size) := Lib.hid (by have := hbd2.size; have := HWS.out; have := HG10W.out; omega)
      have HPW := Lib.hid hp
      have HPL : Hid (p < w1.drew.heap.size ∧ ¬ S1 p) := Lib.hid ⟨Nat.lt_of_lt_of_le hp hbd.size, hn1⟩
      have H6 := Lib.hid (HG6.out w1.drew hbd2)
      have H10 := Lib.hid (HG10.out w1.drew hbd2)
      clear h10 hh hT hn1 hS hp hm hbd hbd2 hb1 hbw1 cy
      have x0' := fun (w2 : World) (hP : TPost S1 w1.drew q v (fitL v L) w2) => (show w2.cell? ⟨p, 0, none⟩ = some (.pointer (some ⟨q, 0, none⟩)) by obtain ⟨_, _, _, hK⟩ := hP; exact (hK.cell (p := ⟨p, 0, none⟩) HPL.out.1 HPL.out.2).trans x0)
      have HX := Lib.hid x0'
      have HZ := Lib.hid fun (w2 : World) (hP : TPost S1 w1.drew q v (fitL v L) w2) => (show w2.heap[g10]? = some (.cells #[.string ⟨#[]⟩, .string ⟨#[]⟩, .bool false] 44) ∧ w2.heap[g6]? = some (.cells #[.string ⟨#[]⟩, .string ⟨#[]⟩, .bool false] 44) by obtain ⟨_, _, _, hK⟩ := hP; exact ⟨(hK.block g10 HL6.out.2 HN6.out.2).trans H10.out, (hK.block g6 HL6.out.1 HN6.out.1).trans H6.out⟩)
      clear x0'
      have HKS := Lib.hid fun (w2 : World) (hP : TPost S1 w1.drew q v (fitL v L) w2) => (show Keeps (fun x => x = g6) w2 (((w2.setCell ⟨g6, 0, none⟩ (.string ⟨#[]⟩)).setCell ⟨g6, 1, none⟩ (.string ⟨#[]⟩)).setCell ⟨g6, 2, none⟩ (.bool false)) from (((Keeps.refl (fun x => x = g6) w2).setCell (p := ⟨g6, 0, none⟩) rfl _).setCell (p := ⟨g6, 1, none⟩) rfl _).setCell (p := ⟨g6, 2, none⟩) rfl _)
      have HNE : Hid (g10 ≠ g6 ∧ p ≠ g6) := Lib.hid (by have := HG10W.out; have := HPW.out; have := HGB.out; omega)
      have HSZ := Lib.hid fun (w2 : World) (hP : TPost S1 w1.drew q v (fitL v L) w2) => (show w1.drew.heap.size ≤ w2.heap.size by obtain ⟨_, _, _, hK⟩ := hP; exact hK.size)
      go_wp2
      go_region_held3 (fun w' => w'.cell? ⟨g10, 0, none⟩ = some (.string ⟨#[]⟩) ∧ w'.cell? ⟨g10, 1, none⟩ = some (.string ⟨#[]⟩) ∧ w'.cell? ⟨g10, 2, none⟩ = some (.bool false) ∧ w'.cell? ⟨p, 0, none⟩ = some (.pointer (some ⟨q, 0, none⟩)))
        (first
          | exact ⟨z0, z1, z2, x0⟩
          | exact ⟨cell_of_row _ g10 0 _ 44 _ (HZ.out _ hP).1, cell_of_row _ g10 1 _ 44 _ (HZ.out _ hP).1, cell_of_row _ g10 2 _ 44 _ (HZ.out _ hP).1, HX.out _ hP⟩
          | exact ⟨((HKS.out w2 hP).cell (p := ⟨g10, 0, none⟩) (Nat.lt_of_lt_of_le HL6.out.2 (HSZ.out w2 hP)) HNE.out.1).trans (cell_of_row _ g10 0 _ 44 _ (HZ.out _ hP).1), ((HKS.out w2 hP).cell (p := ⟨g10, 1, none⟩) (Nat.lt_of_lt_of_le HL6.out.2 (HSZ.out w2 hP)) HNE.out.1).trans (cell_of_row _ g10 1 _ 44 _ (HZ.out _ hP).1), ((HKS.out w2 hP).cell (p := ⟨g10, 2, none⟩) (Nat.lt_of_lt_of_le HL6.out.2 (HSZ.out w2 hP)) HNE.out.1).trans (cell_of_row _ g10 2 _ 44 _ (HZ.out _ hP).1), ((HKS.out w2 hP).cell (p := ⟨p, 0, none⟩) (Nat.lt_of_lt_of_le HPL.out.1 (HSZ.out w2 hP)) HNE.out.2).trans (HX.out _ hP)⟩)
        (first
          | ((with_reducible refine (HLM.out).mono ?_); rintro e2 w2 ⟨rfl, hP⟩; have f0 : w2.frozen? ⟨g6, 0, none⟩ = false := frozen_of_row _ g6 0 _ 44 (HZ.out w2 hP).2; have f1 : w2.frozen? ⟨g6, 1, none⟩ = false := frozen_of_row _ g6 1 _ 44 (HZ.out w2 hP).2; have f2 : w2.frozen? ⟨g6, 2, none⟩ = false := frozen_of_row _ g6 2 _ 44 (HZ.out w2 hP).2; have q0 : w2.cell? ⟨g6, 0, none⟩ = some (.string ⟨#[]⟩) := cell_of_row _ g6 0 _ 44 _ (HZ.out w2 hP).2; have q1 : w2.cell? ⟨g6, 1, none⟩ = some (.string ⟨#[]⟩) := cell_of_row _ g6 1 _ 44 _ (HZ.out w2 hP).2; have q2 : w2.cell? ⟨g6, 2, none⟩ = some (.bool false) := cell_of_row _ g6 2 _ 44 _ (HZ.out w2 hP).2))
      have hZZ := HFIN.out w2 _ hP ((HKS.out w2 hP).mono (fun x _ hx => by subst hx; exact ⟨HGB.out, HL6.out.1⟩))
      clear hP
      go_wp2
      rw [HO2.out]
      refine bodyPost_ret (v := .tuple #[.agg #[.string ⟨#[]⟩, .string ⟨#[]⟩, .bool false], .int .i64 (s : Int), .bool true, .bool true]) (by simp [results, Tryd.results28, go_sem, q0, q1, q2]) rfl ⟨rfl, hZZ⟩
    · have HO2 : Hid (uone b k m L = ⟨noFld, s, true, false, m, L⟩) := Lib.hid (by rw [HO.out, uoneG, if_neg (by omega), if_neg (by omega), if_pos hy32, if_neg hv2, hs])
      have v1 : ¬ (v : Int) ≤ 4096 := by omega
      have v1d : decide ((v : Int) ≤ 4096) = false := decide_eq_false v1
      have v1n : decide (v ≤ 4096) = false := decide_eq_false hv2
      clear v1
      clear hs
      go_enter Tryd.func28, Tryd.ntmps28
      go_wp2_with fail
      with_reducible refine (HGET.out).mono ?_
      rw [← HWA.out]
      rintro e1 w1 ⟨rfl, hb1⟩
      simp only []
      rw [← hg6, ← HG10W.out]
      clear hg6 hg10 hwa
      have hbw1 := HBA.out.trans (hb1.mono HBA.out.size)
      have h6 := HG6.out (w1) hb1
      have f0 : (w1).frozen? ⟨g6, 0, none⟩ = false := frozen_of_row _ g6 0 _ 44 h6
      have f1 : (w1).frozen? ⟨g6, 1, none⟩ = false := frozen_of_row _ g6 1 _ 44 h6
      have f2 : (w1).frozen? ⟨g6, 2, none⟩ = false := frozen_of_row _ g6 2 _ 44 h6
      have q0 : (w1).cell? ⟨g6, 0, none⟩ = some (.string ⟨#[]⟩) := cell_of_row _ g6 0 _ 44 _ h6
      have q1 : (w1).cell? ⟨g6, 1, none⟩ = some (.string ⟨#[]⟩) := cell_of_row _ g6 1 _ 44 _ h6
      have q2 : (w1).cell? ⟨g6, 2, none⟩ = some (.bool false) := cell_of_row _ g6 2 _ 44 _ h6
      have h10 := HG10.out (w1) hb1
      have z0 : (w1).cell? ⟨g10, 0, none⟩ = some (.string ⟨#[]⟩) := cell_of_row _ g10 0 _ 44 _ h10
      have z1 : (w1).cell? ⟨g10, 1, none⟩ = some (.string ⟨#[]⟩) := cell_of_row _ g10 1 _ 44 _ h10
      have z2 : (w1).cell? ⟨g10, 2, none⟩ = some (.bool false) := cell_of_row _ g10 2 _ 44 _ h10
      have hbd : Below w.heap.size w w1.drew := hbw1.drew
      have hs1 := ((hbd.setCell (p := ⟨g6, 0, none⟩) HGB.out (.string ⟨#[]⟩)).setCell (p := ⟨g6, 1, none⟩) HGB.out (.string ⟨#[]⟩)).setCell (p := ⟨g6, 2, none⟩) HGB.out (.bool false)
      have HKS := Lib.hid (show Keeps (fun x => x = g6) w1 (((w1.setCell ⟨g6, 0, none⟩ (.string ⟨#[]⟩)).setCell ⟨g6, 1, none⟩ (.string ⟨#[]⟩)).setCell ⟨g6, 2, none⟩ (.bool false)) from (((Keeps.refl (fun x => x = g6) w1).setCell (p := ⟨g6, 0, none⟩) rfl _).setCell (p := ⟨g6, 1, none⟩) rfl _).setCell (p := ⟨g6, 2, none⟩) rfl _)
      have HNE : Hid (g10 ≠ g6) := Lib.hid (by have := HG10W.out; omega)
      have HLL : Hid (g10 < w1.heap.size) := Lib.hid (by have := hb1.size; have := HWS.out; have := HG10W.out; omega)
      clear h6 h10 hb1 hbw1 hbd cy
      go_wp2
      go_region
      go_wp2
      rw [HO2.out]
      refine bodyPost_ret (v := .tuple #[.agg #[.string ⟨#[]⟩, .string ⟨#[]⟩, .bool false], .int .i64 (s : Int), .bool true, .bool false]) (by simp [results, Tryd.results28, go_sem, q0, q1, q2]) rfl ⟨rfl, RDPost.of_below HRD.out hs1⟩
  · have HO2 : Hid (uone b k m L = ubad m L) := Lib.hid (by rw [HO.out, uoneG, if_pos he])
    have qe : ((e : Int) != 0) = true := by simp; omega
    go_enter Tryd.func28, Tryd.ntmps28
    go_wp2_with fail
    with_reducible refine (HGET.out).mono ?_
    rw [← HWA.out]
    rintro e1 w1 ⟨rfl, hb1⟩
    simp only []
    rw [← hg6, ← HG10W.out]
    clear hg6 hg10 hwa
    have hbw1 := HBA.out.trans (hb1.mono HBA.out.size)
    have h6 := HG6.out (w1) hb1
    have f0 : (w1).frozen? ⟨g6, 0, none⟩ = false := frozen_of_row _ g6 0 _ 44 h6
    have f1 : (w1).frozen? ⟨g6, 1, none⟩ = false := frozen_of_row _ g6 1 _ 44 h6
    have f2 : (w1).frozen? ⟨g6, 2, none⟩ = false := frozen_of_row _ g6 2 _ 44 h6
    have q0 : (w1).cell? ⟨g6, 0, none⟩ = some (.string ⟨#[]⟩) := cell_of_row _ g6 0 _ 44 _ h6
    have q1 : (w1).cell? ⟨g6, 1, none⟩ = some (.string ⟨#[]⟩) := cell_of_row _ g6 1 _ 44 _ h6
    have q2 : (w1).cell? ⟨g6, 2, none⟩ = some (.bool false) := cell_of_row _ g6 2 _ 44 _ h6
    have h10 := HG10.out (w1) hb1
    have z0 : (w1).cell? ⟨g10, 0, none⟩ = some (.string ⟨#[]⟩) := cell_of_row _ g10 0 _ 44 _ h10
    have z1 : (w1).cell? ⟨g10, 1, none⟩ = some (.string ⟨#[]⟩) := cell_of_row _ g10 1 _ 44 _ h10
    have z2 : (w1).cell? ⟨g10, 2, none⟩ = some (.bool false) := cell_of_row _ g10 2 _ 44 _ h10
    have hs1 := ((hbw1.setCell (p := ⟨g6, 0, none⟩) HGB.out (.string ⟨#[]⟩)).setCell (p := ⟨g6, 1, none⟩) HGB.out (.string ⟨#[]⟩)).setCell (p := ⟨g6, 2, none⟩) HGB.out (.bool false)
    clear h6 h10
    go_wp2
    rw [HO2.out]
    refine bodyPost_ret (v := .tuple #[.agg #[.string ⟨#[]⟩, .string ⟨#[]⟩, .bool false], .int .i64 0, .bool false, .bool false]) (by simp [results, Tryd.results28, go_sem, q0, q1, q2]) rfl ⟨rfl, RDPost.of_below HRD.out hs1⟩
end Go.Proofs.YtlnppbnbjeakhaaDoor
