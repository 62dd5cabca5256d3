/- The walk of UnpackLimits. -/
import Derived.Test.YtlnppbnbjeakhaaDoorURBlock2
import Derived.Test.YtlnppbnbjeakhaaDoorUUse
namespace Go.Proofs.YtlnppbnbjeakhaaDoor
open Go.RowKit

/-- Objects laid one behind the other. -/
def allocs (w : World) (l : List Obj) : World := l.foldl World.alloc w
theorem allocs_size : ∀ (l : List Obj) (w : World), (allocs w l).heap.size = w.heap.size + l.length
  | [], w => rfl
  | o :: r, w => by
    show (allocs (w.alloc o) r).heap.size = _
    rw [allocs_size r (w.alloc o)]
    simp
    omega
theorem allocs_below : ∀ (l : List Obj) (w : World) (B : Nat), B ≤ w.heap.size → Below B w (allocs w l)
  | [], w, B, _ => Below.refl _ _
  | o :: r, w, B, h => by
    have h1 : Below B w (w.alloc o) := (Below.refl _ _).alloc h o
    exact h1.trans (allocs_below r (w.alloc o) B (by simp; omega))
theorem allocs_at : ∀ (l : List Obj) (w : World) (i : Nat) (h : i < l.length), (allocs w l).heap[w.heap.size + i]? = some l[i]
  | o :: r, w, 0, _ => by
    have hb : Below (w.heap.size + 1) (w.alloc o) (allocs (w.alloc o) r) := allocs_below r (w.alloc o) _ (by simp)
    show (allocs (w.alloc o) r).heap[w.heap.size + 0]? = _
    rw [Nat.add_zero, hb.block w.heap.size (by omega)]
    exact heap_alloc_new w o
  | o :: r, w, i + 1, h => by
    have := allocs_at r (w.alloc o) i (by simpa using h)
    show (allocs (w.alloc o) r).heap[w.heap.size + (i + 1)]? = _
    rw [show w.heap.size + (i + 1) = (w.alloc o).heap.size + i by simp; omega, this]
    rfl
def bads : List (List Nat) := [[130, 32], [32, 32, 32], [63, 226, 31], [64, 5, 97], [64, 1, 97, 127], [0, 129, 255], [255, 255, 255, 255, 255, 255]]
def goods : List (List Nat) := [[32, 63, 225, 31, 130], [32, 32], [63, 225, 31], [64, 1, 97, 0], [0, 1, 97, 1, 98], [16, 129, 31, 0], []]
def oB (l : List Nat) : Obj := .cells (cn .u8 l).toArray 5
def oS (s : Nat) (ls : List (List Nat)) : Obj := .cells ((ls.zipIdx s).map fun x => Value.slice (some ⟨x.2, 0, none⟩) x.1.length x.1.length).toArray 24
/-- All that is laid: the bad ones and their list, the good ones and theirs. -/
def objs (s : Nat) : List Obj := bads.map oB ++ [oS s bads] ++ (goods.map oB ++ [oS (s + 8) goods])
theorem at_block {W : World} {g : Nat} {l : List Nat} (h : W.heap[g]? = some (oB l)) : At .u8 W W.heap.size (some ⟨g, 0, none⟩) l := fun _ => by
  have hg : g < W.heap.size := by
    rcases Nat.lt_or_ge g W.heap.size with h1 | h1
    · exact h1
    · rw [Array.getElem?_eq_none h1] at h; cases h
  refine ⟨g, 0, rfl, hg, fun i hi => ?_⟩
  rw [Nat.zero_add, cell_of_row W g i _ 5 _ h]
  simp [cn, hi]
theorem oS_cell {W : World} {g s : Nat} {ls : List (List Nat)} (h : W.heap[g]? = some (oS s ls)) (i : Nat) (hi : i < ls.length) : W.cell? ⟨g, i, none⟩ = some (.slice (some ⟨s + i, 0, none⟩) ls[i].length ls[i].length) := by
  rw [cell_of_row W g i _ 24 _ h]
  simp [hi]
theorem goods_get (i : Nat) (hi : i < goods.length) : goods.getD i [] = goods[i] := by rw [List.getD, List.getElem?_eq_getElem hi]; rfl
theorem bads_get (i : Nat) (hi : i < bads.length) : bads.getD i [] = bads[i] := by rw [List.getD, List.getElem?_eq_getElem hi]; rfl
set_option maxRecDepth 100000 in
theorem small_all : ∀ j : Fin 7, (goods.getD j.val []).length ≤ 6 ∧ (bads.getD j.val []).length ≤ 6 ∧ (∀ x ∈ goods.getD j.val [], x < 256) ∧ (∀ x ∈ bads.getD j.val [], x < 256) := by decide +kernel
set_option maxRecDepth 100000 in
theorem goods_ok : ∀ j : Fin 7, (udec (goods.getD j.val []) 100000 false 4096 []).err = 0 ∧ (udec (goods.getD j.val []) 100000 false 4096 []).dead = false := by decide +kernel
set_option maxRecDepth 100000 in
theorem bads_no : ∀ j : Fin 7, (udec (bads.getD j.val []) 100000 false (udec (goods.getD j.val []) 100000 false 4096 []).most (udec (goods.getD j.val []) 100000 false 4096 []).tab).err = 2 ∧ (udec (bads.getD j.val []) 100000 false (udec (goods.getD j.val []) 100000 false 4096 []).most (udec (goods.getD j.val []) 100000 false 4096 []).tab).dead = true := by decide +kernel
namespace unpackLimits
set_option maxRecDepth 100000 in
set_option maxHeartbeats 4000000 in
theorem walk_not (i : Int) (w : World) (hR : Rdy w) (ho : i < 0 ∨ 6 < i) : Calls Tryd.prog 7 #[.int .i64 i] w (Yes w) := by
  have HR := Lib.hid fun (w' : World) (hb : Below w.heap.size w w') => hR.below hb
  have HFI := Lib.hid (first_any w hR)
  clear hR
  rcases (show i < 0 ∨ (¬ i < 0 ∧ 6 < i) by omega) with h1 | ⟨h1, h2⟩
  all_goals
    go_enter Tryd.func7, Tryd.ntmps7
    go_wp2_with fail
    with_reducible refine (HFI.out).mono ?_
    rintro e w1 ⟨rfl, hb1⟩
    have HN := Lib.hid (HasU.new (HR.out _ hb1) hb1)
    go_wp2_with fail
    with_reducible refine (HN.out).mono ?_
    rintro e w2 ⟨p, t, rfl, hH, _⟩
    have hb2 := hH.below
    have HF2 := Lib.hid (first_any w2 (HR.out _ hb2))
    clear HN hH
    go_wp2_with fail
    with_reducible refine (HF2.out).mono ?_
    rintro e w3 ⟨rfl, hbn⟩
    have hb3 := hb2.trans (hbn.mono hb2.size)
    go_wp2_with fail
    go_ret
    exact ⟨rfl, hb3⟩
set_option maxRecDepth 100000 in
set_option maxHeartbeats 8000000 in
theorem walk_in (i : Nat) (w : World) (hR : Rdy w) (hi : i ≤ 6) : Calls Tryd.prog 7 #[.int .i64 (i : Int)] w (Yes w) := by
  have HR := Lib.hid fun (w' : World) (hb : Below w.heap.size w w') => hR.below hb
  have HFI := Lib.hid (first_any w hR)
  have i1 : ¬ (i : Int) < 0 := by omega
  have i2 : ¬ (6 : Int) < (i : Int) := by omega
  clear hR
  go_enter Tryd.func7, Tryd.ntmps7
  go_wp2_with fail
  with_reducible refine (HFI.out).mono ?_
  rintro e w1 ⟨rfl, hb1⟩
  have HN := Lib.hid (HasU.new (HR.out _ hb1) hb1)
  clear hb1 HFI
  go_wp2_with fail
  with_reducible refine (HN.out).mono ?_
  rintro e w2 ⟨p, t, rfl, hH, _⟩
  go_upto_region 8 with fail
  change Code.wp Tryd.prog _ _ _ (allocs w2 (objs w2.heap.size))
  obtain ⟨W, hW⟩ : ∃ W, W = allocs w2 (objs w2.heap.size) := ⟨_, rfl⟩
  rw [← hW]
  have hbW : Below w2.heap.size w2 W := by rw [hW]; exact allocs_below _ _ _ (Nat.le_refl _)
  have hsW : W.heap.size = w2.heap.size + 16 := by rw [hW]; exact allocs_size _ _
  have hg15 : W.heap[w2.heap.size + 15]? = some (oS (w2.heap.size + 8) goods) := by rw [hW]; exact allocs_at (objs w2.heap.size) w2 15 (by show 15 < 16; omega)
  have hg7 : W.heap[w2.heap.size + 7]? = some (oS w2.heap.size bads) := by rw [hW]; exact allocs_at (objs w2.heap.size) w2 7 (by show 7 < 16; omega)
  have hgi : W.heap[w2.heap.size + 8 + i]? = some (oB (goods.getD i [])) := by
    rw [hW, Nat.add_assoc]
    have hlt : 8 + i < (objs w2.heap.size).length := by show 8 + i < 16; omega
    rw [allocs_at (objs w2.heap.size) w2 (8 + i) hlt]
    rcases i with _ | _ | _ | _ | _ | _ | _ | i <;> first | rfl | omega
  have hbi : W.heap[w2.heap.size + i]? = some (oB (bads.getD i [])) := by
    have hlt : i < (objs w2.heap.size).length := by show i < 16; omega
    rw [hW, allocs_at (objs w2.heap.size) w2 i hlt]
    rcases i with _ | _ | _ | _ | _ | _ | _ | i <;> first | rfl | omega
  have hgl : i < goods.length := by show i < 7; omega
  have hbl : i < bads.length := by show i < 7; omega
  obtain ⟨s1, s2, s3, s4⟩ := small_all ⟨i, by omega⟩
  obtain ⟨k1, k2⟩ := goods_ok ⟨i, by omega⟩
  obtain ⟨k3, k4⟩ := bads_no ⟨i, by omega⟩
  simp only [] at s1 s2 s3 s4 k1 k2 k3 k4
  have c5 := oS_cell hg15 i hgl
  have c4 := oS_cell hg7 i hbl
  rw [← goods_get i hgl] at c5
  rw [← bads_get i hbl] at c4
  obtain ⟨gd, hgd⟩ : ∃ g, g = goods.getD i [] := ⟨_, rfl⟩
  obtain ⟨bd, hbd⟩ : ∃ b, b = bads.getD i [] := ⟨_, rfl⟩
  rw [← hgd] at c5 hgi s1 s3 k1 k2 k3 k4
  rw [← hbd] at c4 hbi s2 s4 k3 k4
  obtain ⟨n5, hn5⟩ : ∃ n, n = gd.length := ⟨_, rfl⟩
  obtain ⟨n4, hn4⟩ : ∃ n, n = bd.length := ⟨_, rfl⟩
  rw [← hn5] at c5 s1
  rw [← hn4] at c4 s2
  obtain ⟨B5, hB5⟩ : ∃ B, B = w2.heap.size + 8 + i := ⟨_, rfl⟩
  obtain ⟨B4, hB4⟩ : ∃ B, B = w2.heap.size + i := ⟨_, rfl⟩
  rw [← hB5] at c5 hgi
  rw [← hB4] at c4 hbi
  obtain ⟨G5, hG5⟩ : ∃ G, G = w2.heap.size + 1 + 1 + 1 + 1 + 1 + 1 + 1 + 1 + 1 + 1 + 1 + 1 + 1 + 1 + 1 := ⟨_, rfl⟩
  obtain ⟨G4, hG4⟩ : ∃ G, G = w2.heap.size + 1 + 1 + 1 + 1 + 1 + 1 + 1 := ⟨_, rfl⟩
  have c5' : W.cell? ⟨G5, i, none⟩ = some (.slice (some ⟨B5, 0, none⟩) n5 n5) := by rw [hG5]; exact c5
  have c4' : W.cell? ⟨G4, i, none⟩ = some (.slice (some ⟨B4, 0, none⟩) n4 n4) := by rw [hG4]; exact c4
  rw [← hG5, ← hG4]
  have hH3 := hH.more hbW
  have HD := hH3.dec (HR.out _ hH3.below) (some ⟨B5, 0, none⟩) gd n5 n5 100000 (at_block hgi) s3 hn5.symm (fun h => by cases h) (Nat.le_refl _) (by omega) (fun _ a ha => by injection ha with ha; subst ha; exact .inr ⟨by show w2.heap.size ≤ B5; omega, by show B5 < W.heap.size; omega⟩) (by unfold Rng; omega)
  rw [k1, k2] at HD
  obtain ⟨D, hD⟩ : ∃ D, D = udec gd 100000 false 4096 [] := ⟨_, rfl⟩
  rw [← hD] at HD k3 k4
  replace HD := Lib.hid HD
  have HKB : Hid (W.heap[B4]? = some (oB bd) ∧ w2.heap.size ≤ B4 ∧ B4 < W.heap.size) := Lib.hid ⟨hbi, by omega, by omega⟩
  have HKG : Hid (w2.heap.size ≤ G4 ∧ G4 < W.heap.size) := Lib.hid ⟨by omega, by omega⟩
  have HC4 := Lib.hid c4'
  have HS := Lib.hid (show n4 ≤ 6 ∧ (∀ x ∈ bd, x < 256) ∧ bd.length = n4 from ⟨s2, s4, hn4.symm⟩)
  have HK := Lib.hid (show (udec bd 100000 false D.most D.tab).err = 2 ∧ (udec bd 100000 false D.most D.tab).dead = true from ⟨k3, k4⟩)
  have i7 : (i : Int) < 7 := by omega
  clear hW hsW hg15 hg7 hgi hbi hgl hbl s1 s2 s3 s4 k1 k2 k3 k4 c5 c4 c4' hgd hbd hn5 hn4 hB5 hB4 hG5 hG4 hD hH3 hbW hH HN
  go_wp2_with fail
  with_reducible refine (HD.out).mono ?_
  rintro e w4 ⟨A4, c4, rfl, hH4, ho⟩
  have h4B : w4.heap[B4]? = some (oB bd) := (ho.kept B4 (.inr HKB.out.2)).trans HKB.out.1
  have h4G : w4.cell? ⟨G4, i, none⟩ = some (.slice (some ⟨B4, 0, none⟩) n4 n4) := (World.cell?_of_block (w := W) (a := ⟨G4, i, none⟩) (ho.kept G4 (.inr HKG.out))).trans HC4.out
  have HDE := Lib.hid (hH4.isDead (HR.out _ hH4.below))
  clear HD c5' ho
  simp only []
  go_wp2_with fail
  with_reducible refine (HDE.out).mono ?_
  rintro e w5 ⟨rfl, hH5, hb5⟩
  have hl4 : B4 < w4.heap.size := by
    rcases Nat.lt_or_ge B4 w4.heap.size with h | h
    · exact h
    · rw [Array.getElem?_eq_none h] at h4B; cases h4B
  have h5B := (hb5.block B4 hl4).trans h4B
  have h5G : w5.cell? ⟨G4, i, none⟩ = some (.slice (some ⟨B4, 0, none⟩) n4 n4) := (hb5.cell (p := ⟨G4, i, none⟩) (World.block_lt_of_cell? _ _ h4G)).trans h4G
  have HD := hH5.dec (HR.out _ hH5.below) (some ⟨B4, 0, none⟩) bd n4 n4 100000 (at_block h5B) HS.out.2.1 HS.out.2.2 (fun h => by cases h) (Nat.le_refl _) (by have := HS.out.1; omega) (fun _ a ha => by injection ha with ha; subst ha; exact .inl (.inr HKB.out.2)) (by unfold Rng; omega)
  rw [HK.out.1, HK.out.2] at HD
  replace HD := Lib.hid HD
  clear HDE h4B h4G hl4 h5B hb5 hH4 hH5
  go_wp2_with fail
  with_reducible refine (HD.out).mono ?_
  rintro e w6 ⟨A6, c6, rfl, hH6, _⟩
  have HF2 := Lib.hid (first_any w6 (HR.out _ hH6.below))
  clear HD h5G
  simp only []
  go_wp2_with fail
  with_reducible refine (HF2.out).mono ?_
  rintro e w7 ⟨rfl, hb7⟩
  have hH7 := hH6.quiet hb7
  have HDE := Lib.hid (hH7.isDead (HR.out _ hH7.below))
  clear HF2 hb7 hH6
  go_wp2_with fail
  with_reducible refine (HDE.out).mono ?_
  rintro e w8 ⟨rfl, hH8, _⟩
  have hZ := hH8.below
  clear hH7 hH8 HDE
  go_wp2
  go_ret
  exact ⟨rfl, hZ⟩
theorem walk (i : Int) (w : World) (hR : Rdy w) : Calls Tryd.prog 7 #[.int .i64 i] w (Yes w) := by
  by_cases h : 0 ≤ i ∧ i ≤ 6
  · obtain ⟨k, rfl⟩ : ∃ k : Nat, i = (k : Int) := ⟨i.toNat, by omega⟩
    exact walk_in k w hR (by omega)
  · exact walk_not i w hR (by omega)
end unpackLimits
end Go.Proofs.YtlnppbnbjeakhaaDoor
