/- The walk of UnpackStatic. -/
import Derived.Test.YtlnppbnbjeakhaaDoorURBlock2
import Derived.Test.YtlnppbnbjeakhaaDoorUUse
import Derived.Test.YtlnppbnbjeakhaaDoorSFace
import Derived.Deep.RegionHeld3
namespace Go.Proofs.YtlnppbnbjeakhaaDoor
open Go.RowKit

theorem get_idx (i : Nat) (hi : i ≤ 126) : Pn.getI [128 + i] 7 = (i, 1, 0) := by
  rw [Pn.getI, if_neg (by omega), show (7 : Int).toNat = 7 from rfl, Pn.getN, show (128 + i) % 2 ^ 7 = i by omega, if_pos (by show i < 127; omega)]
theorem ufield_nil (i : Nat) : ufield [] (i : Int) = if 1 ≤ i ∧ i ≤ 61 then ((stg (i : Int)).1, true) else (noFld, false) := by
  rw [ufield, stg]
  by_cases h : 1 ≤ i ∧ i ≤ 61
  · rw [if_pos (show 1 ≤ (i : Int) ∧ (i : Int) ≤ 61 by omega), if_pos h]
    rfl
  · rw [if_neg (show ¬ (1 ≤ (i : Int) ∧ (i : Int) ≤ 61) by omega), if_neg h, if_neg (by simp), getL, if_neg (by simp; omega)]
    rfl
theorem uone_idx (i : Nat) (hi : i ≤ 126) : uone [128 + i] 0 4096 [] = ⟨(ufield [] (i : Int)).1, 1, false, (ufield [] (i : Int)).2, 4096, []⟩ := by
  have hb : ubits (128 + i) = 7 := by rw [ubits, if_pos (by omega)]
  rw [uone, show [128 + i].getD 0 0 = 128 + i from rfl, hb, show [128 + i].drop 0 = [128 + i] from rfl, show ((7 : Nat) : Int) = 7 from rfl, get_idx i hi]
  simp only [uoneG]
  rw [if_neg (by omega), if_pos (by omega)]
theorem dec_idx (i : Nat) (hi : i ≤ 126) : udec [128 + i] 100000 false 4096 [] = if 1 ≤ i ∧ i ≤ 61 then ⟨[(stg (i : Int)).1], 0, false, 4096, []⟩ else ⟨[], 2, true, 4096, []⟩ := by
  rw [udec, if_neg (by simp), show [128 + i].length + 1 = 2 from rfl, ugo, if_pos (by simp), uone_idx i hi, ufield_nil]
  by_cases h : 1 ≤ i ∧ i ≤ 61
  · rw [if_pos h, if_pos h]
    simp only []
    rw [if_neg (by simp), if_neg (by simp), ugo, if_neg (by simp), if_neg]
    · rfl
    · have h1 := ufield_size [] (i : Int) (by simp [tot])
      rw [ufield_nil, if_pos h] at h1
      simp only [] at h1
      have : tot ([] ++ [(stg (i : Int)).1]) = fsize (stg (i : Int)).1 := by simp [tot]
      rw [this]
      omega
  · rw [if_neg h, if_neg h]
    rfl
theorem stg_nat (i : Nat) : (stg (i : Int)).2 = decide (1 ≤ i ∧ i ≤ 61) := by
  rw [stg]
  by_cases h : 1 ≤ i ∧ i ≤ 61
  · rw [if_pos (show 1 ≤ (i : Int) ∧ (i : Int) ≤ 61 by omega), decide_eq_true h]
  · rw [if_neg (show ¬ (1 ≤ (i : Int) ∧ (i : Int) ≤ 61) by omega), decide_eq_false h]
namespace unpackStatic
set_option maxRecDepth 100000 in
set_option maxHeartbeats 4000000 in
theorem walk_not (i : Int) (w : World) (hR : Rdy w) (ho : i < 0 ∨ 126 < i) : Calls Tryd.prog 5 #[.int .i64 i] w (Yes w) := by
  have HR := Lib.hid fun (w' : World) (hb : Below w.heap.size w w') => hR.below hb
  have HFI := Lib.hid (first_any w hR)
  clear hR
  rcases (show i < 0 ∨ (¬ i < 0 ∧ 126 < i) by omega) with h1 | ⟨h1, h2⟩
  all_goals
    go_enter Tryd.func5, Tryd.ntmps5
    go_wp2_with fail
    with_reducible refine (HFI.out).mono ?_
    rintro e w1 ⟨rfl, hb1⟩
    have HN := Lib.hid (HasU.new (HR.out _ hb1) hb1)
    go_wp2_with fail
    with_reducible refine (HN.out).mono ?_
    rintro e w2 ⟨p, t, rfl, hH, _⟩
    have hb2 := hH.below
    have HF2 := Lib.hid (first_any w2 (HR.out _ hb2))
    clear HN hH
    go_wp2_with fail
    with_reducible refine (HF2.out).mono ?_
    rintro e w3 ⟨rfl, hbn⟩
    have hb3 := hb2.trans (hbn.mono hb2.size)
    go_wp2_with fail
    go_ret
    exact ⟨rfl, hb3⟩
set_option maxRecDepth 100000 in
set_option maxHeartbeats 8000000 in
theorem walk_in (i : Nat) (w : World) (hR : Rdy w) (hi : i ≤ 126) : Calls Tryd.prog 5 #[.int .i64 (i : Int)] w (Yes w) := by
  have HR := Lib.hid fun (w' : World) (hb : Below w.heap.size w w') => hR.below hb
  have HFI := Lib.hid (first_any w hR)
  have i1 : ¬ (i : Int) < 0 := by omega
  have i2 : ¬ (126 : Int) < (i : Int) := by omega
  have iw : IntKind.u8.wrap (i : Int) = (i : Int) := by rw [IntKind.wrap_u8']; omega
  obtain ⟨z, hz⟩ : ∃ z, z = 128 + i := ⟨_, rfl⟩
  have ez : bits BinOp.or IntKind.u8 128 (i : Int) = (z : Int) := by
    have := u8_or_nat 128 i (by omega) (by omega)
    rw [nat_join 7 128 i (by omega) (by omega)] at this
    rw [hz]
    exact this
  have HZ := Lib.hid hz
  clear hR hz
  go_enter Tryd.func5, Tryd.ntmps5
  go_wp2_with fail
  with_reducible refine (HFI.out).mono ?_
  rintro e w1 ⟨rfl, hb1⟩
  have HN := Lib.hid (HasU.new (HR.out _ hb1) hb1)
  clear hb1 HFI
  go_wp2_with fail
  with_reducible refine (HN.out).mono ?_
  rintro e w2 ⟨p, t, rfl, hH, _⟩
  have hba : Below w2.heap.size w2 (w2.alloc (.cells #[.int .u8 (z : Int)] 5)) := (Below.refl _ _).alloc (Nat.le_refl _) _
  have hH2 := hH.more hba
  have HD := hH2.dec (HR.out _ hH2.below) (some ⟨w2.heap.size, 0, none⟩) [z] 1 1 100000 (At.new w2 [z] 5 (0, 0)) (fun x hx => by simp at hx; have := HZ.out; omega) rfl (fun h => by cases h) (Nat.le_refl _) (by omega) (fun _ a ha => by injection ha with ha; subst ha; exact .inr ⟨Nat.le_refl _, by simp⟩) (by unfold Rng; omega)
  rw [HZ.out, dec_idx i hi, ← HZ.out] at HD
  clear hH hba hH2 HN
  by_cases hin : 1 ≤ i ∧ i ≤ 61
  · rw [if_pos hin] at HD
    have hsg := stg_nat i
    rw [decide_eq_true hin] at hsg
    have HSG := Lib.hid fun (W : World) (hb : Below w.heap.size w W) => sget_f (i : Int) W (HR.out W hb) (by unfold Rng; omega)
    obtain ⟨G, hG⟩ : ∃ G, G = stg (i : Int) := ⟨_, rfl⟩
    rw [← hG] at HD HSG hsg
    obtain ⟨⟨X, Y, Z⟩, B⟩ := G
    simp only [] at hsg HD
    subst hsg
    replace HD := Lib.hid HD
    clear hG
    go_wp2_with fail
    with_reducible refine (HD.out).mono ?_
    rintro e w3 ⟨A3, c3, rfl, hH3, ho⟩
    obtain ⟨bk, o, rfl, hbk, hc⟩ := ho.at' (by simp)
    obtain ⟨y0, y1, y2⟩ := hc 0 (by simp)
    simp only [List.getElem_cons_zero, Nat.zero_mul, Nat.add_zero] at y0 y1 y2
    clear HD ho hc
    simp only [List.length_cons, List.length_nil]
    go_wp2_with fail
    with_reducible refine (HSG.out w3 hH3.below).mono ?_
    rintro e w4 ⟨rfl, hb4⟩
    simp only []
    obtain ⟨g, hg⟩ : ∃ g, g = w4.heap.size := ⟨_, rfl⟩
    obtain ⟨w5, hw5⟩ : ∃ w5, w5 = w4.alloc (.cells #[.string X, .string Y, .bool Z] 44) := ⟨_, rfl⟩
    have hb5 : Below w3.heap.size w3 w5 := by rw [hw5]; exact hb4.alloc hb4.size _
    have hH5 := hH3.quiet hb5
    have hh5 : w5.heap[g]? = some (.cells #[.string X, .string Y, .bool Z] 44) := by rw [hw5, hg]; exact heap_alloc_new w4 _
    have hgl : g < w5.heap.size := by rw [hw5, hg]; simp
    have HY0 := Lib.hid fun (W : World) (hb : Below w5.heap.size w5 W) => ((hb5.trans (hb.mono hb5.size)).cell (p := ⟨bk, o, none⟩) hbk).trans y0
    have HY1 := Lib.hid fun (W : World) (hb : Below w5.heap.size w5 W) => ((hb5.trans (hb.mono hb5.size)).cell (p := ⟨bk, o + 1, none⟩) hbk).trans y1
    have HG0 := Lib.hid fun (W : World) (hb : Below w5.heap.size w5 W) => (hb.cell (p := ⟨g, 0, none⟩) hgl).trans (cell_of_row _ g 0 _ 44 _ hh5)
    have HG1 := Lib.hid fun (W : World) (hb : Below w5.heap.size w5 W) => (hb.cell (p := ⟨g, 1, none⟩) hgl).trans (cell_of_row _ g 1 _ 44 _ hh5)
    have e0 := HY0.out w5 (Below.refl _ _)
    have e1 := HY1.out w5 (Below.refl _ _)
    have e2 := HG0.out w5 (Below.refl _ _)
    have e3 := HG1.out w5 (Below.refl _ _)
    have hbd : Below w5.heap.size w5 w5.drew := (Below.refl _ _).drew
    have hHd := hH5.quiet hbd
    have HF2 := Lib.hid (first_any w5.drew (HR.out _ hHd.below))
    have hs1 : (X.toList == X.toList) = true := by simp
    have hs2 : (Y.toList == Y.toList) = true := by simp
    have HGG := Lib.hid hg
    have HW5 := Lib.hid hw5
    clear hb4 hb5 hh5 hgl y0 y1 y2 hH3 hbk hg hw5
    go_upto_region 11 with fail
    rw [← HGG.out, ← HW5.out]
    go_region_held3 (fun w' => w'.cell? ⟨bk, o, none⟩ = some (.string X) ∧ w'.cell? ⟨bk, o + 1, none⟩ = some (.string Y) ∧ w'.cell? ⟨g, 0, none⟩ = some (.string X) ∧ w'.cell? ⟨g, 1, none⟩ = some (.string Y))
      (first
        | exact ⟨e0, e1, e2, e3⟩
        | exact ⟨HY0.out _ hb7, HY1.out _ hb7, HG0.out _ hb7, HG1.out _ hb7⟩
        | exact ⟨HY0.out _ hb6, HY1.out _ hb6, HG0.out _ hb6, HG1.out _ hb6⟩)
      (first
        | ((with_reducible refine (HF2.out).mono ?_); rintro e w6 ⟨rfl, hb6'⟩; have hb6 := hbd.trans (hb6'.mono hbd.size); have hH6 := hHd.quiet hb6'; have HDE := Lib.hid (hH6.isDead (HR.out _ hH6.below)))
        | ((with_reducible refine (HDE.out).mono ?_); rintro e w7 ⟨rfl, hH7, hb7'⟩; have hb7 := hb6.trans (hb7'.mono hb6.size)))
    have hZ := hH7.below
    clear e0 e1 e2 e3 hbd hHd hb6 hb6' hH6 hb7 hb7' hH7 HF2 HDE
    go_wp2
    go_ret
    exact ⟨rfl, hZ⟩
  · rw [if_neg hin] at HD
    have hsg := stg_nat i
    rw [decide_eq_false hin] at hsg
    have HSG := Lib.hid fun (W : World) (hb : Below w.heap.size w W) => sget_f (i : Int) W (HR.out W hb) (by unfold Rng; omega)
    obtain ⟨G, hG⟩ : ∃ G, G = stg (i : Int) := ⟨_, rfl⟩
    rw [← hG] at HSG hsg
    obtain ⟨⟨X, Y, Z⟩, B⟩ := G
    simp only [] at hsg HD
    subst hsg
    replace HD := Lib.hid HD
    clear hG
    go_wp2_with fail
    with_reducible refine (HD.out).mono ?_
    rintro e w3 ⟨A3, c3, rfl, hH3, ho⟩
    clear HD ho
    simp only [List.length_nil]
    go_wp2_with fail
    with_reducible refine (HSG.out w3 hH3.below).mono ?_
    rintro e w4 ⟨rfl, hb4⟩
    simp only []
    obtain ⟨w5, hw5⟩ : ∃ w5, w5 = w4.alloc (.cells #[.string X, .string Y, .bool Z] 44) := ⟨_, rfl⟩
    have hb5 : Below w3.heap.size w3 w5 := by rw [hw5]; exact hb4.alloc hb4.size _
    have hH5 := hH3.quiet hb5
    have hba : Below w5.heap.size w5 (w5.alloc (.cells #[.int .u8 130] 5)) := (Below.refl _ _).alloc (Nat.le_refl _) _
    have hH6 := hH5.more hba
    have HD := hH6.dec (HR.out _ hH6.below) (some ⟨w5.heap.size, 0, none⟩) [130] 1 1 100000 (At.new w5 [130] 5 (0, 0)) (fun x hx => by simp at hx; omega) rfl (fun h => by cases h) (Nat.le_refl _) (by omega) (fun _ a ha => by injection ha with ha; subst ha; exact .inr ⟨Nat.le_refl _, by simp⟩) (by unfold Rng; omega)
    have hsz5 : w5.heap.size = w4.heap.size + 1 := by rw [hw5]; simp
    rw [show udec [130] 100000 true 4096 [] = ⟨[], 5, true, 4096, []⟩ from rfl, hsz5, hw5] at HD
    clear hsz5
    replace HD := Lib.hid HD
    clear hb4 hb5 hH3 hba hH6 hH5 hw5
    go_wp2_with fail
    with_reducible refine (HD.out).mono ?_
    rintro e w6 ⟨A6, c6, rfl, hH7, _⟩
    have HF2 := Lib.hid (first_any w6 (HR.out _ hH7.below))
    clear HD
    simp only [List.length_nil]
    go_wp2_with fail
    with_reducible refine (HF2.out).mono ?_
    rintro e w7 ⟨rfl, hb7⟩
    have hH8 := hH7.quiet hb7
    have HDE := Lib.hid (hH8.isDead (HR.out _ hH8.below))
    clear HF2 hb7 hH7
    go_wp2_with fail
    with_reducible refine (HDE.out).mono ?_
    rintro e w8 ⟨rfl, hH9, _⟩
    have hZ := hH9.below
    clear hH8 hH9 HDE
    go_wp2
    go_ret
    exact ⟨rfl, hZ⟩
theorem walk (i : Int) (w : World) (hR : Rdy w) : Calls Tryd.prog 5 #[.int .i64 i] w (Yes w) := by
  by_cases h : 0 ≤ i ∧ i ≤ 126
  · obtain ⟨k, rfl⟩ : ∃ k : Nat, i = (k : Int) := ⟨i.toNat, by omega⟩
    exact walk_in k w hR (by omega)
  · exact walk_not i w hR (by omega)
end unpackStatic
end Go.Proofs.YtlnppbnbjeakhaaDoor
