/- Contract of the reference's padded. -/
import Derived.Test.YtelbldhnlmggiaaPtCut
import Derived.Test.YtelbldhnlmggiaaFVal
import Derived.Test.YtelbldhnlmggiaaLHelp
import Derived.Test.YtelbldhnlmggiaaLCut
import Derived.Deep.RegionHeld3
import Derived.Deep.DeepCutAuto
namespace Go.Proofs.Ytelbldhnlmggiaa
open Go.RowKit Fr

set_option maxRecDepth 100000 in
set_option maxHeartbeats 4000000 in
theorem rpadded0 (F S : Int) (l : List Nat) (A : Option Addr) (n c : Nat) (w : World) (hA : At .u8 w w.heap.size A l) (hb : ∀ x ∈ l, x < 256) (hl : l.length = n) (hc : A = none → c = 0) (hcl : n ≤ c) (hn : n ≤ 100000) :
    Calls Try.prog 22 #[.agg #[.int .i64 0, .int .i64 F, .int .i64 S, .slice A n c]] w (PtPost w (padded (⟨0, F, S, l⟩ : Frm))) := by
  have HA := Lib.hid hA
  have HL := Lib.hid hl
  have HB := Lib.hid hb
  have HC := Lib.hid hc
  clear hA hl hb hc
  obtain ⟨T0, hbl, hsz⟩ := three_of w (⟨0, F, S, l⟩ : Frm) A n c
  obtain ⟨g, hg⟩ : ∃ g, g = w.heap.size := ⟨_, rfl⟩
  obtain ⟨w1, hw1⟩ : ∃ w1, w1 = w3of w (⟨0, F, S, l⟩ : Frm) A n c := ⟨_, rfl⟩
  rw [← hw1, ← hg] at T0
  rw [← hw1] at hbl hsz
  have hw1' : w1 = ((w.alloc (.cells #[.int .i64 0, .int .i64 F, .int .i64 S, .slice A n c] 34)).alloc (.cells #[.slice none 0 0, .int .i64 0, .int .i64 0, .int .i64 0, .int .i64 0, .slice none 0 0, .bool false, .bool false, .bool false] 28)).alloc (.cells #[.bool false, .bool false, .int .i64 0] 30) := hw1
  obtain ⟨x0, x1, x2, x3⟩ := three_frm T0
  simp only [] at x0 x1 x2 x3
  have HT := Lib.hid T0
  have HW := Lib.hid hw1'
  have HG := Lib.hid hg
  have HBL := Lib.hid hbl
  have HSZ := Lib.hid hsz
  have HSZ' : Hid (w1.heap.size = g + 1 + 1 + 1) := Lib.hid (by rw [hsz, hg])
  -- what is wrong
  have HNO : Hid (∀ W code conn, Below w1.heap.size w1 W → padded (⟨0, F, S, l⟩ : Frm) = wrong code conn → PtPost w (padded (⟨0, F, S, l⟩ : Frm)) (.returned (.tuple #[.agg #[.slice none 0 0, .int .i64 0, .int .i64 0, .int .i64 0, .int .i64 0, .slice none 0 0, .bool false, .bool false, .bool false], .agg #[.bool true, .bool conn, .int .i64 (code : Int)]])) ((((((((((((W.setCell ⟨g + 1, 0, none⟩ (.slice none 0 0)).setCell ⟨g + 1, 1, none⟩ (.int .i64 0)).setCell ⟨g + 1, 2, none⟩ (.int .i64 0)).setCell ⟨g + 1, 3, none⟩ (.int .i64 0)).setCell ⟨g + 1, 4, none⟩ (.int .i64 0)).setCell ⟨g + 1, 5, none⟩ (.slice none 0 0)).setCell ⟨g + 1, 6, none⟩ (.bool false)).setCell ⟨g + 1, 7, none⟩ (.bool false)).setCell ⟨g + 1, 8, none⟩ (.bool false)).setCell ⟨g + 1 + 1, 0, none⟩ (.bool true)).setCell ⟨g + 1 + 1, 1, none⟩ (.bool conn)).setCell ⟨g + 1 + 1, 2, none⟩ (.int .i64 (code : Int)))) := Lib.hid (fun W code conn hb he => by
    have h1 : w.heap.size ≤ g + 1 := by omega
    have h2 : w.heap.size ≤ g + 1 + 1 := by omega
    have hb2 : Below w.heap.size w W := hbl.trans (hb.mono hbl.size)
    rw [he]
    refine pt_bare rfl rfl ?_
    repeat' (first | (with_reducible exact hb2) | (with_reducible refine Below.setCell ?_ ?_ _) | (with_reducible exact h1) | (with_reducible exact h2)))
  clear T0 hw1' hw1 hg hbl hsz
  by_cases hs : S = 0
  · have k1 : (S == 0) = true := by rw [hs]; rfl
    have HNE := Lib.hid (fun W hb => HNO.out W 1 true hb (by rw [padded, if_pos hs]))
    clear HNO hs
    go_enter Try.func22, Try.ntmps22
    go_upto_region 1 with fail
    rw [← HW.out, ← HG.out]
    go_wp2_with fail
    with_reducible refine (rfault_any 1 true w1).mono ?_
    rintro e w2 ⟨rfl, hb2⟩
    have T2 := HT.out.up hb2
    obtain ⟨p0, p1, p2, p3, p4, p5, p6, p7, p8⟩ := three_prt T2
    obtain ⟨t0, t1, t2⟩ := three_flt T2
    obtain ⟨f0, f1, f2, f3, f4, f5, f6, f7, f8, u0, u1, u2⟩ := three_froz T2
    have HN := HNE.out w2 hb2
    rw [show ((1 : Nat) : Int) = 1 from rfl] at HN
    replace HN := Lib.hid HN
    clear HNE T2 x0 x1 x2 x3
    go_wp2
    refine bodyPost_ret (v := .tuple #[.agg #[.slice none 0 0, .int .i64 0, .int .i64 0, .int .i64 0, .int .i64 0, .slice none 0 0, .bool false, .bool false, .bool false], .agg #[.bool true, .bool true, .int .i64 1]]) (by simp [results, Try.results22, go_sem, p0, p1, p2, p3, p4, p5, p6, p7, p8, t0, t1, t2]) rfl HN.out
  have k1 : (S == 0) = false := by
    rw [beq_eq_false_iff_ne]
    exact hs
  have HS := Lib.hid hs
  clear hs
  have e8 := and_is F 3 (by omega)
  rw [show ((2 ^ 3 : Nat) : Int) = 8 from rfl] at e8
  cases h3 : bit F 3 with
  | true =>
    rw [h3] at e8
    have H3 := Lib.hid h3
    clear h3
    by_cases h0 : n = 0
    · have k0 : ((n : Int) == 0) = true := by rw [h0]; rfl
      have hnil : l = [] := List.eq_nil_of_length_eq_zero (by have := HL.out; omega)
      have HNE := Lib.hid (fun W hb => HNO.out W 6 true hb (by rw [padded, if_neg HS.out, if_pos H3.out, hnil]))
      clear HNO h0 hnil
      go_enter Try.func22, Try.ntmps22
      go_upto_region 1 with fail
      rw [← HW.out, ← HG.out]
      go_wp2_with fail
      with_reducible refine (rfault_any 6 true w1).mono ?_
      rintro e w2 ⟨rfl, hb2⟩
      have T2 := HT.out.up hb2
      obtain ⟨p0, p1, p2, p3, p4, p5, p6, p7, p8⟩ := three_prt T2
      obtain ⟨t0, t1, t2⟩ := three_flt T2
      obtain ⟨f0, f1, f2, f3, f4, f5, f6, f7, f8, u0, u1, u2⟩ := three_froz T2
      have HN := HNE.out w2 hb2
      rw [show ((6 : Nat) : Int) = 6 from rfl] at HN
      replace HN := Lib.hid HN
      clear HNE T2 x0 x1 x2 x3
      go_wp2
      refine bodyPost_ret (v := .tuple #[.agg #[.slice none 0 0, .int .i64 0, .int .i64 0, .int .i64 0, .int .i64 0, .slice none 0 0, .bool false, .bool false, .bool false], .agg #[.bool true, .bool true, .int .i64 6]]) (by simp [results, Try.results22, go_sem, p0, p1, p2, p3, p4, p5, p6, p7, p8, t0, t1, t2]) rfl HN.out
    · have k0 : ((n : Int) == 0) = false := by
        rw [beq_eq_false_iff_ne]
        omega
      obtain ⟨b, o, rfl, hbB, hcs⟩ := HA.out.pos (by have := HL.out; omega)
      obtain ⟨x, r, hxr⟩ : ∃ x r, l = x :: r := by
        cases l with
        | nil => exact absurd HL.out (by simp; omega)
        | cons x r => exact ⟨x, r, rfl⟩
      have hx2 : x < 256 := HB.out x (by rw [hxr]; exact List.mem_cons_self)
      have HY : Hid (∀ W, Below w1.heap.size w1 W → W.cell? ⟨b, o, none⟩ = some (.int .u8 (x : Int))) := Lib.hid (fun W hb => by
        have hb2 := HBL.out.trans (hb.mono HBL.out.size)
        have := (hb2.cell (p := ⟨b, o + 0, none⟩) hbB).trans (hcs 0 (by rw [hxr]; simp))
        simpa [hxr] using this)
      have y0 := HY.out w1 (Below.refl _ _)
      obtain ⟨m, hm⟩ : ∃ m, m = n - 1 := ⟨_, rfl⟩
      obtain ⟨k, hk⟩ : ∃ k, k = c - 1 := ⟨_, rfl⟩
      obtain ⟨A1, hA1⟩ : ∃ A1, A1 = cutAt (some ⟨b, o, none⟩) c 1 := ⟨_, rfl⟩
      have hrl : r.length = m := by have := HL.out; rw [hxr, List.length_cons] at this; omega
      have hs1 := fun (W : World) => slice_l (some ⟨b, o, none⟩) n c 1 m W (by omega) hm.symm
      rw [← hA1, ← hk, show ((1 : Nat) : Int) = 1 from rfl] at hs1
      have hAT1 : ∀ W, Below w1.heap.size w1 W → At .u8 W W.heap.size A1 r := fun W hb => by
        have hb2 := HBL.out.trans (hb.mono HBL.out.size)
        have := (At.up HA.out hb2).drop (q := 1) (by rw [HL.out]; exact hcl)
        rw [hA1]
        simpa [hxr] using this
      have hmk : m ≤ k := by omega
      have hm5 : m ≤ 100000 := by omega
      have hc1 : A1 = none → k = 0 := fun h => by rw [hA1] at h; have := cutAt_none HC.out h; omega
      have ewx : IntKind.i64.wrap (x : Int) = (x : Int) := i64_ofNat x (by omega)
      have i0 : (0 : Int) < (n : Int) := by omega
      have i1n : (1 : Int) ≤ (n : Int) := by omega
      have hpad : padded (⟨0, F, S, l⟩ : Frm) = padIn ⟨0, F, S, l⟩ x 1 r := by
        rw [padded, if_neg HS.out, if_pos H3.out, hxr]
        simp only []
        rw [prior, if_neg (fun h => by cases h.1)]
      have e32 := and_is F 5 (by omega)
      rw [show ((2 ^ 5 : Nat) : Int) = 32 from rfl] at e32
      by_cases hg8 : m < x
      · have kx : ((m : Int) < (x : Int)) := by omega
        have HNE := Lib.hid (fun W hb => HNO.out W 1 true hb (by rw [hpad, padIn, if_pos (by omega)]))
        clear HNO hm hk hA1 hpad hxr hcs hrl h0 hAT1 hc1 hmk hg8
        go_enter Try.func22, Try.ntmps22
        go_upto_region 1 with fail
        rw [← HW.out, ← HG.out]
        go_wp2_with fail
        with_reducible refine (rfault_any 1 true w1).mono ?_
        rintro e w2 ⟨rfl, hb2⟩
        have T2 := HT.out.up hb2
        obtain ⟨p0, p1, p2, p3, p4, p5, p6, p7, p8⟩ := three_prt T2
        obtain ⟨t0, t1, t2⟩ := three_flt T2
        obtain ⟨f0, f1, f2, f3, f4, f5, f6, f7, f8, u0, u1, u2⟩ := three_froz T2
        have HN := HNE.out w2 hb2
        rw [show ((1 : Nat) : Int) = 1 from rfl] at HN
        replace HN := Lib.hid HN
        clear HNE T2 x0 x1 x2 x3
        go_wp2
        refine bodyPost_ret (v := .tuple #[.agg #[.slice none 0 0, .int .i64 0, .int .i64 0, .int .i64 0, .int .i64 0, .slice none 0 0, .bool false, .bool false, .bool false], .agg #[.bool true, .bool true, .int .i64 1]]) (by simp [results, Try.results22, go_sem, p0, p1, p2, p3, p4, p5, p6, p7, p8, t0, t1, t2]) rfl HN.out
      · have e1 := and_is F 0 (by omega)
        rw [show ((2 ^ 0 : Nat) : Int) = 1 from rfl] at e1
        obtain ⟨q, hq⟩ : ∃ q, q = m - x := ⟨_, rfl⟩
        obtain ⟨P, hP⟩ : ∃ P, P = x + 1 := ⟨_, rfl⟩
        have hp : padded (⟨0, F, S, l⟩ : Frm) = (⟨r.take q, P, 0, 0, 0, [], bit F 0, false, false⟩, noFlt) := by
          rw [hpad, padIn, if_neg (by omega), hrl, ← hq, ← hP]
          rfl
        obtain ⟨X, hX⟩ : ∃ X, X = r.take q := ⟨_, rfl⟩
        obtain ⟨A3, hA3⟩ : ∃ A3, A3 = cutAt A1 k 0 := ⟨_, rfl⟩
        have hsl := fun (W : World) => slice_h A1 m k q W (by omega)
        have HCP : Hid (∀ W, Below w1.heap.size w1 W → Calls Try.prog 25 #[.slice A3 q k] W (RowPost W.heap.size W X)) := Lib.hid (fun W hb => by
          rw [hA3, hX]
          exact copy_any _ (r.take q) q k W ((hAT1 W hb).take (by omega)) (by rw [List.length_take]; omega) (fun h => by have := cutAt_none hc1 h; omega) (by omega))
        rw [← hX] at hp
        have HP := Lib.hid hp
        clear hp
        rw [← hA3] at hsl
        have kn : ¬ ((m : Int) < (x : Int)) := by omega
        have ewr : IntKind.i64.wrap ((m : Int) - (x : Int)) = (q : Int) := by rw [show (m : Int) - (x : Int) = (q : Int) by omega]; exact i64_ofNat q (by omega)
        have ewp : IntKind.i64.wrap ((x : Int) + 1) = (P : Int) := by rw [show (x : Int) + 1 = (P : Int) by omega]; exact i64_ofNat P (by omega)
        have i0n : (0 : Int) ≤ (q : Int) := by omega
        have icn : (q : Int) ≤ (k : Int) := by omega
        have hd : Below w1.heap.size w1 w1.drew := (Below.refl _ _).drew
        clear HNO hm hk hA1 hpad hxr hcs hrl h0 hAT1 hc1 hX hA3 hq hP hg8
        go_enter Try.func22, Try.ntmps22
        go_upto_region 1 with fail
        rw [← HW.out, ← HG.out]
        go_wp2_with fail
        go_cut [] (fun wx => PtCut w1 g X P (bit F 0) false wx)
        case first =>
          refine wp_region_held_drew (S := fun w' => w'.cell? ⟨g, 0, none⟩ = some (.int .i64 0) ∧ w'.cell? ⟨g, 1, none⟩ = some (.int .i64 F)) (by kernel_rfl) ⟨x0, x1⟩ (fun hHeld => ?_)
          refine wpAnyH_take (i := 0) (v := ?_) rfl (by kernel_rfl) (by kernel_rfl) (by kernel_rfl) (fun _ _ _ h => h) (Or.inl ⟨by rfl, ?_⟩) hHeld ?_
          rotate_left
          · intro w hSw
            try dsimp only at hSw
            go_simp
            try with_reducible rfl
          change wpAnyH _ _ _ _ _ _ _ (Act.put _ (some 51) _) _
          simp only [Act.put, List.setIfInBounds_toArray, List.set_cons_zero, List.set_cons_succ]
          refine wpAnyH_take (i := 1) (v := ?_) rfl (by kernel_rfl) (by kernel_rfl) (by kernel_rfl) (fun _ _ _ h => h) (Or.inl ⟨by rfl, ?_⟩) hHeld ?_
          rotate_left
          · intro w hSw
            try dsimp only at hSw
            go_simp
            try with_reducible rfl
          change wpAnyH _ _ _ _ _ _ _ (Act.put _ (some 52) _) _
          simp only [Act.put, List.setIfInBounds_toArray, List.set_cons_zero, List.set_cons_succ]
          refine wpAnyH_take (i := 2) (v := ?_) rfl (by kernel_rfl) (by kernel_rfl) (by kernel_rfl) (fun _ _ _ h => h) (Or.inl ⟨by rfl, ?_⟩) hHeld ?_
          rotate_left
          · intro w hSw
            try dsimp only at hSw
            go_simp
            try with_reducible rfl
          change wpAnyH _ _ _ _ _ _ _ (Act.put _ (some 53) _) _
          simp only [Act.put, List.setIfInBounds_toArray, List.set_cons_zero, List.set_cons_succ]
          refine wpAnyH_take (i := 3) (v := ?_) rfl (by kernel_rfl) (by kernel_rfl) (by kernel_rfl) (fun _ _ _ h => h) (Or.inl ⟨by rfl, ?_⟩) hHeld ?_
          rotate_left
          · intro w hSw
            try dsimp only at hSw
            go_simp
            try with_reducible rfl
          change wpAnyH _ _ _ _ _ _ _ (Act.put _ (some 54) _) _
          simp only [Act.put, List.setIfInBounds_toArray, List.set_cons_zero, List.set_cons_succ]
          refine wpAnyH_take (i := 4) (v := ?_) rfl (by kernel_rfl) (by kernel_rfl) (by kernel_rfl) (fun _ _ _ h => h) (Or.inl ⟨by rfl, ?_⟩) hHeld ?_
          rotate_left
          · intro w hSw
            try dsimp only at hSw
            go_simp
            try with_reducible rfl
          change wpAnyH _ _ _ _ _ _ _ (Act.put _ (some 55) _) _
          simp only [Act.put, List.setIfInBounds_toArray, List.set_cons_zero, List.set_cons_succ]
          refine wpAnyH_take (i := 5) (v := ?_) rfl (by kernel_rfl) (by kernel_rfl) (by kernel_rfl) (fun _ _ _ h => h) (Or.inl ⟨by rfl, ?_⟩) hHeld ?_
          rotate_left
          · intro w hSw
            try dsimp only at hSw
            go_simp
            try with_reducible rfl
          change wpAnyH _ _ _ _ _ _ _ (Act.put _ (some 56) _) _
          simp only [Act.put, List.setIfInBounds_toArray, List.set_cons_zero, List.set_cons_succ]
          refine wpAnyH_take (i := 7) (v := ?_) rfl (by kernel_rfl) (by kernel_rfl) (by kernel_rfl) (fun _ _ _ h => h) (Or.inl ⟨by rfl, ?_⟩) hHeld ?_
          rotate_left
          · intro w hSw
            try dsimp only at hSw
            go_simp
            try with_reducible rfl
          change wpAnyH _ _ _ _ _ _ _ (Act.put _ (some 58) _) _
          simp only [Act.put, List.setIfInBounds_toArray, List.set_cons_zero, List.set_cons_succ]
          refine wpAnyH_take (i := 8) (v := ?_) rfl (by kernel_rfl) (by kernel_rfl) (by kernel_rfl) (fun _ _ _ h => h) (Or.inl ⟨by rfl, ?_⟩) hHeld ?_
          rotate_left
          · intro w hSw
            try dsimp only at hSw
            go_simp
            try with_reducible rfl
          change wpAnyH _ _ _ _ _ _ _ (Act.put _ (some 59) _) _
          simp only [Act.put, List.setIfInBounds_toArray, List.set_cons_zero, List.set_cons_succ]
          refine wpAnyH_take (i := 9) (v := ?_) rfl (by kernel_rfl) (by kernel_rfl) (by kernel_rfl) (fun _ _ _ h => h) (Or.inl ⟨by rfl, ?_⟩) hHeld ?_
          rotate_left
          · intro w hSw
            try dsimp only at hSw
            go_simp
            try with_reducible rfl
          change wpAnyH _ _ _ _ _ _ _ (Act.put _ (some 60) _) _
          simp only [Act.put, List.setIfInBounds_toArray, List.set_cons_zero, List.set_cons_succ]
          refine wpAnyH_take (i := 10) (v := ?_) rfl (by kernel_rfl) (by kernel_rfl) (by kernel_rfl) (fun _ _ _ h => h) (Or.inl ⟨by rfl, ?_⟩) hHeld ?_
          rotate_left
          · intro w hSw
            try dsimp only at hSw
            go_simp
            try with_reducible rfl
          change wpAnyH _ _ _ _ _ _ _ (Act.put _ (some 61) _) _
          simp only [Act.put, List.setIfInBounds_toArray, List.set_cons_zero, List.set_cons_succ]
          refine wpAnyH_take (i := 11) (v := ?_) rfl (by kernel_rfl) (by kernel_rfl) (by kernel_rfl) (fun _ _ _ h => h) (Or.inl ⟨by rfl, ?_⟩) hHeld ?_
          rotate_left
          · intro w hSw
            try dsimp only at hSw
            go_simp
            try with_reducible rfl
          change wpAnyH _ _ _ _ _ _ _ (Act.put _ (some 62) _) _
          simp only [Act.put, List.setIfInBounds_toArray, List.set_cons_zero, List.set_cons_succ]
          refine wpAnyH_take (i := 12) (v := ?_) rfl (by kernel_rfl) (by kernel_rfl) (by kernel_rfl) (fun _ _ _ h => h) (Or.inl ⟨by rfl, ?_⟩) hHeld ?_
          rotate_left
          · intro w hSw
            try dsimp only at hSw
            go_simp
            try with_reducible rfl
          change wpAnyH _ _ _ _ _ _ _ (Act.put _ (some 63) _) _
          simp only [Act.put, List.setIfInBounds_toArray, List.set_cons_zero, List.set_cons_succ]
          refine wpAnyH_take (i := 13) (v := ?_) rfl (by kernel_rfl) (by kernel_rfl) (by kernel_rfl) (fun _ _ _ h => h) (Or.inl ⟨by rfl, ?_⟩) hHeld ?_
          rotate_left
          · intro w hSw
            try dsimp only at hSw
            go_simp
            try with_reducible rfl
          change wpAnyH _ _ _ _ _ _ _ (Act.put _ (some 64) _) _
          simp only [Act.put, List.setIfInBounds_toArray, List.set_cons_zero, List.set_cons_succ]
          refine wpAnyH_take (i := 14) (v := ?_) rfl (by kernel_rfl) (by kernel_rfl) (by kernel_rfl) (fun _ _ _ h => h) (Or.inl ⟨by rfl, ?_⟩) hHeld ?_
          rotate_left
          · intro w hSw
            try dsimp only at hSw
            go_simp
            try with_reducible rfl
          change wpAnyH _ _ _ _ _ _ _ (Act.put _ (some 65) _) _
          simp only [Act.put, List.setIfInBounds_toArray, List.set_cons_zero, List.set_cons_succ]
          refine wpAnyH_take (i := 15) (v := ?_) rfl (by kernel_rfl) (by kernel_rfl) (by kernel_rfl) (fun _ _ _ h => h) (Or.inl ⟨by rfl, ?_⟩) hHeld ?_
          rotate_left
          · intro w hSw
            try dsimp only at hSw
            go_simp
            try with_reducible rfl
          change wpAnyH _ _ _ _ _ _ _ (Act.put _ (some 66) _) _
          simp only [Act.put, List.setIfInBounds_toArray, List.set_cons_zero, List.set_cons_succ]
          refine wpAnyH_take (i := 16) (v := .bool false) rfl (by kernel_rfl) (by kernel_rfl) (by kernel_rfl) (fun _ _ _ h => h) (Or.inl ⟨by rfl, ?_⟩) hHeld ?_
          · intro w hSw
            try dsimp only at hSw
            go_simp
            try simp
            try omega
          change wpAnyH _ _ _ _ _ _ _ (Act.put _ (some 67) _) _
          simp only [Act.put, List.setIfInBounds_toArray, List.set_cons_zero, List.set_cons_succ]
          refine wpAnyH_take (i := 24) (v := ?_) rfl (by kernel_rfl) (by kernel_rfl) (by kernel_rfl) (fun _ _ _ h => h) (Or.inl ⟨by rfl, ?_⟩) hHeld ?_
          rotate_left
          · intro w hSw
            try dsimp only at hSw
            go_simp
            try with_reducible rfl
          change wpAnyH _ _ _ _ _ _ _ (Act.put _ (some 75) _) _
          simp only [Act.put, List.setIfInBounds_toArray, List.set_cons_zero, List.set_cons_succ]
          refine wpAnyH_ready (rs := [6]) (by kernel_rfl) (by simp) ?_
          refine AllReadyH.cons rfl (fun K hK => ?_) AllReadyH.nil
          go_simp
          with_reducible refine (HCP.out _ hd).mono ?_
          rintro e w3 ⟨v3, rfl, hr3⟩
          obtain ⟨Ax, cx, hvx⟩ := own_shape hr3.1
          subst hvx
          have hb3 : Below w1.heap.size w1 w3 := hd.trans (hr3.2.mono hd.size)
          have T3 := HT.out.up hb3
          refine hK.out _ _ ⟨(three_frm T3).1, (three_frm T3).2.1⟩ (fun hHeld => ?_)
          clear hK K
          refine wpAnyH_take (i := 17) (v := ?_) rfl (by kernel_rfl) (by kernel_rfl) (by kernel_rfl) (fun _ _ _ h => h) (Or.inl ⟨by rfl, ?_⟩) hHeld ?_
          rotate_left
          · intro w hSw
            try dsimp only at hSw
            go_simp
            try with_reducible rfl
          change wpAnyH _ _ _ _ _ _ _ (Act.put _ (some 68) _) _
          simp only [Act.put, List.setIfInBounds_toArray, List.set_cons_zero, List.set_cons_succ]
          refine wpAnyH_take (i := 18) (v := undef) rfl (by kernel_rfl) (by kernel_rfl) (by kernel_rfl) (fun _ _ _ h => h) (Or.inr ⟨by rfl, rfl⟩) hHeld ?_
          change wpAnyH _ _ _ _ _ _ _ (Act.put _ (some 69) _) _
          simp only [Act.put, List.setIfInBounds_toArray, List.set_cons_zero, List.set_cons_succ]
          refine wpAnyH_take (i := 19) (v := undef) rfl (by kernel_rfl) (by kernel_rfl) (by kernel_rfl) (fun _ _ _ h => h) (Or.inr ⟨by rfl, rfl⟩) hHeld ?_
          change wpAnyH _ _ _ _ _ _ _ (Act.put _ (some 70) _) _
          simp only [Act.put, List.setIfInBounds_toArray, List.set_cons_zero, List.set_cons_succ]
          refine wpAnyH_take (i := 20) (v := undef) rfl (by kernel_rfl) (by kernel_rfl) (by kernel_rfl) (fun _ _ _ h => h) (Or.inr ⟨by rfl, rfl⟩) hHeld ?_
          change wpAnyH _ _ _ _ _ _ _ (Act.put _ (some 71) _) _
          simp only [Act.put, List.setIfInBounds_toArray, List.set_cons_zero, List.set_cons_succ]
          refine wpAnyH_take (i := 21) (v := undef) rfl (by kernel_rfl) (by kernel_rfl) (by kernel_rfl) (fun _ _ _ h => h) (Or.inr ⟨by rfl, rfl⟩) hHeld ?_
          change wpAnyH _ _ _ _ _ _ _ (Act.put _ (some 72) _) _
          simp only [Act.put, List.setIfInBounds_toArray, List.set_cons_zero, List.set_cons_succ]
          refine wpAnyH_take (i := 22) (v := ?_) rfl (by kernel_rfl) (by kernel_rfl) (by kernel_rfl) (fun _ _ _ h => h) (Or.inl ⟨by rfl, ?_⟩) hHeld ?_
          rotate_left
          · intro w hSw
            try dsimp only at hSw
            go_simp
            try with_reducible rfl
          change wpAnyH _ _ _ _ _ _ _ (Act.put _ (some 73) _) _
          simp only [Act.put, List.setIfInBounds_toArray, List.set_cons_zero, List.set_cons_succ]
          refine wpAnyH_take (i := 23) (v := ?_) rfl (by kernel_rfl) (by kernel_rfl) (by kernel_rfl) (fun _ _ _ h => h) (Or.inl ⟨by rfl, ?_⟩) hHeld ?_
          rotate_left
          · intro w hSw
            try dsimp only at hSw
            go_simp
            try with_reducible rfl
          change wpAnyH _ _ _ _ _ _ _ (Act.put _ (some 74) _) _
          simp only [Act.put, List.setIfInBounds_toArray, List.set_cons_zero, List.set_cons_succ]
          obtain ⟨p0, p1, p2, p3, p4, p5, p6, p7, p8⟩ := three_prt T3
          obtain ⟨t0, t1, t2⟩ := three_flt T3
          obtain ⟨f0, f1, f2, f3, f4, f5, f6, f7, f8, u0, u1, u2⟩ := three_froz T3
          have T3' := Lib.hid T3
          clear T3
          refine wpAnyH_ready (rs := [25]) (by kernel_rfl) (by simp) ?_
          refine AllReadyH.cons rfl (fun K hK => ?_) AllReadyH.nil
          go_simp
          refine hK.out _ _ (three_9 T3'.out _ _ _ _ _ _ _ _ _) (fun hHeld => ?_)
          clear hK K
          refine wpAnyH_ready (rs := [26]) (by kernel_rfl) (by simp) ?_
          refine AllReadyH.cons rfl (fun K hK => ?_) AllReadyH.nil
          go_simp
          refine hK.out _ _ (three_12 T3'.out _ _ _ _ _ _ _ _ _ _ _ _) (fun hHeld => ?_)
          clear hK K
          refine wpAnyH_done (by kernel_rfl) ?_ _
          go_wp2
          go_meet
          case rel => exact ptcut_mk T3'.out HSZ'.out hb3 (own_more hr3.1 hd.size)
        case rest =>
          obtain ⟨Ax, cx, h1, h2, hro, hbx⟩ := hcut
          have HN := Lib.hid (PtCut.post (pad := P) (E := bit F 0) (Q := false) HG.out HSZ'.out HBL.out hro hbx)
          have p0 := cell_of_row _ _ 0 _ 28 _ h1
          have p1 := cell_of_row _ _ 1 _ 28 _ h1
          have p2 := cell_of_row _ _ 2 _ 28 _ h1
          have p3 := cell_of_row _ _ 3 _ 28 _ h1
          have p4 := cell_of_row _ _ 4 _ 28 _ h1
          have p5 := cell_of_row _ _ 5 _ 28 _ h1
          have p6 := cell_of_row _ _ 6 _ 28 _ h1
          have p7 := cell_of_row _ _ 7 _ 28 _ h1
          have p8 := cell_of_row _ _ 8 _ 28 _ h1
          have t0 := cell_of_row _ _ 0 _ 30 _ h2
          have t1 := cell_of_row _ _ 1 _ 30 _ h2
          have t2 := cell_of_row _ _ 2 _ 30 _ h2
          rw [← HP.out] at HN
          clear HP x0 x1 x2 x3 h1 h2 hro hbx
          go_wp2
          refine bodyPost_ret (v := .tuple #[.agg #[.slice Ax X.length cx, .int .i64 (P : Int), .int .i64 0, .int .i64 0, .int .i64 0, .slice none 0 0, .bool (bit F 0), .bool false, .bool false], .agg #[.bool false, .bool false, .int .i64 0]]) (by simp [results, Try.results22, go_sem, p0, p1, p2, p3, p4, p5, p6, p7, p8, t0, t1, t2]) rfl HN.out
  | false =>
    rw [h3] at e8
    have H3 := Lib.hid h3
    clear h3
    · have e1 := and_is F 0 (by omega)
      rw [show ((2 ^ 0 : Nat) : Int) = 1 from rfl] at e1
      have hp : padded (⟨0, F, S, l⟩ : Frm) = (⟨l.take n, 0, 0, 0, 0, [], bit F 0, false, false⟩, noFlt) := by
        rw [padded, if_neg HS.out, if_neg (by rw [H3.out]; decide), prior, if_neg (fun h => by cases h.1), padIn, if_neg (Nat.not_lt_zero _), HL.out]
        rfl
      obtain ⟨X, hX⟩ : ∃ X, X = l.take n := ⟨_, rfl⟩
      obtain ⟨A3, hA3⟩ : ∃ A3, A3 = cutAt A c 0 := ⟨_, rfl⟩
      have hsl := fun (W : World) => slice_h A n c n W hcl
      have HCP : Hid (∀ W, Below w1.heap.size w1 W → Calls Try.prog 25 #[.slice A3 n c] W (RowPost W.heap.size W X)) := Lib.hid (fun W hb => by
        have hb2 := HBL.out.trans (hb.mono HBL.out.size)
        rw [hA3, hX]
        exact copy_any _ (l.take n) n c W ((At.up HA.out hb2).take (by rw [HL.out]; exact hcl)) (by rw [List.length_take, HL.out]; omega) (fun h => by have := cutAt_none HC.out h; omega) hn)
      rw [← hX] at hp
      have HP := Lib.hid hp
      clear hp
      rw [← hA3] at hsl
      have kn : ¬ (0 : Int) > (n : Int) := by omega
      have ewr : IntKind.i64.wrap ((n : Int) - 0) = (n : Int) := by rw [Int.sub_zero]; exact i64_ofNat n (by omega)
      have i0n : (0 : Int) ≤ (n : Int) := by omega
      have icn : (n : Int) ≤ (c : Int) := by omega
      have ewn : IntKind.i64.wrap (n : Int) = (n : Int) := i64_ofNat n (by omega)
      have hd : Below w1.heap.size w1 w1.drew := (Below.refl _ _).drew
      clear hX hA3 HNO
      go_enter Try.func22, Try.ntmps22
      go_upto_region 1 with fail
      rw [← HW.out, ← HG.out]
      go_wp2_with fail
      go_cut [] (fun wx => PtCut w1 g X 0 (bit F 0) false wx)
      case first =>
        refine wp_region_held_drew (S := fun w' => w'.cell? ⟨g, 0, none⟩ = some (.int .i64 0) ∧ w'.cell? ⟨g, 1, none⟩ = some (.int .i64 F)) (by kernel_rfl) ⟨x0, x1⟩ (fun hHeld => ?_)
        refine wpAnyH_take (i := 0) (v := ?_) rfl (by kernel_rfl) (by kernel_rfl) (by kernel_rfl) (fun _ _ _ h => h) (Or.inl ⟨by rfl, ?_⟩) hHeld ?_
        rotate_left
        · intro w hSw
          try dsimp only at hSw
          go_simp
          try with_reducible rfl
        change wpAnyH _ _ _ _ _ _ _ (Act.put _ (some 51) _) _
        simp only [Act.put, List.setIfInBounds_toArray, List.set_cons_zero, List.set_cons_succ]
        refine wpAnyH_take (i := 1) (v := ?_) rfl (by kernel_rfl) (by kernel_rfl) (by kernel_rfl) (fun _ _ _ h => h) (Or.inl ⟨by rfl, ?_⟩) hHeld ?_
        rotate_left
        · intro w hSw
          try dsimp only at hSw
          go_simp
          try with_reducible rfl
        change wpAnyH _ _ _ _ _ _ _ (Act.put _ (some 52) _) _
        simp only [Act.put, List.setIfInBounds_toArray, List.set_cons_zero, List.set_cons_succ]
        refine wpAnyH_take (i := 2) (v := ?_) rfl (by kernel_rfl) (by kernel_rfl) (by kernel_rfl) (fun _ _ _ h => h) (Or.inl ⟨by rfl, ?_⟩) hHeld ?_
        rotate_left
        · intro w hSw
          try dsimp only at hSw
          go_simp
          try with_reducible rfl
        change wpAnyH _ _ _ _ _ _ _ (Act.put _ (some 53) _) _
        simp only [Act.put, List.setIfInBounds_toArray, List.set_cons_zero, List.set_cons_succ]
        refine wpAnyH_take (i := 3) (v := ?_) rfl (by kernel_rfl) (by kernel_rfl) (by kernel_rfl) (fun _ _ _ h => h) (Or.inl ⟨by rfl, ?_⟩) hHeld ?_
        rotate_left
        · intro w hSw
          try dsimp only at hSw
          go_simp
          try with_reducible rfl
        change wpAnyH _ _ _ _ _ _ _ (Act.put _ (some 54) _) _
        simp only [Act.put, List.setIfInBounds_toArray, List.set_cons_zero, List.set_cons_succ]
        refine wpAnyH_take (i := 4) (v := ?_) rfl (by kernel_rfl) (by kernel_rfl) (by kernel_rfl) (fun _ _ _ h => h) (Or.inl ⟨by rfl, ?_⟩) hHeld ?_
        rotate_left
        · intro w hSw
          try dsimp only at hSw
          go_simp
          try with_reducible rfl
        change wpAnyH _ _ _ _ _ _ _ (Act.put _ (some 55) _) _
        simp only [Act.put, List.setIfInBounds_toArray, List.set_cons_zero, List.set_cons_succ]
        refine wpAnyH_take (i := 5) (v := ?_) rfl (by kernel_rfl) (by kernel_rfl) (by kernel_rfl) (fun _ _ _ h => h) (Or.inl ⟨by rfl, ?_⟩) hHeld ?_
        rotate_left
        · intro w hSw
          try dsimp only at hSw
          go_simp
          try with_reducible rfl
        change wpAnyH _ _ _ _ _ _ _ (Act.put _ (some 56) _) _
        simp only [Act.put, List.setIfInBounds_toArray, List.set_cons_zero, List.set_cons_succ]
        refine wpAnyH_take (i := 7) (v := ?_) rfl (by kernel_rfl) (by kernel_rfl) (by kernel_rfl) (fun _ _ _ h => h) (Or.inl ⟨by rfl, ?_⟩) hHeld ?_
        rotate_left
        · intro w hSw
          try dsimp only at hSw
          go_simp
          try with_reducible rfl
        change wpAnyH _ _ _ _ _ _ _ (Act.put _ (some 58) _) _
        simp only [Act.put, List.setIfInBounds_toArray, List.set_cons_zero, List.set_cons_succ]
        refine wpAnyH_take (i := 8) (v := ?_) rfl (by kernel_rfl) (by kernel_rfl) (by kernel_rfl) (fun _ _ _ h => h) (Or.inl ⟨by rfl, ?_⟩) hHeld ?_
        rotate_left
        · intro w hSw
          try dsimp only at hSw
          go_simp
          try with_reducible rfl
        change wpAnyH _ _ _ _ _ _ _ (Act.put _ (some 59) _) _
        simp only [Act.put, List.setIfInBounds_toArray, List.set_cons_zero, List.set_cons_succ]
        refine wpAnyH_take (i := 9) (v := ?_) rfl (by kernel_rfl) (by kernel_rfl) (by kernel_rfl) (fun _ _ _ h => h) (Or.inl ⟨by rfl, ?_⟩) hHeld ?_
        rotate_left
        · intro w hSw
          try dsimp only at hSw
          go_simp
          try with_reducible rfl
        change wpAnyH _ _ _ _ _ _ _ (Act.put _ (some 60) _) _
        simp only [Act.put, List.setIfInBounds_toArray, List.set_cons_zero, List.set_cons_succ]
        refine wpAnyH_take (i := 10) (v := ?_) rfl (by kernel_rfl) (by kernel_rfl) (by kernel_rfl) (fun _ _ _ h => h) (Or.inl ⟨by rfl, ?_⟩) hHeld ?_
        rotate_left
        · intro w hSw
          try dsimp only at hSw
          go_simp
          try with_reducible rfl
        change wpAnyH _ _ _ _ _ _ _ (Act.put _ (some 61) _) _
        simp only [Act.put, List.setIfInBounds_toArray, List.set_cons_zero, List.set_cons_succ]
        refine wpAnyH_take (i := 11) (v := ?_) rfl (by kernel_rfl) (by kernel_rfl) (by kernel_rfl) (fun _ _ _ h => h) (Or.inl ⟨by rfl, ?_⟩) hHeld ?_
        rotate_left
        · intro w hSw
          try dsimp only at hSw
          go_simp
          try with_reducible rfl
        change wpAnyH _ _ _ _ _ _ _ (Act.put _ (some 62) _) _
        simp only [Act.put, List.setIfInBounds_toArray, List.set_cons_zero, List.set_cons_succ]
        refine wpAnyH_take (i := 12) (v := ?_) rfl (by kernel_rfl) (by kernel_rfl) (by kernel_rfl) (fun _ _ _ h => h) (Or.inl ⟨by rfl, ?_⟩) hHeld ?_
        rotate_left
        · intro w hSw
          try dsimp only at hSw
          go_simp
          try with_reducible rfl
        change wpAnyH _ _ _ _ _ _ _ (Act.put _ (some 63) _) _
        simp only [Act.put, List.setIfInBounds_toArray, List.set_cons_zero, List.set_cons_succ]
        refine wpAnyH_take (i := 13) (v := ?_) rfl (by kernel_rfl) (by kernel_rfl) (by kernel_rfl) (fun _ _ _ h => h) (Or.inl ⟨by rfl, ?_⟩) hHeld ?_
        rotate_left
        · intro w hSw
          try dsimp only at hSw
          go_simp
          try with_reducible rfl
        change wpAnyH _ _ _ _ _ _ _ (Act.put _ (some 64) _) _
        simp only [Act.put, List.setIfInBounds_toArray, List.set_cons_zero, List.set_cons_succ]
        refine wpAnyH_take (i := 14) (v := ?_) rfl (by kernel_rfl) (by kernel_rfl) (by kernel_rfl) (fun _ _ _ h => h) (Or.inl ⟨by rfl, ?_⟩) hHeld ?_
        rotate_left
        · intro w hSw
          try dsimp only at hSw
          go_simp
          try with_reducible rfl
        change wpAnyH _ _ _ _ _ _ _ (Act.put _ (some 65) _) _
        simp only [Act.put, List.setIfInBounds_toArray, List.set_cons_zero, List.set_cons_succ]
        refine wpAnyH_take (i := 15) (v := ?_) rfl (by kernel_rfl) (by kernel_rfl) (by kernel_rfl) (fun _ _ _ h => h) (Or.inl ⟨by rfl, ?_⟩) hHeld ?_
        rotate_left
        · intro w hSw
          try dsimp only at hSw
          go_simp
          try with_reducible rfl
        change wpAnyH _ _ _ _ _ _ _ (Act.put _ (some 66) _) _
        simp only [Act.put, List.setIfInBounds_toArray, List.set_cons_zero, List.set_cons_succ]
        refine wpAnyH_take (i := 16) (v := .bool false) rfl (by kernel_rfl) (by kernel_rfl) (by kernel_rfl) (fun _ _ _ h => h) (Or.inl ⟨by rfl, ?_⟩) hHeld ?_
        · intro w hSw
          try dsimp only at hSw
          go_simp
          try simp
          try omega
        change wpAnyH _ _ _ _ _ _ _ (Act.put _ (some 67) _) _
        simp only [Act.put, List.setIfInBounds_toArray, List.set_cons_zero, List.set_cons_succ]
        refine wpAnyH_take (i := 24) (v := ?_) rfl (by kernel_rfl) (by kernel_rfl) (by kernel_rfl) (fun _ _ _ h => h) (Or.inl ⟨by rfl, ?_⟩) hHeld ?_
        rotate_left
        · intro w hSw
          try dsimp only at hSw
          go_simp
          try with_reducible rfl
        change wpAnyH _ _ _ _ _ _ _ (Act.put _ (some 75) _) _
        simp only [Act.put, List.setIfInBounds_toArray, List.set_cons_zero, List.set_cons_succ]
        refine wpAnyH_ready (rs := [6]) (by kernel_rfl) (by simp) ?_
        refine AllReadyH.cons rfl (fun K hK => ?_) AllReadyH.nil
        go_simp
        with_reducible refine (HCP.out _ hd).mono ?_
        rintro e w3 ⟨v3, rfl, hr3⟩
        obtain ⟨Ax, cx, hvx⟩ := own_shape hr3.1
        subst hvx
        have hb3 : Below w1.heap.size w1 w3 := hd.trans (hr3.2.mono hd.size)
        have T3 := HT.out.up hb3
        refine hK.out _ _ ⟨(three_frm T3).1, (three_frm T3).2.1⟩ (fun hHeld => ?_)
        clear hK K
        refine wpAnyH_take (i := 17) (v := ?_) rfl (by kernel_rfl) (by kernel_rfl) (by kernel_rfl) (fun _ _ _ h => h) (Or.inl ⟨by rfl, ?_⟩) hHeld ?_
        rotate_left
        · intro w hSw
          try dsimp only at hSw
          go_simp
          try with_reducible rfl
        change wpAnyH _ _ _ _ _ _ _ (Act.put _ (some 68) _) _
        simp only [Act.put, List.setIfInBounds_toArray, List.set_cons_zero, List.set_cons_succ]
        refine wpAnyH_take (i := 18) (v := undef) rfl (by kernel_rfl) (by kernel_rfl) (by kernel_rfl) (fun _ _ _ h => h) (Or.inr ⟨by rfl, rfl⟩) hHeld ?_
        change wpAnyH _ _ _ _ _ _ _ (Act.put _ (some 69) _) _
        simp only [Act.put, List.setIfInBounds_toArray, List.set_cons_zero, List.set_cons_succ]
        refine wpAnyH_take (i := 19) (v := undef) rfl (by kernel_rfl) (by kernel_rfl) (by kernel_rfl) (fun _ _ _ h => h) (Or.inr ⟨by rfl, rfl⟩) hHeld ?_
        change wpAnyH _ _ _ _ _ _ _ (Act.put _ (some 70) _) _
        simp only [Act.put, List.setIfInBounds_toArray, List.set_cons_zero, List.set_cons_succ]
        refine wpAnyH_take (i := 20) (v := undef) rfl (by kernel_rfl) (by kernel_rfl) (by kernel_rfl) (fun _ _ _ h => h) (Or.inr ⟨by rfl, rfl⟩) hHeld ?_
        change wpAnyH _ _ _ _ _ _ _ (Act.put _ (some 71) _) _
        simp only [Act.put, List.setIfInBounds_toArray, List.set_cons_zero, List.set_cons_succ]
        refine wpAnyH_take (i := 21) (v := undef) rfl (by kernel_rfl) (by kernel_rfl) (by kernel_rfl) (fun _ _ _ h => h) (Or.inr ⟨by rfl, rfl⟩) hHeld ?_
        change wpAnyH _ _ _ _ _ _ _ (Act.put _ (some 72) _) _
        simp only [Act.put, List.setIfInBounds_toArray, List.set_cons_zero, List.set_cons_succ]
        refine wpAnyH_take (i := 22) (v := ?_) rfl (by kernel_rfl) (by kernel_rfl) (by kernel_rfl) (fun _ _ _ h => h) (Or.inl ⟨by rfl, ?_⟩) hHeld ?_
        rotate_left
        · intro w hSw
          try dsimp only at hSw
          go_simp
          try with_reducible rfl
        change wpAnyH _ _ _ _ _ _ _ (Act.put _ (some 73) _) _
        simp only [Act.put, List.setIfInBounds_toArray, List.set_cons_zero, List.set_cons_succ]
        refine wpAnyH_take (i := 23) (v := ?_) rfl (by kernel_rfl) (by kernel_rfl) (by kernel_rfl) (fun _ _ _ h => h) (Or.inl ⟨by rfl, ?_⟩) hHeld ?_
        rotate_left
        · intro w hSw
          try dsimp only at hSw
          go_simp
          try with_reducible rfl
        change wpAnyH _ _ _ _ _ _ _ (Act.put _ (some 74) _) _
        simp only [Act.put, List.setIfInBounds_toArray, List.set_cons_zero, List.set_cons_succ]
        obtain ⟨p0, p1, p2, p3, p4, p5, p6, p7, p8⟩ := three_prt T3
        obtain ⟨t0, t1, t2⟩ := three_flt T3
        obtain ⟨f0, f1, f2, f3, f4, f5, f6, f7, f8, u0, u1, u2⟩ := three_froz T3
        have T3' := Lib.hid T3
        clear T3
        refine wpAnyH_ready (rs := [25]) (by kernel_rfl) (by simp) ?_
        refine AllReadyH.cons rfl (fun K hK => ?_) AllReadyH.nil
        go_simp
        refine hK.out _ _ (three_9 T3'.out _ _ _ _ _ _ _ _ _) (fun hHeld => ?_)
        clear hK K
        refine wpAnyH_ready (rs := [26]) (by kernel_rfl) (by simp) ?_
        refine AllReadyH.cons rfl (fun K hK => ?_) AllReadyH.nil
        go_simp
        refine hK.out _ _ (three_12 T3'.out _ _ _ _ _ _ _ _ _ _ _ _) (fun hHeld => ?_)
        clear hK K
        refine wpAnyH_done (by kernel_rfl) ?_ _
        go_wp2
        rw [show IntKind.i64.wrap 0 = ((0 : Nat) : Int) from rfl]
        go_meet
        case rel => exact ptcut_mk T3'.out HSZ'.out hb3 (own_more hr3.1 hd.size)
      case rest =>
        obtain ⟨Ax, cx, h1, h2, hro, hbx⟩ := hcut
        have HN := Lib.hid (PtCut.post (pad := 0) (E := bit F 0) (Q := false) HG.out HSZ'.out HBL.out hro hbx)
        have p0 := cell_of_row _ _ 0 _ 28 _ h1
        have p1 := cell_of_row _ _ 1 _ 28 _ h1
        have p2 := cell_of_row _ _ 2 _ 28 _ h1
        have p3 := cell_of_row _ _ 3 _ 28 _ h1
        have p4 := cell_of_row _ _ 4 _ 28 _ h1
        have p5 := cell_of_row _ _ 5 _ 28 _ h1
        have p6 := cell_of_row _ _ 6 _ 28 _ h1
        have p7 := cell_of_row _ _ 7 _ 28 _ h1
        have p8 := cell_of_row _ _ 8 _ 28 _ h1
        have t0 := cell_of_row _ _ 0 _ 30 _ h2
        have t1 := cell_of_row _ _ 1 _ 30 _ h2
        have t2 := cell_of_row _ _ 2 _ 30 _ h2
        rw [← HP.out] at HN
        clear HP x0 x1 x2 x3 h1 h2 hro hbx
        go_wp2
        refine bodyPost_ret (v := .tuple #[.agg #[.slice Ax X.length cx, .int .i64 ((0 : Nat) : Int), .int .i64 0, .int .i64 0, .int .i64 0, .slice none 0 0, .bool (bit F 0), .bool false, .bool false], .agg #[.bool false, .bool false, .int .i64 0]]) (by simp [results, Try.results22, go_sem, p0, p1, p2, p3, p4, p5, p6, p7, p8, t0, t1, t2]) rfl HN.out
end Go.Proofs.Ytelbldhnlmggiaa
/- Contract of the reference's padded. -/
namespace Go.Proofs.Ytelbldhnlmggiaa
open Go.RowKit Fr

set_option maxRecDepth 100000 in
set_option maxHeartbeats 8000000 in
theorem rpadded1 (F S : Int) (l : List Nat) (A : Option Addr) (n c : Nat) (w : World) (hA : At .u8 w w.heap.size A l) (hb : ∀ x ∈ l, x < 256) (hl : l.length = n) (hc : A = none → c = 0) (hcl : n ≤ c) (hn : n ≤ 100000) :
    Calls Try.prog 22 #[.agg #[.int .i64 1, .int .i64 F, .int .i64 S, .slice A n c]] w (PtPost w (padded (⟨1, F, S, l⟩ : Frm))) := by
  have HA := Lib.hid hA
  have HL := Lib.hid hl
  have HB := Lib.hid hb
  have HC := Lib.hid hc
  clear hA hl hb hc
  obtain ⟨T0, hbl, hsz⟩ := three_of w (⟨1, F, S, l⟩ : Frm) A n c
  obtain ⟨g, hg⟩ : ∃ g, g = w.heap.size := ⟨_, rfl⟩
  obtain ⟨w1, hw1⟩ : ∃ w1, w1 = w3of w (⟨1, F, S, l⟩ : Frm) A n c := ⟨_, rfl⟩
  rw [← hw1, ← hg] at T0
  rw [← hw1] at hbl hsz
  have hw1' : w1 = ((w.alloc (.cells #[.int .i64 1, .int .i64 F, .int .i64 S, .slice A n c] 34)).alloc (.cells #[.slice none 0 0, .int .i64 0, .int .i64 0, .int .i64 0, .int .i64 0, .slice none 0 0, .bool false, .bool false, .bool false] 28)).alloc (.cells #[.bool false, .bool false, .int .i64 0] 30) := hw1
  obtain ⟨x0, x1, x2, x3⟩ := three_frm T0
  simp only [] at x0 x1 x2 x3
  have HT := Lib.hid T0
  have HW := Lib.hid hw1'
  have HG := Lib.hid hg
  have HBL := Lib.hid hbl
  have HSZ := Lib.hid hsz
  have HSZ' : Hid (w1.heap.size = g + 1 + 1 + 1) := Lib.hid (by rw [hsz, hg])
  -- what is wrong
  have HNO : Hid (∀ W code conn, Below w1.heap.size w1 W → padded (⟨1, F, S, l⟩ : Frm) = wrong code conn → PtPost w (padded (⟨1, F, S, l⟩ : Frm)) (.returned (.tuple #[.agg #[.slice none 0 0, .int .i64 0, .int .i64 0, .int .i64 0, .int .i64 0, .slice none 0 0, .bool false, .bool false, .bool false], .agg #[.bool true, .bool conn, .int .i64 (code : Int)]])) ((((((((((((W.setCell ⟨g + 1, 0, none⟩ (.slice none 0 0)).setCell ⟨g + 1, 1, none⟩ (.int .i64 0)).setCell ⟨g + 1, 2, none⟩ (.int .i64 0)).setCell ⟨g + 1, 3, none⟩ (.int .i64 0)).setCell ⟨g + 1, 4, none⟩ (.int .i64 0)).setCell ⟨g + 1, 5, none⟩ (.slice none 0 0)).setCell ⟨g + 1, 6, none⟩ (.bool false)).setCell ⟨g + 1, 7, none⟩ (.bool false)).setCell ⟨g + 1, 8, none⟩ (.bool false)).setCell ⟨g + 1 + 1, 0, none⟩ (.bool true)).setCell ⟨g + 1 + 1, 1, none⟩ (.bool conn)).setCell ⟨g + 1 + 1, 2, none⟩ (.int .i64 (code : Int)))) := Lib.hid (fun W code conn hb he => by
    have h1 : w.heap.size ≤ g + 1 := by omega
    have h2 : w.heap.size ≤ g + 1 + 1 := by omega
    have hb2 : Below w.heap.size w W := hbl.trans (hb.mono hbl.size)
    rw [he]
    refine pt_bare rfl rfl ?_
    repeat' (first | (with_reducible exact hb2) | (with_reducible refine Below.setCell ?_ ?_ _) | (with_reducible exact h1) | (with_reducible exact h2)))
  clear T0 hw1' hw1 hg hbl hsz
  by_cases hs : S = 0
  · have k1 : (S == 0) = true := by rw [hs]; rfl
    have HNE := Lib.hid (fun W hb => HNO.out W 1 true hb (by rw [padded, if_pos hs]))
    clear HNO hs
    go_enter Try.func22, Try.ntmps22
    go_upto_region 1 with fail
    rw [← HW.out, ← HG.out]
    go_wp2_with fail
    with_reducible refine (rfault_any 1 true w1).mono ?_
    rintro e w2 ⟨rfl, hb2⟩
    have T2 := HT.out.up hb2
    obtain ⟨p0, p1, p2, p3, p4, p5, p6, p7, p8⟩ := three_prt T2
    obtain ⟨t0, t1, t2⟩ := three_flt T2
    obtain ⟨f0, f1, f2, f3, f4, f5, f6, f7, f8, u0, u1, u2⟩ := three_froz T2
    have HN := HNE.out w2 hb2
    rw [show ((1 : Nat) : Int) = 1 from rfl] at HN
    replace HN := Lib.hid HN
    clear HNE T2 x0 x1 x2 x3
    go_wp2
    refine bodyPost_ret (v := .tuple #[.agg #[.slice none 0 0, .int .i64 0, .int .i64 0, .int .i64 0, .int .i64 0, .slice none 0 0, .bool false, .bool false, .bool false], .agg #[.bool true, .bool true, .int .i64 1]]) (by simp [results, Try.results22, go_sem, p0, p1, p2, p3, p4, p5, p6, p7, p8, t0, t1, t2]) rfl HN.out
  have k1 : (S == 0) = false := by
    rw [beq_eq_false_iff_ne]
    exact hs
  have HS := Lib.hid hs
  clear hs
  have e8 := and_is F 3 (by omega)
  rw [show ((2 ^ 3 : Nat) : Int) = 8 from rfl] at e8
  cases h3 : bit F 3 with
  | true =>
    rw [h3] at e8
    have H3 := Lib.hid h3
    clear h3
    by_cases h0 : n = 0
    · have k0 : ((n : Int) == 0) = true := by rw [h0]; rfl
      have hnil : l = [] := List.eq_nil_of_length_eq_zero (by have := HL.out; omega)
      have HNE := Lib.hid (fun W hb => HNO.out W 6 true hb (by rw [padded, if_neg HS.out, if_pos H3.out, hnil]))
      clear HNO h0 hnil
      go_enter Try.func22, Try.ntmps22
      go_upto_region 1 with fail
      rw [← HW.out, ← HG.out]
      go_wp2_with fail
      with_reducible refine (rfault_any 6 true w1).mono ?_
      rintro e w2 ⟨rfl, hb2⟩
      have T2 := HT.out.up hb2
      obtain ⟨p0, p1, p2, p3, p4, p5, p6, p7, p8⟩ := three_prt T2
      obtain ⟨t0, t1, t2⟩ := three_flt T2
      obtain ⟨f0, f1, f2, f3, f4, f5, f6, f7, f8, u0, u1, u2⟩ := three_froz T2
      have HN := HNE.out w2 hb2
      rw [show ((6 : Nat) : Int) = 6 from rfl] at HN
      replace HN := Lib.hid HN
      clear HNE T2 x0 x1 x2 x3
      go_wp2
      refine bodyPost_ret (v := .tuple #[.agg #[.slice none 0 0, .int .i64 0, .int .i64 0, .int .i64 0, .int .i64 0, .slice none 0 0, .bool false, .bool false, .bool false], .agg #[.bool true, .bool true, .int .i64 6]]) (by simp [results, Try.results22, go_sem, p0, p1, p2, p3, p4, p5, p6, p7, p8, t0, t1, t2]) rfl HN.out
    · have k0 : ((n : Int) == 0) = false := by
        rw [beq_eq_false_iff_ne]
        omega
      obtain ⟨b, o, rfl, hbB, hcs⟩ := HA.out.pos (by have := HL.out; omega)
      obtain ⟨x, r, hxr⟩ : ∃ x r, l = x :: r := by
        cases l with
        | nil => exact absurd HL.out (by simp; omega)
        | cons x r => exact ⟨x, r, rfl⟩
      have hx2 : x < 256 := HB.out x (by rw [hxr]; exact List.mem_cons_self)
      have HY : Hid (∀ W, Below w1.heap.size w1 W → W.cell? ⟨b, o, none⟩ = some (.int .u8 (x : Int))) := Lib.hid (fun W hb => by
        have hb2 := HBL.out.trans (hb.mono HBL.out.size)
        have := (hb2.cell (p := ⟨b, o + 0, none⟩) hbB).trans (hcs 0 (by rw [hxr]; simp))
        simpa [hxr] using this)
      have y0 := HY.out w1 (Below.refl _ _)
      obtain ⟨m, hm⟩ : ∃ m, m = n - 1 := ⟨_, rfl⟩
      obtain ⟨k, hk⟩ : ∃ k, k = c - 1 := ⟨_, rfl⟩
      obtain ⟨A1, hA1⟩ : ∃ A1, A1 = cutAt (some ⟨b, o, none⟩) c 1 := ⟨_, rfl⟩
      have hrl : r.length = m := by have := HL.out; rw [hxr, List.length_cons] at this; omega
      have hs1 := fun (W : World) => slice_l (some ⟨b, o, none⟩) n c 1 m W (by omega) hm.symm
      rw [← hA1, ← hk, show ((1 : Nat) : Int) = 1 from rfl] at hs1
      have hAT1 : ∀ W, Below w1.heap.size w1 W → At .u8 W W.heap.size A1 r := fun W hb => by
        have hb2 := HBL.out.trans (hb.mono HBL.out.size)
        have := (At.up HA.out hb2).drop (q := 1) (by rw [HL.out]; exact hcl)
        rw [hA1]
        simpa [hxr] using this
      have hmk : m ≤ k := by omega
      have hm5 : m ≤ 100000 := by omega
      have hc1 : A1 = none → k = 0 := fun h => by rw [hA1] at h; have := cutAt_none HC.out h; omega
      have ewx : IntKind.i64.wrap (x : Int) = (x : Int) := i64_ofNat x (by omega)
      have i0 : (0 : Int) < (n : Int) := by omega
      have i1n : (1 : Int) ≤ (n : Int) := by omega
      have hpad : padded (⟨1, F, S, l⟩ : Frm) = prior ⟨1, F, S, l⟩ x 1 r := by
        rw [padded, if_neg HS.out, if_pos H3.out, hxr]
      have e32 := and_is F 5 (by omega)
      rw [show ((2 ^ 5 : Nat) : Int) = 32 from rfl] at e32
      cases h5 : bit F 5 with
      | false =>
        rw [h5] at e32
        have heq : padded (⟨1, F, S, l⟩ : Frm) = padIn ⟨1, F, S, l⟩ x 1 (r) := by
          rw [hpad, prior, if_neg (fun h => by rw [h5] at h; cases h.2)]
        clear h5
        by_cases hg8 : m < x
        · have kx : ((m : Int) < (x : Int)) := by omega
          have HNE := Lib.hid (fun W hb => HNO.out W 1 true hb (by rw [heq, padIn, if_pos (by omega)]))
          clear HNO hm hk hA1 hxr hcs hrl h0 hAT1 hc1 hmk heq hpad hg8
          go_enter Try.func22, Try.ntmps22
          go_upto_region 1 with fail
          rw [← HW.out, ← HG.out]
          go_wp2_with fail
          with_reducible refine (rfault_any 1 true w1).mono ?_
          rintro e w2 ⟨rfl, hb2⟩
          have T2 := HT.out.up hb2
          obtain ⟨p0, p1, p2, p3, p4, p5, p6, p7, p8⟩ := three_prt T2
          obtain ⟨t0, t1, t2⟩ := three_flt T2
          obtain ⟨f0, f1, f2, f3, f4, f5, f6, f7, f8, u0, u1, u2⟩ := three_froz T2
          have HN := HNE.out w2 hb2
          rw [show ((1 : Nat) : Int) = 1 from rfl] at HN
          replace HN := Lib.hid HN
          clear HNE T2 x0 x1 x2 x3
          go_wp2
          refine bodyPost_ret (v := .tuple #[.agg #[.slice none 0 0, .int .i64 0, .int .i64 0, .int .i64 0, .int .i64 0, .slice none 0 0, .bool false, .bool false, .bool false], .agg #[.bool true, .bool true, .int .i64 1]]) (by simp [results, Try.results22, go_sem, p0, p1, p2, p3, p4, p5, p6, p7, p8, t0, t1, t2]) rfl HN.out
        · skip
          have e1 := and_is F 0 (by omega)
          rw [show ((2 ^ 0 : Nat) : Int) = 1 from rfl] at e1
          have e4 := and_is F 2 (by omega)
          rw [show ((2 ^ 2 : Nat) : Int) = 4 from rfl] at e4
          obtain ⟨q, hq⟩ : ∃ q, q = m - x := ⟨_, rfl⟩
          obtain ⟨P, hP⟩ : ∃ P, P = x + 1 := ⟨_, rfl⟩
          have hp : padded (⟨1, F, S, l⟩ : Frm) = (⟨(r).take q, P, 0, 0, 0, [], bit F 0, false, bit F 2⟩, noFlt) := by
            rw [heq, padIn, if_neg (by omega), hrl, ← hq, ← hP]
            rfl
          obtain ⟨X, hX⟩ : ∃ X, X = (r).take q := ⟨_, rfl⟩
          obtain ⟨A3, hA3⟩ : ∃ A3, A3 = cutAt A1 k 0 := ⟨_, rfl⟩
          have hsl := fun (W : World) => slice_h A1 m k q W (by omega)
          have HCP : Hid (∀ W, Below w1.heap.size w1 W → Calls Try.prog 25 #[.slice A3 q k] W (RowPost W.heap.size W X)) := Lib.hid (fun W hb => by
            rw [hA3, hX]
            exact copy_any _ ((r).take q) q k W ((hAT1 W hb).take (by omega)) (by rw [List.length_take]; omega) (fun h => by have := cutAt_none hc1 h; omega) (by omega))
          rw [← hX] at hp
          have HP := Lib.hid hp
          clear hp
          rw [← hA3] at hsl
          have i0n : (0 : Int) ≤ (q : Int) := by omega
          have icn : (q : Int) ≤ (k : Int) := by omega
          have ewn : IntKind.i64.wrap (q : Int) = (q : Int) := i64_ofNat q (by omega)
          have hd : Below w1.heap.size w1 w1.drew := (Below.refl _ _).drew
          have kn : ¬ ((m : Int) < (x : Int)) := by omega
          have ewr : IntKind.i64.wrap ((m : Int) - (x : Int)) = (q : Int) := by rw [show (m : Int) - (x : Int) = (q : Int) by omega]; exact i64_ofNat q (by omega)
          have ewp : IntKind.i64.wrap ((x : Int) + 1) = (P : Int) := by rw [show (x : Int) + 1 = (P : Int) by omega]; exact i64_ofNat P (by omega)
          clear HNO hm hk hA1 hxr hcs hrl h0 hAT1 hc1 hmk heq hpad hg8 hX hA3 hq hP
          go_enter Try.func22, Try.ntmps22
          go_upto_region 1 with fail
          rw [← HW.out, ← HG.out]
          go_wp2_with fail
          go_cut [] (fun wx => PtCut w1 g X P (bit F 0) (bit F 2) wx)
          case first =>
            refine wp_region_held_drew (S := fun w' => w'.cell? ⟨g, 0, none⟩ = some (.int .i64 1) ∧ w'.cell? ⟨g, 1, none⟩ = some (.int .i64 F)) (by kernel_rfl) ⟨x0, x1⟩ (fun hHeld => ?_)
            refine wpAnyH_take (i := 0) (v := ?_) rfl (by kernel_rfl) (by kernel_rfl) (by kernel_rfl) (fun _ _ _ h => h) (Or.inl ⟨by rfl, ?_⟩) hHeld ?_
            rotate_left
            · intro w hSw
              try dsimp only at hSw
              go_simp
              try with_reducible rfl
            change wpAnyH _ _ _ _ _ _ _ (Act.put _ (some 51) _) _
            simp only [Act.put, List.setIfInBounds_toArray, List.set_cons_zero, List.set_cons_succ]
            refine wpAnyH_take (i := 1) (v := ?_) rfl (by kernel_rfl) (by kernel_rfl) (by kernel_rfl) (fun _ _ _ h => h) (Or.inl ⟨by rfl, ?_⟩) hHeld ?_
            rotate_left
            · intro w hSw
              try dsimp only at hSw
              go_simp
              try with_reducible rfl
            change wpAnyH _ _ _ _ _ _ _ (Act.put _ (some 52) _) _
            simp only [Act.put, List.setIfInBounds_toArray, List.set_cons_zero, List.set_cons_succ]
            refine wpAnyH_take (i := 2) (v := ?_) rfl (by kernel_rfl) (by kernel_rfl) (by kernel_rfl) (fun _ _ _ h => h) (Or.inl ⟨by rfl, ?_⟩) hHeld ?_
            rotate_left
            · intro w hSw
              try dsimp only at hSw
              go_simp
              try with_reducible rfl
            change wpAnyH _ _ _ _ _ _ _ (Act.put _ (some 53) _) _
            simp only [Act.put, List.setIfInBounds_toArray, List.set_cons_zero, List.set_cons_succ]
            refine wpAnyH_take (i := 3) (v := ?_) rfl (by kernel_rfl) (by kernel_rfl) (by kernel_rfl) (fun _ _ _ h => h) (Or.inl ⟨by rfl, ?_⟩) hHeld ?_
            rotate_left
            · intro w hSw
              try dsimp only at hSw
              go_simp
              try with_reducible rfl
            change wpAnyH _ _ _ _ _ _ _ (Act.put _ (some 54) _) _
            simp only [Act.put, List.setIfInBounds_toArray, List.set_cons_zero, List.set_cons_succ]
            refine wpAnyH_take (i := 4) (v := ?_) rfl (by kernel_rfl) (by kernel_rfl) (by kernel_rfl) (fun _ _ _ h => h) (Or.inl ⟨by rfl, ?_⟩) hHeld ?_
            rotate_left
            · intro w hSw
              try dsimp only at hSw
              go_simp
              try with_reducible rfl
            change wpAnyH _ _ _ _ _ _ _ (Act.put _ (some 55) _) _
            simp only [Act.put, List.setIfInBounds_toArray, List.set_cons_zero, List.set_cons_succ]
            refine wpAnyH_take (i := 5) (v := ?_) rfl (by kernel_rfl) (by kernel_rfl) (by kernel_rfl) (fun _ _ _ h => h) (Or.inl ⟨by rfl, ?_⟩) hHeld ?_
            rotate_left
            · intro w hSw
              try dsimp only at hSw
              go_simp
              try with_reducible rfl
            change wpAnyH _ _ _ _ _ _ _ (Act.put _ (some 56) _) _
            simp only [Act.put, List.setIfInBounds_toArray, List.set_cons_zero, List.set_cons_succ]
            refine wpAnyH_take (i := 7) (v := ?_) rfl (by kernel_rfl) (by kernel_rfl) (by kernel_rfl) (fun _ _ _ h => h) (Or.inl ⟨by rfl, ?_⟩) hHeld ?_
            rotate_left
            · intro w hSw
              try dsimp only at hSw
              go_simp
              try with_reducible rfl
            change wpAnyH _ _ _ _ _ _ _ (Act.put _ (some 58) _) _
            simp only [Act.put, List.setIfInBounds_toArray, List.set_cons_zero, List.set_cons_succ]
            refine wpAnyH_take (i := 8) (v := ?_) rfl (by kernel_rfl) (by kernel_rfl) (by kernel_rfl) (fun _ _ _ h => h) (Or.inl ⟨by rfl, ?_⟩) hHeld ?_
            rotate_left
            · intro w hSw
              try dsimp only at hSw
              go_simp
              try with_reducible rfl
            change wpAnyH _ _ _ _ _ _ _ (Act.put _ (some 59) _) _
            simp only [Act.put, List.setIfInBounds_toArray, List.set_cons_zero, List.set_cons_succ]
            refine wpAnyH_take (i := 9) (v := ?_) rfl (by kernel_rfl) (by kernel_rfl) (by kernel_rfl) (fun _ _ _ h => h) (Or.inl ⟨by rfl, ?_⟩) hHeld ?_
            rotate_left
            · intro w hSw
              try dsimp only at hSw
              go_simp
              try with_reducible rfl
            change wpAnyH _ _ _ _ _ _ _ (Act.put _ (some 60) _) _
            simp only [Act.put, List.setIfInBounds_toArray, List.set_cons_zero, List.set_cons_succ]
            refine wpAnyH_take (i := 10) (v := ?_) rfl (by kernel_rfl) (by kernel_rfl) (by kernel_rfl) (fun _ _ _ h => h) (Or.inl ⟨by rfl, ?_⟩) hHeld ?_
            rotate_left
            · intro w hSw
              try dsimp only at hSw
              go_simp
              try with_reducible rfl
            change wpAnyH _ _ _ _ _ _ _ (Act.put _ (some 61) _) _
            simp only [Act.put, List.setIfInBounds_toArray, List.set_cons_zero, List.set_cons_succ]
            refine wpAnyH_take (i := 11) (v := ?_) rfl (by kernel_rfl) (by kernel_rfl) (by kernel_rfl) (fun _ _ _ h => h) (Or.inl ⟨by rfl, ?_⟩) hHeld ?_
            rotate_left
            · intro w hSw
              try dsimp only at hSw
              go_simp
              try with_reducible rfl
            change wpAnyH _ _ _ _ _ _ _ (Act.put _ (some 62) _) _
            simp only [Act.put, List.setIfInBounds_toArray, List.set_cons_zero, List.set_cons_succ]
            refine wpAnyH_take (i := 12) (v := ?_) rfl (by kernel_rfl) (by kernel_rfl) (by kernel_rfl) (fun _ _ _ h => h) (Or.inl ⟨by rfl, ?_⟩) hHeld ?_
            rotate_left
            · intro w hSw
              try dsimp only at hSw
              go_simp
              try with_reducible rfl
            change wpAnyH _ _ _ _ _ _ _ (Act.put _ (some 63) _) _
            simp only [Act.put, List.setIfInBounds_toArray, List.set_cons_zero, List.set_cons_succ]
            refine wpAnyH_take (i := 13) (v := ?_) rfl (by kernel_rfl) (by kernel_rfl) (by kernel_rfl) (fun _ _ _ h => h) (Or.inl ⟨by rfl, ?_⟩) hHeld ?_
            rotate_left
            · intro w hSw
              try dsimp only at hSw
              go_simp
              try with_reducible rfl
            change wpAnyH _ _ _ _ _ _ _ (Act.put _ (some 64) _) _
            simp only [Act.put, List.setIfInBounds_toArray, List.set_cons_zero, List.set_cons_succ]
            refine wpAnyH_take (i := 14) (v := ?_) rfl (by kernel_rfl) (by kernel_rfl) (by kernel_rfl) (fun _ _ _ h => h) (Or.inl ⟨by rfl, ?_⟩) hHeld ?_
            rotate_left
            · intro w hSw
              try dsimp only at hSw
              go_simp
              try with_reducible rfl
            change wpAnyH _ _ _ _ _ _ _ (Act.put _ (some 65) _) _
            simp only [Act.put, List.setIfInBounds_toArray, List.set_cons_zero, List.set_cons_succ]
            refine wpAnyH_take (i := 15) (v := ?_) rfl (by kernel_rfl) (by kernel_rfl) (by kernel_rfl) (fun _ _ _ h => h) (Or.inl ⟨by rfl, ?_⟩) hHeld ?_
            rotate_left
            · intro w hSw
              try dsimp only at hSw
              go_simp
              try with_reducible rfl
            change wpAnyH _ _ _ _ _ _ _ (Act.put _ (some 66) _) _
            simp only [Act.put, List.setIfInBounds_toArray, List.set_cons_zero, List.set_cons_succ]
            refine wpAnyH_take (i := 16) (v := .bool true) rfl (by kernel_rfl) (by kernel_rfl) (by kernel_rfl) (fun _ _ _ h => h) (Or.inl ⟨by rfl, ?_⟩) hHeld ?_
            · intro w hSw
              try dsimp only at hSw
              go_simp
              try simp
              try omega
            change wpAnyH _ _ _ _ _ _ _ (Act.put _ (some 67) _) _
            simp only [Act.put, List.setIfInBounds_toArray, List.set_cons_zero, List.set_cons_succ]
            refine wpAnyH_take (i := 24) (v := ?_) rfl (by kernel_rfl) (by kernel_rfl) (by kernel_rfl) (fun _ _ _ h => h) (Or.inl ⟨by rfl, ?_⟩) hHeld ?_
            rotate_left
            · intro w hSw
              try dsimp only at hSw
              go_simp
              try with_reducible rfl
            change wpAnyH _ _ _ _ _ _ _ (Act.put _ (some 75) _) _
            simp only [Act.put, List.setIfInBounds_toArray, List.set_cons_zero, List.set_cons_succ]
            refine wpAnyH_ready (rs := [6]) (by kernel_rfl) (by simp) ?_
            refine AllReadyH.cons rfl (fun K hK => ?_) AllReadyH.nil
            go_simp
            with_reducible refine (HCP.out _ hd).mono ?_
            rintro e w3 ⟨v3, rfl, hr3⟩
            obtain ⟨Ax, cx, hvx⟩ := own_shape hr3.1
            subst hvx
            have hb3 : Below w1.heap.size w1 w3 := hd.trans (hr3.2.mono hd.size)
            have T3 := HT.out.up hb3
            refine hK.out _ _ ⟨(three_frm T3).1, (three_frm T3).2.1⟩ (fun hHeld => ?_)
            clear hK K
            refine wpAnyH_take (i := 17) (v := ?_) rfl (by kernel_rfl) (by kernel_rfl) (by kernel_rfl) (fun _ _ _ h => h) (Or.inl ⟨by rfl, ?_⟩) hHeld ?_
            rotate_left
            · intro w hSw
              try dsimp only at hSw
              go_simp
              try with_reducible rfl
            change wpAnyH _ _ _ _ _ _ _ (Act.put _ (some 68) _) _
            simp only [Act.put, List.setIfInBounds_toArray, List.set_cons_zero, List.set_cons_succ]
            refine wpAnyH_take (i := 18) (v := ?_) rfl (by kernel_rfl) (by kernel_rfl) (by kernel_rfl) (fun _ _ _ h => h) (Or.inl ⟨by rfl, ?_⟩) hHeld ?_
            rotate_left
            · intro w hSw
              try dsimp only at hSw
              go_simp
              try with_reducible rfl
            change wpAnyH _ _ _ _ _ _ _ (Act.put _ (some 69) _) _
            simp only [Act.put, List.setIfInBounds_toArray, List.set_cons_zero, List.set_cons_succ]
            refine wpAnyH_take (i := 19) (v := ?_) rfl (by kernel_rfl) (by kernel_rfl) (by kernel_rfl) (fun _ _ _ h => h) (Or.inl ⟨by rfl, ?_⟩) hHeld ?_
            rotate_left
            · intro w hSw
              try dsimp only at hSw
              go_simp
              try with_reducible rfl
            change wpAnyH _ _ _ _ _ _ _ (Act.put _ (some 70) _) _
            simp only [Act.put, List.setIfInBounds_toArray, List.set_cons_zero, List.set_cons_succ]
            refine wpAnyH_take (i := 20) (v := ?_) rfl (by kernel_rfl) (by kernel_rfl) (by kernel_rfl) (fun _ _ _ h => h) (Or.inl ⟨by rfl, ?_⟩) hHeld ?_
            rotate_left
            · intro w hSw
              try dsimp only at hSw
              go_simp
              try with_reducible rfl
            change wpAnyH _ _ _ _ _ _ _ (Act.put _ (some 71) _) _
            simp only [Act.put, List.setIfInBounds_toArray, List.set_cons_zero, List.set_cons_succ]
            refine wpAnyH_take (i := 21) (v := ?_) rfl (by kernel_rfl) (by kernel_rfl) (by kernel_rfl) (fun _ _ _ h => h) (Or.inl ⟨by rfl, ?_⟩) hHeld ?_
            rotate_left
            · intro w hSw
              try dsimp only at hSw
              go_simp
              try with_reducible rfl
            change wpAnyH _ _ _ _ _ _ _ (Act.put _ (some 72) _) _
            simp only [Act.put, List.setIfInBounds_toArray, List.set_cons_zero, List.set_cons_succ]
            refine wpAnyH_take (i := 22) (v := ?_) rfl (by kernel_rfl) (by kernel_rfl) (by kernel_rfl) (fun _ _ _ h => h) (Or.inl ⟨by rfl, ?_⟩) hHeld ?_
            rotate_left
            · intro w hSw
              try dsimp only at hSw
              go_simp
              try with_reducible rfl
            change wpAnyH _ _ _ _ _ _ _ (Act.put _ (some 73) _) _
            simp only [Act.put, List.setIfInBounds_toArray, List.set_cons_zero, List.set_cons_succ]
            refine wpAnyH_take (i := 23) (v := ?_) rfl (by kernel_rfl) (by kernel_rfl) (by kernel_rfl) (fun _ _ _ h => h) (Or.inl ⟨by rfl, ?_⟩) hHeld ?_
            rotate_left
            · intro w hSw
              try dsimp only at hSw
              go_simp
              try with_reducible rfl
            change wpAnyH _ _ _ _ _ _ _ (Act.put _ (some 74) _) _
            simp only [Act.put, List.setIfInBounds_toArray, List.set_cons_zero, List.set_cons_succ]
            obtain ⟨p0, p1, p2, p3, p4, p5, p6, p7, p8⟩ := three_prt T3
            obtain ⟨t0, t1, t2⟩ := three_flt T3
            obtain ⟨f0, f1, f2, f3, f4, f5, f6, f7, f8, u0, u1, u2⟩ := three_froz T3
            have T3' := Lib.hid T3
            clear T3
            refine wpAnyH_ready (rs := [25]) (by kernel_rfl) (by simp) ?_
            refine AllReadyH.cons rfl (fun K hK => ?_) AllReadyH.nil
            go_simp
            refine hK.out _ _ (three_9 T3'.out _ _ _ _ _ _ _ _ _) (fun hHeld => ?_)
            clear hK K
            refine wpAnyH_ready (rs := [26]) (by kernel_rfl) (by simp) ?_
            refine AllReadyH.cons rfl (fun K hK => ?_) AllReadyH.nil
            go_simp
            refine hK.out _ _ (three_12 T3'.out _ _ _ _ _ _ _ _ _ _ _ _) (fun hHeld => ?_)
            clear hK K
            refine wpAnyH_done (by kernel_rfl) ?_ _
            go_wp2
            go_meet
            case rel => exact ptcut_mk T3'.out HSZ'.out hb3 (own_more hr3.1 hd.size)
          case rest =>
            obtain ⟨Ax, cx, h1, h2, hro, hbx⟩ := hcut
            have HN := Lib.hid (PtCut.post (pad := P) (E := bit F 0) (Q := bit F 2) HG.out HSZ'.out HBL.out hro hbx)
            have p0 := cell_of_row _ _ 0 _ 28 _ h1
            have p1 := cell_of_row _ _ 1 _ 28 _ h1
            have p2 := cell_of_row _ _ 2 _ 28 _ h1
            have p3 := cell_of_row _ _ 3 _ 28 _ h1
            have p4 := cell_of_row _ _ 4 _ 28 _ h1
            have p5 := cell_of_row _ _ 5 _ 28 _ h1
            have p6 := cell_of_row _ _ 6 _ 28 _ h1
            have p7 := cell_of_row _ _ 7 _ 28 _ h1
            have p8 := cell_of_row _ _ 8 _ 28 _ h1
            have t0 := cell_of_row _ _ 0 _ 30 _ h2
            have t1 := cell_of_row _ _ 1 _ 30 _ h2
            have t2 := cell_of_row _ _ 2 _ 30 _ h2
            rw [← HP.out] at HN
            clear HP x0 x1 x2 x3 h1 h2 hro hbx
            go_wp2
            refine bodyPost_ret (v := .tuple #[.agg #[.slice Ax X.length cx, .int .i64 (P : Int), .int .i64 0, .int .i64 0, .int .i64 0, .slice none 0 0, .bool (bit F 0), .bool false, .bool (bit F 2)], .agg #[.bool false, .bool false, .int .i64 0]]) (by simp [results, Try.results22, go_sem, p0, p1, p2, p3, p4, p5, p6, p7, p8, t0, t1, t2]) rfl HN.out
      | true =>
        rw [h5] at e32
        by_cases h55 : m < 5
        · have k5 : (m : Int) < 5 := by omega
          have HNE := Lib.hid (fun W hb => HNO.out W 6 true hb (by rw [hpad, prior, if_pos ⟨rfl, h5⟩, if_pos (by omega)]))
          clear HNO hm hk hA1 hxr hcs hrl h0 hAT1 hc1 hmk hpad h5 h55
          go_enter Try.func22, Try.ntmps22
          go_upto_region 1 with fail
          rw [← HW.out, ← HG.out]
          go_wp2_with fail
          with_reducible refine (rfault_any 6 true w1).mono ?_
          rintro e w2 ⟨rfl, hb2⟩
          have T2 := HT.out.up hb2
          obtain ⟨p0, p1, p2, p3, p4, p5, p6, p7, p8⟩ := three_prt T2
          obtain ⟨t0, t1, t2⟩ := three_flt T2
          obtain ⟨f0, f1, f2, f3, f4, f5, f6, f7, f8, u0, u1, u2⟩ := three_froz T2
          have HN := HNE.out w2 hb2
          rw [show ((6 : Nat) : Int) = 6 from rfl] at HN
          replace HN := Lib.hid HN
          clear HNE T2 x0 x1 x2 x3
          go_wp2
          refine bodyPost_ret (v := .tuple #[.agg #[.slice none 0 0, .int .i64 0, .int .i64 0, .int .i64 0, .int .i64 0, .slice none 0 0, .bool false, .bool false, .bool false], .agg #[.bool true, .bool true, .int .i64 6]]) (by simp [results, Try.results22, go_sem, p0, p1, p2, p3, p4, p5, p6, p7, p8, t0, t1, t2]) rfl HN.out
        · have k5 : ¬ (m : Int) < 5 := by omega
          have heq : padded (⟨1, F, S, l⟩ : Frm) = padIn ⟨1, F, S, l⟩ x 1 ((r).drop 5) := by
            rw [hpad, prior, if_pos ⟨rfl, h5⟩, if_neg (by omega)]
          have hcap5 : m ≤ k := by omega
          obtain ⟨m2, hm2⟩ : ∃ m2, m2 = m - 5 := ⟨_, rfl⟩
          obtain ⟨k2, hk2⟩ : ∃ k2, k2 = k - 5 := ⟨_, rfl⟩
          obtain ⟨A2, hA2⟩ : ∃ A2, A2 = cutAt A1 k 5 := ⟨_, rfl⟩
          have hrl2 : ((r).drop 5).length = m2 := by rw [List.length_drop]; omega
          have hs5 := fun (W : World) => slice_l A1 m k 5 m2 W (by omega) hm2.symm
          rw [← hA2, ← hk2, show ((5 : Nat) : Int) = 5 from rfl] at hs5
          have hAT2 : ∀ W, Below w1.heap.size w1 W → At .u8 W W.heap.size A2 ((r).drop 5) := fun W hb => by
            rw [hA2]
            exact (hAT1 W hb).drop (by omega)
          have hmk2 : m2 ≤ k2 := by omega
          have hm25 : m2 ≤ 100000 := by omega
          have hc2 : A2 = none → k2 = 0 := fun h => by rw [hA2] at h; have := cutAt_none hc1 h; omega
          have i5n : (5 : Int) ≤ (m : Int) := by omega
          clear h5 h55
          by_cases hg8 : m2 < x
          · have kx : ((m2 : Int) < (x : Int)) := by omega
            have HNE := Lib.hid (fun W hb => HNO.out W 1 true hb (by rw [heq, padIn, if_pos (by omega)]))
            clear HNO hm hk hA1 hxr hcs hrl h0 hAT1 hc1 hmk heq hm2 hk2 hA2 hrl2 hAT2 hc2 hmk2 hcap5 hpad hg8
            go_enter Try.func22, Try.ntmps22
            go_upto_region 1 with fail
            rw [← HW.out, ← HG.out]
            go_wp2_with fail
            with_reducible refine (rfault_any 1 true w1).mono ?_
            rintro e w2 ⟨rfl, hb2⟩
            have T2 := HT.out.up hb2
            obtain ⟨p0, p1, p2, p3, p4, p5, p6, p7, p8⟩ := three_prt T2
            obtain ⟨t0, t1, t2⟩ := three_flt T2
            obtain ⟨f0, f1, f2, f3, f4, f5, f6, f7, f8, u0, u1, u2⟩ := three_froz T2
            have HN := HNE.out w2 hb2
            rw [show ((1 : Nat) : Int) = 1 from rfl] at HN
            replace HN := Lib.hid HN
            clear HNE T2 x0 x1 x2 x3
            go_wp2
            refine bodyPost_ret (v := .tuple #[.agg #[.slice none 0 0, .int .i64 0, .int .i64 0, .int .i64 0, .int .i64 0, .slice none 0 0, .bool false, .bool false, .bool false], .agg #[.bool true, .bool true, .int .i64 1]]) (by simp [results, Try.results22, go_sem, p0, p1, p2, p3, p4, p5, p6, p7, p8, t0, t1, t2]) rfl HN.out
          · skip
            have e1 := and_is F 0 (by omega)
            rw [show ((2 ^ 0 : Nat) : Int) = 1 from rfl] at e1
            have e4 := and_is F 2 (by omega)
            rw [show ((2 ^ 2 : Nat) : Int) = 4 from rfl] at e4
            obtain ⟨q, hq⟩ : ∃ q, q = m2 - x := ⟨_, rfl⟩
            obtain ⟨P, hP⟩ : ∃ P, P = x + 1 := ⟨_, rfl⟩
            have hp : padded (⟨1, F, S, l⟩ : Frm) = (⟨((r).drop 5).take q, P, 0, 0, 0, [], bit F 0, false, bit F 2⟩, noFlt) := by
              rw [heq, padIn, if_neg (by omega), hrl2, ← hq, ← hP]
              rfl
            obtain ⟨X, hX⟩ : ∃ X, X = ((r).drop 5).take q := ⟨_, rfl⟩
            obtain ⟨A3, hA3⟩ : ∃ A3, A3 = cutAt A2 k2 0 := ⟨_, rfl⟩
            have hsl := fun (W : World) => slice_h A2 m2 k2 q W (by omega)
            have HCP : Hid (∀ W, Below w1.heap.size w1 W → Calls Try.prog 25 #[.slice A3 q k2] W (RowPost W.heap.size W X)) := Lib.hid (fun W hb => by
              rw [hA3, hX]
              exact copy_any _ (((r).drop 5).take q) q k2 W ((hAT2 W hb).take (by omega)) (by rw [List.length_take]; omega) (fun h => by have := cutAt_none hc2 h; omega) (by omega))
            rw [← hX] at hp
            have HP := Lib.hid hp
            clear hp
            rw [← hA3] at hsl
            have i0n : (0 : Int) ≤ (q : Int) := by omega
            have icn : (q : Int) ≤ (k2 : Int) := by omega
            have ewn : IntKind.i64.wrap (q : Int) = (q : Int) := i64_ofNat q (by omega)
            have hd : Below w1.heap.size w1 w1.drew := (Below.refl _ _).drew
            have kn : ¬ ((m2 : Int) < (x : Int)) := by omega
            have ewr : IntKind.i64.wrap ((m2 : Int) - (x : Int)) = (q : Int) := by rw [show (m2 : Int) - (x : Int) = (q : Int) by omega]; exact i64_ofNat q (by omega)
            have ewp : IntKind.i64.wrap ((x : Int) + 1) = (P : Int) := by rw [show (x : Int) + 1 = (P : Int) by omega]; exact i64_ofNat P (by omega)
            clear HNO hm hk hA1 hxr hcs hrl h0 hAT1 hc1 hmk heq hm2 hk2 hA2 hrl2 hAT2 hc2 hmk2 hcap5 hpad hg8 hX hA3 hq hP
            go_enter Try.func22, Try.ntmps22
            go_upto_region 1 with fail
            rw [← HW.out, ← HG.out]
            go_wp2_with fail
            go_cut [] (fun wx => PtCut w1 g X P (bit F 0) (bit F 2) wx)
            case first =>
              refine wp_region_held_drew (S := fun w' => w'.cell? ⟨g, 0, none⟩ = some (.int .i64 1) ∧ w'.cell? ⟨g, 1, none⟩ = some (.int .i64 F)) (by kernel_rfl) ⟨x0, x1⟩ (fun hHeld => ?_)
              refine wpAnyH_take (i := 0) (v := ?_) rfl (by kernel_rfl) (by kernel_rfl) (by kernel_rfl) (fun _ _ _ h => h) (Or.inl ⟨by rfl, ?_⟩) hHeld ?_
              rotate_left
              · intro w hSw
                try dsimp only at hSw
                go_simp
                try with_reducible rfl
              change wpAnyH _ _ _ _ _ _ _ (Act.put _ (some 51) _) _
              simp only [Act.put, List.setIfInBounds_toArray, List.set_cons_zero, List.set_cons_succ]
              refine wpAnyH_take (i := 1) (v := ?_) rfl (by kernel_rfl) (by kernel_rfl) (by kernel_rfl) (fun _ _ _ h => h) (Or.inl ⟨by rfl, ?_⟩) hHeld ?_
              rotate_left
              · intro w hSw
                try dsimp only at hSw
                go_simp
                try with_reducible rfl
              change wpAnyH _ _ _ _ _ _ _ (Act.put _ (some 52) _) _
              simp only [Act.put, List.setIfInBounds_toArray, List.set_cons_zero, List.set_cons_succ]
              refine wpAnyH_take (i := 2) (v := ?_) rfl (by kernel_rfl) (by kernel_rfl) (by kernel_rfl) (fun _ _ _ h => h) (Or.inl ⟨by rfl, ?_⟩) hHeld ?_
              rotate_left
              · intro w hSw
                try dsimp only at hSw
                go_simp
                try with_reducible rfl
              change wpAnyH _ _ _ _ _ _ _ (Act.put _ (some 53) _) _
              simp only [Act.put, List.setIfInBounds_toArray, List.set_cons_zero, List.set_cons_succ]
              refine wpAnyH_take (i := 3) (v := ?_) rfl (by kernel_rfl) (by kernel_rfl) (by kernel_rfl) (fun _ _ _ h => h) (Or.inl ⟨by rfl, ?_⟩) hHeld ?_
              rotate_left
              · intro w hSw
                try dsimp only at hSw
                go_simp
                try with_reducible rfl
              change wpAnyH _ _ _ _ _ _ _ (Act.put _ (some 54) _) _
              simp only [Act.put, List.setIfInBounds_toArray, List.set_cons_zero, List.set_cons_succ]
              refine wpAnyH_take (i := 4) (v := ?_) rfl (by kernel_rfl) (by kernel_rfl) (by kernel_rfl) (fun _ _ _ h => h) (Or.inl ⟨by rfl, ?_⟩) hHeld ?_
              rotate_left
              · intro w hSw
                try dsimp only at hSw
                go_simp
                try with_reducible rfl
              change wpAnyH _ _ _ _ _ _ _ (Act.put _ (some 55) _) _
              simp only [Act.put, List.setIfInBounds_toArray, List.set_cons_zero, List.set_cons_succ]
              refine wpAnyH_take (i := 5) (v := ?_) rfl (by kernel_rfl) (by kernel_rfl) (by kernel_rfl) (fun _ _ _ h => h) (Or.inl ⟨by rfl, ?_⟩) hHeld ?_
              rotate_left
              · intro w hSw
                try dsimp only at hSw
                go_simp
                try with_reducible rfl
              change wpAnyH _ _ _ _ _ _ _ (Act.put _ (some 56) _) _
              simp only [Act.put, List.setIfInBounds_toArray, List.set_cons_zero, List.set_cons_succ]
              refine wpAnyH_take (i := 7) (v := ?_) rfl (by kernel_rfl) (by kernel_rfl) (by kernel_rfl) (fun _ _ _ h => h) (Or.inl ⟨by rfl, ?_⟩) hHeld ?_
              rotate_left
              · intro w hSw
                try dsimp only at hSw
                go_simp
                try with_reducible rfl
              change wpAnyH _ _ _ _ _ _ _ (Act.put _ (some 58) _) _
              simp only [Act.put, List.setIfInBounds_toArray, List.set_cons_zero, List.set_cons_succ]
              refine wpAnyH_take (i := 8) (v := ?_) rfl (by kernel_rfl) (by kernel_rfl) (by kernel_rfl) (fun _ _ _ h => h) (Or.inl ⟨by rfl, ?_⟩) hHeld ?_
              rotate_left
              · intro w hSw
                try dsimp only at hSw
                go_simp
                try with_reducible rfl
              change wpAnyH _ _ _ _ _ _ _ (Act.put _ (some 59) _) _
              simp only [Act.put, List.setIfInBounds_toArray, List.set_cons_zero, List.set_cons_succ]
              refine wpAnyH_take (i := 9) (v := ?_) rfl (by kernel_rfl) (by kernel_rfl) (by kernel_rfl) (fun _ _ _ h => h) (Or.inl ⟨by rfl, ?_⟩) hHeld ?_
              rotate_left
              · intro w hSw
                try dsimp only at hSw
                go_simp
                try with_reducible rfl
              change wpAnyH _ _ _ _ _ _ _ (Act.put _ (some 60) _) _
              simp only [Act.put, List.setIfInBounds_toArray, List.set_cons_zero, List.set_cons_succ]
              refine wpAnyH_take (i := 10) (v := ?_) rfl (by kernel_rfl) (by kernel_rfl) (by kernel_rfl) (fun _ _ _ h => h) (Or.inl ⟨by rfl, ?_⟩) hHeld ?_
              rotate_left
              · intro w hSw
                try dsimp only at hSw
                go_simp
                try with_reducible rfl
              change wpAnyH _ _ _ _ _ _ _ (Act.put _ (some 61) _) _
              simp only [Act.put, List.setIfInBounds_toArray, List.set_cons_zero, List.set_cons_succ]
              refine wpAnyH_take (i := 11) (v := ?_) rfl (by kernel_rfl) (by kernel_rfl) (by kernel_rfl) (fun _ _ _ h => h) (Or.inl ⟨by rfl, ?_⟩) hHeld ?_
              rotate_left
              · intro w hSw
                try dsimp only at hSw
                go_simp
                try with_reducible rfl
              change wpAnyH _ _ _ _ _ _ _ (Act.put _ (some 62) _) _
              simp only [Act.put, List.setIfInBounds_toArray, List.set_cons_zero, List.set_cons_succ]
              refine wpAnyH_take (i := 12) (v := ?_) rfl (by kernel_rfl) (by kernel_rfl) (by kernel_rfl) (fun _ _ _ h => h) (Or.inl ⟨by rfl, ?_⟩) hHeld ?_
              rotate_left
              · intro w hSw
                try dsimp only at hSw
                go_simp
                try with_reducible rfl
              change wpAnyH _ _ _ _ _ _ _ (Act.put _ (some 63) _) _
              simp only [Act.put, List.setIfInBounds_toArray, List.set_cons_zero, List.set_cons_succ]
              refine wpAnyH_take (i := 13) (v := ?_) rfl (by kernel_rfl) (by kernel_rfl) (by kernel_rfl) (fun _ _ _ h => h) (Or.inl ⟨by rfl, ?_⟩) hHeld ?_
              rotate_left
              · intro w hSw
                try dsimp only at hSw
                go_simp
                try with_reducible rfl
              change wpAnyH _ _ _ _ _ _ _ (Act.put _ (some 64) _) _
              simp only [Act.put, List.setIfInBounds_toArray, List.set_cons_zero, List.set_cons_succ]
              refine wpAnyH_take (i := 14) (v := ?_) rfl (by kernel_rfl) (by kernel_rfl) (by kernel_rfl) (fun _ _ _ h => h) (Or.inl ⟨by rfl, ?_⟩) hHeld ?_
              rotate_left
              · intro w hSw
                try dsimp only at hSw
                go_simp
                try with_reducible rfl
              change wpAnyH _ _ _ _ _ _ _ (Act.put _ (some 65) _) _
              simp only [Act.put, List.setIfInBounds_toArray, List.set_cons_zero, List.set_cons_succ]
              refine wpAnyH_take (i := 15) (v := ?_) rfl (by kernel_rfl) (by kernel_rfl) (by kernel_rfl) (fun _ _ _ h => h) (Or.inl ⟨by rfl, ?_⟩) hHeld ?_
              rotate_left
              · intro w hSw
                try dsimp only at hSw
                go_simp
                try with_reducible rfl
              change wpAnyH _ _ _ _ _ _ _ (Act.put _ (some 66) _) _
              simp only [Act.put, List.setIfInBounds_toArray, List.set_cons_zero, List.set_cons_succ]
              refine wpAnyH_take (i := 16) (v := .bool true) rfl (by kernel_rfl) (by kernel_rfl) (by kernel_rfl) (fun _ _ _ h => h) (Or.inl ⟨by rfl, ?_⟩) hHeld ?_
              · intro w hSw
                try dsimp only at hSw
                go_simp
                try simp
                try omega
              change wpAnyH _ _ _ _ _ _ _ (Act.put _ (some 67) _) _
              simp only [Act.put, List.setIfInBounds_toArray, List.set_cons_zero, List.set_cons_succ]
              refine wpAnyH_take (i := 24) (v := ?_) rfl (by kernel_rfl) (by kernel_rfl) (by kernel_rfl) (fun _ _ _ h => h) (Or.inl ⟨by rfl, ?_⟩) hHeld ?_
              rotate_left
              · intro w hSw
                try dsimp only at hSw
                go_simp
                try with_reducible rfl
              change wpAnyH _ _ _ _ _ _ _ (Act.put _ (some 75) _) _
              simp only [Act.put, List.setIfInBounds_toArray, List.set_cons_zero, List.set_cons_succ]
              refine wpAnyH_ready (rs := [6]) (by kernel_rfl) (by simp) ?_
              refine AllReadyH.cons rfl (fun K hK => ?_) AllReadyH.nil
              go_simp
              with_reducible refine (HCP.out _ hd).mono ?_
              rintro e w3 ⟨v3, rfl, hr3⟩
              obtain ⟨Ax, cx, hvx⟩ := own_shape hr3.1
              subst hvx
              have hb3 : Below w1.heap.size w1 w3 := hd.trans (hr3.2.mono hd.size)
              have T3 := HT.out.up hb3
              refine hK.out _ _ ⟨(three_frm T3).1, (three_frm T3).2.1⟩ (fun hHeld => ?_)
              clear hK K
              refine wpAnyH_take (i := 17) (v := ?_) rfl (by kernel_rfl) (by kernel_rfl) (by kernel_rfl) (fun _ _ _ h => h) (Or.inl ⟨by rfl, ?_⟩) hHeld ?_
              rotate_left
              · intro w hSw
                try dsimp only at hSw
                go_simp
                try with_reducible rfl
              change wpAnyH _ _ _ _ _ _ _ (Act.put _ (some 68) _) _
              simp only [Act.put, List.setIfInBounds_toArray, List.set_cons_zero, List.set_cons_succ]
              refine wpAnyH_take (i := 18) (v := ?_) rfl (by kernel_rfl) (by kernel_rfl) (by kernel_rfl) (fun _ _ _ h => h) (Or.inl ⟨by rfl, ?_⟩) hHeld ?_
              rotate_left
              · intro w hSw
                try dsimp only at hSw
                go_simp
                try with_reducible rfl
              change wpAnyH _ _ _ _ _ _ _ (Act.put _ (some 69) _) _
              simp only [Act.put, List.setIfInBounds_toArray, List.set_cons_zero, List.set_cons_succ]
              refine wpAnyH_take (i := 19) (v := ?_) rfl (by kernel_rfl) (by kernel_rfl) (by kernel_rfl) (fun _ _ _ h => h) (Or.inl ⟨by rfl, ?_⟩) hHeld ?_
              rotate_left
              · intro w hSw
                try dsimp only at hSw
                go_simp
                try with_reducible rfl
              change wpAnyH _ _ _ _ _ _ _ (Act.put _ (some 70) _) _
              simp only [Act.put, List.setIfInBounds_toArray, List.set_cons_zero, List.set_cons_succ]
              refine wpAnyH_take (i := 20) (v := ?_) rfl (by kernel_rfl) (by kernel_rfl) (by kernel_rfl) (fun _ _ _ h => h) (Or.inl ⟨by rfl, ?_⟩) hHeld ?_
              rotate_left
              · intro w hSw
                try dsimp only at hSw
                go_simp
                try with_reducible rfl
              change wpAnyH _ _ _ _ _ _ _ (Act.put _ (some 71) _) _
              simp only [Act.put, List.setIfInBounds_toArray, List.set_cons_zero, List.set_cons_succ]
              refine wpAnyH_take (i := 21) (v := ?_) rfl (by kernel_rfl) (by kernel_rfl) (by kernel_rfl) (fun _ _ _ h => h) (Or.inl ⟨by rfl, ?_⟩) hHeld ?_
              rotate_left
              · intro w hSw
                try dsimp only at hSw
                go_simp
                try with_reducible rfl
              change wpAnyH _ _ _ _ _ _ _ (Act.put _ (some 72) _) _
              simp only [Act.put, List.setIfInBounds_toArray, List.set_cons_zero, List.set_cons_succ]
              refine wpAnyH_take (i := 22) (v := ?_) rfl (by kernel_rfl) (by kernel_rfl) (by kernel_rfl) (fun _ _ _ h => h) (Or.inl ⟨by rfl, ?_⟩) hHeld ?_
              rotate_left
              · intro w hSw
                try dsimp only at hSw
                go_simp
                try with_reducible rfl
              change wpAnyH _ _ _ _ _ _ _ (Act.put _ (some 73) _) _
              simp only [Act.put, List.setIfInBounds_toArray, List.set_cons_zero, List.set_cons_succ]
              refine wpAnyH_take (i := 23) (v := ?_) rfl (by kernel_rfl) (by kernel_rfl) (by kernel_rfl) (fun _ _ _ h => h) (Or.inl ⟨by rfl, ?_⟩) hHeld ?_
              rotate_left
              · intro w hSw
                try dsimp only at hSw
                go_simp
                try with_reducible rfl
              change wpAnyH _ _ _ _ _ _ _ (Act.put _ (some 74) _) _
              simp only [Act.put, List.setIfInBounds_toArray, List.set_cons_zero, List.set_cons_succ]
              obtain ⟨p0, p1, p2, p3, p4, p5, p6, p7, p8⟩ := three_prt T3
              obtain ⟨t0, t1, t2⟩ := three_flt T3
              obtain ⟨f0, f1, f2, f3, f4, f5, f6, f7, f8, u0, u1, u2⟩ := three_froz T3
              have T3' := Lib.hid T3
              clear T3
              refine wpAnyH_ready (rs := [25]) (by kernel_rfl) (by simp) ?_
              refine AllReadyH.cons rfl (fun K hK => ?_) AllReadyH.nil
              go_simp
              refine hK.out _ _ (three_9 T3'.out _ _ _ _ _ _ _ _ _) (fun hHeld => ?_)
              clear hK K
              refine wpAnyH_ready (rs := [26]) (by kernel_rfl) (by simp) ?_
              refine AllReadyH.cons rfl (fun K hK => ?_) AllReadyH.nil
              go_simp
              refine hK.out _ _ (three_12 T3'.out _ _ _ _ _ _ _ _ _ _ _ _) (fun hHeld => ?_)
              clear hK K
              refine wpAnyH_done (by kernel_rfl) ?_ _
              go_wp2
              go_meet
              case rel => exact ptcut_mk T3'.out HSZ'.out hb3 (own_more hr3.1 hd.size)
            case rest =>
              obtain ⟨Ax, cx, h1, h2, hro, hbx⟩ := hcut
              have HN := Lib.hid (PtCut.post (pad := P) (E := bit F 0) (Q := bit F 2) HG.out HSZ'.out HBL.out hro hbx)
              have p0 := cell_of_row _ _ 0 _ 28 _ h1
              have p1 := cell_of_row _ _ 1 _ 28 _ h1
              have p2 := cell_of_row _ _ 2 _ 28 _ h1
              have p3 := cell_of_row _ _ 3 _ 28 _ h1
              have p4 := cell_of_row _ _ 4 _ 28 _ h1
              have p5 := cell_of_row _ _ 5 _ 28 _ h1
              have p6 := cell_of_row _ _ 6 _ 28 _ h1
              have p7 := cell_of_row _ _ 7 _ 28 _ h1
              have p8 := cell_of_row _ _ 8 _ 28 _ h1
              have t0 := cell_of_row _ _ 0 _ 30 _ h2
              have t1 := cell_of_row _ _ 1 _ 30 _ h2
              have t2 := cell_of_row _ _ 2 _ 30 _ h2
              rw [← HP.out] at HN
              clear HP x0 x1 x2 x3 h1 h2 hro hbx
              go_wp2
              refine bodyPost_ret (v := .tuple #[.agg #[.slice Ax X.length cx, .int .i64 (P : Int), .int .i64 0, .int .i64 0, .int .i64 0, .slice none 0 0, .bool (bit F 0), .bool false, .bool (bit F 2)], .agg #[.bool false, .bool false, .int .i64 0]]) (by simp [results, Try.results22, go_sem, p0, p1, p2, p3, p4, p5, p6, p7, p8, t0, t1, t2]) rfl HN.out
  | false =>
    rw [h3] at e8
    have H3 := Lib.hid h3
    clear h3
    have hpad : padded (⟨1, F, S, l⟩ : Frm) = prior ⟨1, F, S, l⟩ 0 0 l := by
      rw [padded, if_neg HS.out, if_neg (by rw [H3.out]; decide)]
    have hAT1 : ∀ W, Below w1.heap.size w1 W → At .u8 W W.heap.size A l := fun W hb => At.up HA.out (HBL.out.trans (hb.mono HBL.out.size))
    have hc1 := HC.out
    have hrl := HL.out
    have hmk := hcl
    have e32 := and_is F 5 (by omega)
    rw [show ((2 ^ 5 : Nat) : Int) = 32 from rfl] at e32
    cases h5 : bit F 5 with
    | false =>
      rw [h5] at e32
      have heq : padded (⟨1, F, S, l⟩ : Frm) = padIn ⟨1, F, S, l⟩ 0 0 (l) := by
        rw [hpad, prior, if_neg (fun h => by rw [h5] at h; cases h.2)]
      clear h5
      have e1 := and_is F 0 (by omega)
      rw [show ((2 ^ 0 : Nat) : Int) = 1 from rfl] at e1
      have e4 := and_is F 2 (by omega)
      rw [show ((2 ^ 2 : Nat) : Int) = 4 from rfl] at e4
      obtain ⟨q, hq⟩ : ∃ q, q = n - 0 := ⟨_, rfl⟩
      have hp : padded (⟨1, F, S, l⟩ : Frm) = (⟨(l).take q, 0, 0, 0, 0, [], bit F 0, false, bit F 2⟩, noFlt) := by
        rw [heq, padIn, if_neg (by omega), hrl, ← hq]
        rfl
      obtain ⟨X, hX⟩ : ∃ X, X = (l).take q := ⟨_, rfl⟩
      obtain ⟨A3, hA3⟩ : ∃ A3, A3 = cutAt A c 0 := ⟨_, rfl⟩
      have hsl := fun (W : World) => slice_h A n c q W (by omega)
      have HCP : Hid (∀ W, Below w1.heap.size w1 W → Calls Try.prog 25 #[.slice A3 q c] W (RowPost W.heap.size W X)) := Lib.hid (fun W hb => by
        rw [hA3, hX]
        exact copy_any _ ((l).take q) q c W ((hAT1 W hb).take (by omega)) (by rw [List.length_take]; omega) (fun h => by have := cutAt_none hc1 h; omega) (by omega))
      rw [← hX] at hp
      have HP := Lib.hid hp
      clear hp
      rw [← hA3] at hsl
      have i0n : (0 : Int) ≤ (q : Int) := by omega
      have icn : (q : Int) ≤ (c : Int) := by omega
      have ewn : IntKind.i64.wrap (q : Int) = (q : Int) := i64_ofNat q (by omega)
      have hd : Below w1.heap.size w1 w1.drew := (Below.refl _ _).drew
      have hqm : q = n := by omega
      subst hqm
      have kn : ¬ (0 : Int) > (q : Int) := by omega
      have ewr : IntKind.i64.wrap ((q : Int) - 0) = (q : Int) := by rw [Int.sub_zero]; exact ewn
      clear HNO hrl hAT1 hc1 hmk heq hpad hX hA3 hq
      go_enter Try.func22, Try.ntmps22
      go_upto_region 1 with fail
      rw [← HW.out, ← HG.out]
      go_wp2_with fail
      go_cut [] (fun wx => PtCut w1 g X 0 (bit F 0) (bit F 2) wx)
      case first =>
        refine wp_region_held_drew (S := fun w' => w'.cell? ⟨g, 0, none⟩ = some (.int .i64 1) ∧ w'.cell? ⟨g, 1, none⟩ = some (.int .i64 F)) (by kernel_rfl) ⟨x0, x1⟩ (fun hHeld => ?_)
        refine wpAnyH_take (i := 0) (v := ?_) rfl (by kernel_rfl) (by kernel_rfl) (by kernel_rfl) (fun _ _ _ h => h) (Or.inl ⟨by rfl, ?_⟩) hHeld ?_
        rotate_left
        · intro w hSw
          try dsimp only at hSw
          go_simp
          try with_reducible rfl
        change wpAnyH _ _ _ _ _ _ _ (Act.put _ (some 51) _) _
        simp only [Act.put, List.setIfInBounds_toArray, List.set_cons_zero, List.set_cons_succ]
        refine wpAnyH_take (i := 1) (v := ?_) rfl (by kernel_rfl) (by kernel_rfl) (by kernel_rfl) (fun _ _ _ h => h) (Or.inl ⟨by rfl, ?_⟩) hHeld ?_
        rotate_left
        · intro w hSw
          try dsimp only at hSw
          go_simp
          try with_reducible rfl
        change wpAnyH _ _ _ _ _ _ _ (Act.put _ (some 52) _) _
        simp only [Act.put, List.setIfInBounds_toArray, List.set_cons_zero, List.set_cons_succ]
        refine wpAnyH_take (i := 2) (v := ?_) rfl (by kernel_rfl) (by kernel_rfl) (by kernel_rfl) (fun _ _ _ h => h) (Or.inl ⟨by rfl, ?_⟩) hHeld ?_
        rotate_left
        · intro w hSw
          try dsimp only at hSw
          go_simp
          try with_reducible rfl
        change wpAnyH _ _ _ _ _ _ _ (Act.put _ (some 53) _) _
        simp only [Act.put, List.setIfInBounds_toArray, List.set_cons_zero, List.set_cons_succ]
        refine wpAnyH_take (i := 3) (v := ?_) rfl (by kernel_rfl) (by kernel_rfl) (by kernel_rfl) (fun _ _ _ h => h) (Or.inl ⟨by rfl, ?_⟩) hHeld ?_
        rotate_left
        · intro w hSw
          try dsimp only at hSw
          go_simp
          try with_reducible rfl
        change wpAnyH _ _ _ _ _ _ _ (Act.put _ (some 54) _) _
        simp only [Act.put, List.setIfInBounds_toArray, List.set_cons_zero, List.set_cons_succ]
        refine wpAnyH_take (i := 4) (v := ?_) rfl (by kernel_rfl) (by kernel_rfl) (by kernel_rfl) (fun _ _ _ h => h) (Or.inl ⟨by rfl, ?_⟩) hHeld ?_
        rotate_left
        · intro w hSw
          try dsimp only at hSw
          go_simp
          try with_reducible rfl
        change wpAnyH _ _ _ _ _ _ _ (Act.put _ (some 55) _) _
        simp only [Act.put, List.setIfInBounds_toArray, List.set_cons_zero, List.set_cons_succ]
        refine wpAnyH_take (i := 5) (v := ?_) rfl (by kernel_rfl) (by kernel_rfl) (by kernel_rfl) (fun _ _ _ h => h) (Or.inl ⟨by rfl, ?_⟩) hHeld ?_
        rotate_left
        · intro w hSw
          try dsimp only at hSw
          go_simp
          try with_reducible rfl
        change wpAnyH _ _ _ _ _ _ _ (Act.put _ (some 56) _) _
        simp only [Act.put, List.setIfInBounds_toArray, List.set_cons_zero, List.set_cons_succ]
        refine wpAnyH_take (i := 7) (v := ?_) rfl (by kernel_rfl) (by kernel_rfl) (by kernel_rfl) (fun _ _ _ h => h) (Or.inl ⟨by rfl, ?_⟩) hHeld ?_
        rotate_left
        · intro w hSw
          try dsimp only at hSw
          go_simp
          try with_reducible rfl
        change wpAnyH _ _ _ _ _ _ _ (Act.put _ (some 58) _) _
        simp only [Act.put, List.setIfInBounds_toArray, List.set_cons_zero, List.set_cons_succ]
        refine wpAnyH_take (i := 8) (v := ?_) rfl (by kernel_rfl) (by kernel_rfl) (by kernel_rfl) (fun _ _ _ h => h) (Or.inl ⟨by rfl, ?_⟩) hHeld ?_
        rotate_left
        · intro w hSw
          try dsimp only at hSw
          go_simp
          try with_reducible rfl
        change wpAnyH _ _ _ _ _ _ _ (Act.put _ (some 59) _) _
        simp only [Act.put, List.setIfInBounds_toArray, List.set_cons_zero, List.set_cons_succ]
        refine wpAnyH_take (i := 9) (v := ?_) rfl (by kernel_rfl) (by kernel_rfl) (by kernel_rfl) (fun _ _ _ h => h) (Or.inl ⟨by rfl, ?_⟩) hHeld ?_
        rotate_left
        · intro w hSw
          try dsimp only at hSw
          go_simp
          try with_reducible rfl
        change wpAnyH _ _ _ _ _ _ _ (Act.put _ (some 60) _) _
        simp only [Act.put, List.setIfInBounds_toArray, List.set_cons_zero, List.set_cons_succ]
        refine wpAnyH_take (i := 10) (v := ?_) rfl (by kernel_rfl) (by kernel_rfl) (by kernel_rfl) (fun _ _ _ h => h) (Or.inl ⟨by rfl, ?_⟩) hHeld ?_
        rotate_left
        · intro w hSw
          try dsimp only at hSw
          go_simp
          try with_reducible rfl
        change wpAnyH _ _ _ _ _ _ _ (Act.put _ (some 61) _) _
        simp only [Act.put, List.setIfInBounds_toArray, List.set_cons_zero, List.set_cons_succ]
        refine wpAnyH_take (i := 11) (v := ?_) rfl (by kernel_rfl) (by kernel_rfl) (by kernel_rfl) (fun _ _ _ h => h) (Or.inl ⟨by rfl, ?_⟩) hHeld ?_
        rotate_left
        · intro w hSw
          try dsimp only at hSw
          go_simp
          try with_reducible rfl
        change wpAnyH _ _ _ _ _ _ _ (Act.put _ (some 62) _) _
        simp only [Act.put, List.setIfInBounds_toArray, List.set_cons_zero, List.set_cons_succ]
        refine wpAnyH_take (i := 12) (v := ?_) rfl (by kernel_rfl) (by kernel_rfl) (by kernel_rfl) (fun _ _ _ h => h) (Or.inl ⟨by rfl, ?_⟩) hHeld ?_
        rotate_left
        · intro w hSw
          try dsimp only at hSw
          go_simp
          try with_reducible rfl
        change wpAnyH _ _ _ _ _ _ _ (Act.put _ (some 63) _) _
        simp only [Act.put, List.setIfInBounds_toArray, List.set_cons_zero, List.set_cons_succ]
        refine wpAnyH_take (i := 13) (v := ?_) rfl (by kernel_rfl) (by kernel_rfl) (by kernel_rfl) (fun _ _ _ h => h) (Or.inl ⟨by rfl, ?_⟩) hHeld ?_
        rotate_left
        · intro w hSw
          try dsimp only at hSw
          go_simp
          try with_reducible rfl
        change wpAnyH _ _ _ _ _ _ _ (Act.put _ (some 64) _) _
        simp only [Act.put, List.setIfInBounds_toArray, List.set_cons_zero, List.set_cons_succ]
        refine wpAnyH_take (i := 14) (v := ?_) rfl (by kernel_rfl) (by kernel_rfl) (by kernel_rfl) (fun _ _ _ h => h) (Or.inl ⟨by rfl, ?_⟩) hHeld ?_
        rotate_left
        · intro w hSw
          try dsimp only at hSw
          go_simp
          try with_reducible rfl
        change wpAnyH _ _ _ _ _ _ _ (Act.put _ (some 65) _) _
        simp only [Act.put, List.setIfInBounds_toArray, List.set_cons_zero, List.set_cons_succ]
        refine wpAnyH_take (i := 15) (v := ?_) rfl (by kernel_rfl) (by kernel_rfl) (by kernel_rfl) (fun _ _ _ h => h) (Or.inl ⟨by rfl, ?_⟩) hHeld ?_
        rotate_left
        · intro w hSw
          try dsimp only at hSw
          go_simp
          try with_reducible rfl
        change wpAnyH _ _ _ _ _ _ _ (Act.put _ (some 66) _) _
        simp only [Act.put, List.setIfInBounds_toArray, List.set_cons_zero, List.set_cons_succ]
        refine wpAnyH_take (i := 16) (v := .bool true) rfl (by kernel_rfl) (by kernel_rfl) (by kernel_rfl) (fun _ _ _ h => h) (Or.inl ⟨by rfl, ?_⟩) hHeld ?_
        · intro w hSw
          try dsimp only at hSw
          go_simp
          try simp
          try omega
        change wpAnyH _ _ _ _ _ _ _ (Act.put _ (some 67) _) _
        simp only [Act.put, List.setIfInBounds_toArray, List.set_cons_zero, List.set_cons_succ]
        refine wpAnyH_take (i := 24) (v := ?_) rfl (by kernel_rfl) (by kernel_rfl) (by kernel_rfl) (fun _ _ _ h => h) (Or.inl ⟨by rfl, ?_⟩) hHeld ?_
        rotate_left
        · intro w hSw
          try dsimp only at hSw
          go_simp
          try with_reducible rfl
        change wpAnyH _ _ _ _ _ _ _ (Act.put _ (some 75) _) _
        simp only [Act.put, List.setIfInBounds_toArray, List.set_cons_zero, List.set_cons_succ]
        refine wpAnyH_ready (rs := [6]) (by kernel_rfl) (by simp) ?_
        refine AllReadyH.cons rfl (fun K hK => ?_) AllReadyH.nil
        go_simp
        with_reducible refine (HCP.out _ hd).mono ?_
        rintro e w3 ⟨v3, rfl, hr3⟩
        obtain ⟨Ax, cx, hvx⟩ := own_shape hr3.1
        subst hvx
        have hb3 : Below w1.heap.size w1 w3 := hd.trans (hr3.2.mono hd.size)
        have T3 := HT.out.up hb3
        refine hK.out _ _ ⟨(three_frm T3).1, (three_frm T3).2.1⟩ (fun hHeld => ?_)
        clear hK K
        refine wpAnyH_take (i := 17) (v := ?_) rfl (by kernel_rfl) (by kernel_rfl) (by kernel_rfl) (fun _ _ _ h => h) (Or.inl ⟨by rfl, ?_⟩) hHeld ?_
        rotate_left
        · intro w hSw
          try dsimp only at hSw
          go_simp
          try with_reducible rfl
        change wpAnyH _ _ _ _ _ _ _ (Act.put _ (some 68) _) _
        simp only [Act.put, List.setIfInBounds_toArray, List.set_cons_zero, List.set_cons_succ]
        refine wpAnyH_take (i := 18) (v := ?_) rfl (by kernel_rfl) (by kernel_rfl) (by kernel_rfl) (fun _ _ _ h => h) (Or.inl ⟨by rfl, ?_⟩) hHeld ?_
        rotate_left
        · intro w hSw
          try dsimp only at hSw
          go_simp
          try with_reducible rfl
        change wpAnyH _ _ _ _ _ _ _ (Act.put _ (some 69) _) _
        simp only [Act.put, List.setIfInBounds_toArray, List.set_cons_zero, List.set_cons_succ]
        refine wpAnyH_take (i := 19) (v := ?_) rfl (by kernel_rfl) (by kernel_rfl) (by kernel_rfl) (fun _ _ _ h => h) (Or.inl ⟨by rfl, ?_⟩) hHeld ?_
        rotate_left
        · intro w hSw
          try dsimp only at hSw
          go_simp
          try with_reducible rfl
        change wpAnyH _ _ _ _ _ _ _ (Act.put _ (some 70) _) _
        simp only [Act.put, List.setIfInBounds_toArray, List.set_cons_zero, List.set_cons_succ]
        refine wpAnyH_take (i := 20) (v := ?_) rfl (by kernel_rfl) (by kernel_rfl) (by kernel_rfl) (fun _ _ _ h => h) (Or.inl ⟨by rfl, ?_⟩) hHeld ?_
        rotate_left
        · intro w hSw
          try dsimp only at hSw
          go_simp
          try with_reducible rfl
        change wpAnyH _ _ _ _ _ _ _ (Act.put _ (some 71) _) _
        simp only [Act.put, List.setIfInBounds_toArray, List.set_cons_zero, List.set_cons_succ]
        refine wpAnyH_take (i := 21) (v := ?_) rfl (by kernel_rfl) (by kernel_rfl) (by kernel_rfl) (fun _ _ _ h => h) (Or.inl ⟨by rfl, ?_⟩) hHeld ?_
        rotate_left
        · intro w hSw
          try dsimp only at hSw
          go_simp
          try with_reducible rfl
        change wpAnyH _ _ _ _ _ _ _ (Act.put _ (some 72) _) _
        simp only [Act.put, List.setIfInBounds_toArray, List.set_cons_zero, List.set_cons_succ]
        refine wpAnyH_take (i := 22) (v := ?_) rfl (by kernel_rfl) (by kernel_rfl) (by kernel_rfl) (fun _ _ _ h => h) (Or.inl ⟨by rfl, ?_⟩) hHeld ?_
        rotate_left
        · intro w hSw
          try dsimp only at hSw
          go_simp
          try with_reducible rfl
        change wpAnyH _ _ _ _ _ _ _ (Act.put _ (some 73) _) _
        simp only [Act.put, List.setIfInBounds_toArray, List.set_cons_zero, List.set_cons_succ]
        refine wpAnyH_take (i := 23) (v := ?_) rfl (by kernel_rfl) (by kernel_rfl) (by kernel_rfl) (fun _ _ _ h => h) (Or.inl ⟨by rfl, ?_⟩) hHeld ?_
        rotate_left
        · intro w hSw
          try dsimp only at hSw
          go_simp
          try with_reducible rfl
        change wpAnyH _ _ _ _ _ _ _ (Act.put _ (some 74) _) _
        simp only [Act.put, List.setIfInBounds_toArray, List.set_cons_zero, List.set_cons_succ]
        obtain ⟨p0, p1, p2, p3, p4, p5, p6, p7, p8⟩ := three_prt T3
        obtain ⟨t0, t1, t2⟩ := three_flt T3
        obtain ⟨f0, f1, f2, f3, f4, f5, f6, f7, f8, u0, u1, u2⟩ := three_froz T3
        have T3' := Lib.hid T3
        clear T3
        refine wpAnyH_ready (rs := [25]) (by kernel_rfl) (by simp) ?_
        refine AllReadyH.cons rfl (fun K hK => ?_) AllReadyH.nil
        go_simp
        refine hK.out _ _ (three_9 T3'.out _ _ _ _ _ _ _ _ _) (fun hHeld => ?_)
        clear hK K
        refine wpAnyH_ready (rs := [26]) (by kernel_rfl) (by simp) ?_
        refine AllReadyH.cons rfl (fun K hK => ?_) AllReadyH.nil
        go_simp
        refine hK.out _ _ (three_12 T3'.out _ _ _ _ _ _ _ _ _ _ _ _) (fun hHeld => ?_)
        clear hK K
        refine wpAnyH_done (by kernel_rfl) ?_ _
        go_wp2
        rw [show IntKind.i64.wrap 0 = ((0 : Nat) : Int) from rfl]
        go_meet
        case rel => exact ptcut_mk T3'.out HSZ'.out hb3 (own_more hr3.1 hd.size)
      case rest =>
        obtain ⟨Ax, cx, h1, h2, hro, hbx⟩ := hcut
        have HN := Lib.hid (PtCut.post (pad := 0) (E := bit F 0) (Q := bit F 2) HG.out HSZ'.out HBL.out hro hbx)
        have p0 := cell_of_row _ _ 0 _ 28 _ h1
        have p1 := cell_of_row _ _ 1 _ 28 _ h1
        have p2 := cell_of_row _ _ 2 _ 28 _ h1
        have p3 := cell_of_row _ _ 3 _ 28 _ h1
        have p4 := cell_of_row _ _ 4 _ 28 _ h1
        have p5 := cell_of_row _ _ 5 _ 28 _ h1
        have p6 := cell_of_row _ _ 6 _ 28 _ h1
        have p7 := cell_of_row _ _ 7 _ 28 _ h1
        have p8 := cell_of_row _ _ 8 _ 28 _ h1
        have t0 := cell_of_row _ _ 0 _ 30 _ h2
        have t1 := cell_of_row _ _ 1 _ 30 _ h2
        have t2 := cell_of_row _ _ 2 _ 30 _ h2
        rw [← HP.out] at HN
        clear HP x0 x1 x2 x3 h1 h2 hro hbx
        go_wp2
        refine bodyPost_ret (v := .tuple #[.agg #[.slice Ax X.length cx, .int .i64 ((0 : Nat) : Int), .int .i64 0, .int .i64 0, .int .i64 0, .slice none 0 0, .bool (bit F 0), .bool false, .bool (bit F 2)], .agg #[.bool false, .bool false, .int .i64 0]]) (by simp [results, Try.results22, go_sem, p0, p1, p2, p3, p4, p5, p6, p7, p8, t0, t1, t2]) rfl HN.out
    | true =>
      rw [h5] at e32
      by_cases h55 : n < 5
      · have k5 : (n : Int) < 5 := by omega
        have HNE := Lib.hid (fun W hb => HNO.out W 6 true hb (by rw [hpad, prior, if_pos ⟨rfl, h5⟩, if_pos (by omega)]))
        clear HNO hrl hAT1 hc1 hmk hpad h5 h55
        go_enter Try.func22, Try.ntmps22
        go_upto_region 1 with fail
        rw [← HW.out, ← HG.out]
        go_wp2_with fail
        with_reducible refine (rfault_any 6 true w1).mono ?_
        rintro e w2 ⟨rfl, hb2⟩
        have T2 := HT.out.up hb2
        obtain ⟨p0, p1, p2, p3, p4, p5, p6, p7, p8⟩ := three_prt T2
        obtain ⟨t0, t1, t2⟩ := three_flt T2
        obtain ⟨f0, f1, f2, f3, f4, f5, f6, f7, f8, u0, u1, u2⟩ := three_froz T2
        have HN := HNE.out w2 hb2
        rw [show ((6 : Nat) : Int) = 6 from rfl] at HN
        replace HN := Lib.hid HN
        clear HNE T2 x0 x1 x2 x3
        go_wp2
        refine bodyPost_ret (v := .tuple #[.agg #[.slice none 0 0, .int .i64 0, .int .i64 0, .int .i64 0, .int .i64 0, .slice none 0 0, .bool false, .bool false, .bool false], .agg #[.bool true, .bool true, .int .i64 6]]) (by simp [results, Try.results22, go_sem, p0, p1, p2, p3, p4, p5, p6, p7, p8, t0, t1, t2]) rfl HN.out
      · have k5 : ¬ (n : Int) < 5 := by omega
        have heq : padded (⟨1, F, S, l⟩ : Frm) = padIn ⟨1, F, S, l⟩ 0 0 ((l).drop 5) := by
          rw [hpad, prior, if_pos ⟨rfl, h5⟩, if_neg (by omega)]
        have hcap5 : n ≤ c := by omega
        obtain ⟨m2, hm2⟩ : ∃ m2, m2 = n - 5 := ⟨_, rfl⟩
        obtain ⟨k2, hk2⟩ : ∃ k2, k2 = c - 5 := ⟨_, rfl⟩
        obtain ⟨A2, hA2⟩ : ∃ A2, A2 = cutAt A c 5 := ⟨_, rfl⟩
        have hrl2 : ((l).drop 5).length = m2 := by rw [List.length_drop]; omega
        have hs5 := fun (W : World) => slice_l A n c 5 m2 W (by omega) hm2.symm
        rw [← hA2, ← hk2, show ((5 : Nat) : Int) = 5 from rfl] at hs5
        have hAT2 : ∀ W, Below w1.heap.size w1 W → At .u8 W W.heap.size A2 ((l).drop 5) := fun W hb => by
          rw [hA2]
          exact (hAT1 W hb).drop (by omega)
        have hmk2 : m2 ≤ k2 := by omega
        have hm25 : m2 ≤ 100000 := by omega
        have hc2 : A2 = none → k2 = 0 := fun h => by rw [hA2] at h; have := cutAt_none hc1 h; omega
        have i5n : (5 : Int) ≤ (n : Int) := by omega
        clear h5 h55
        have e1 := and_is F 0 (by omega)
        rw [show ((2 ^ 0 : Nat) : Int) = 1 from rfl] at e1
        have e4 := and_is F 2 (by omega)
        rw [show ((2 ^ 2 : Nat) : Int) = 4 from rfl] at e4
        obtain ⟨q, hq⟩ : ∃ q, q = m2 - 0 := ⟨_, rfl⟩
        have hp : padded (⟨1, F, S, l⟩ : Frm) = (⟨((l).drop 5).take q, 0, 0, 0, 0, [], bit F 0, false, bit F 2⟩, noFlt) := by
          rw [heq, padIn, if_neg (by omega), hrl2, ← hq]
          rfl
        obtain ⟨X, hX⟩ : ∃ X, X = ((l).drop 5).take q := ⟨_, rfl⟩
        obtain ⟨A3, hA3⟩ : ∃ A3, A3 = cutAt A2 k2 0 := ⟨_, rfl⟩
        have hsl := fun (W : World) => slice_h A2 m2 k2 q W (by omega)
        have HCP : Hid (∀ W, Below w1.heap.size w1 W → Calls Try.prog 25 #[.slice A3 q k2] W (RowPost W.heap.size W X)) := Lib.hid (fun W hb => by
          rw [hA3, hX]
          exact copy_any _ (((l).drop 5).take q) q k2 W ((hAT2 W hb).take (by omega)) (by rw [List.length_take]; omega) (fun h => by have := cutAt_none hc2 h; omega) (by omega))
        rw [← hX] at hp
        have HP := Lib.hid hp
        clear hp
        rw [← hA3] at hsl
        have i0n : (0 : Int) ≤ (q : Int) := by omega
        have icn : (q : Int) ≤ (k2 : Int) := by omega
        have ewn : IntKind.i64.wrap (q : Int) = (q : Int) := i64_ofNat q (by omega)
        have hd : Below w1.heap.size w1 w1.drew := (Below.refl _ _).drew
        have hqm : q = m2 := by omega
        subst hqm
        have kn : ¬ (0 : Int) > (q : Int) := by omega
        have ewr : IntKind.i64.wrap ((q : Int) - 0) = (q : Int) := by rw [Int.sub_zero]; exact ewn
        clear HNO hrl hAT1 hc1 hmk heq hm2 hk2 hA2 hrl2 hAT2 hc2 hmk2 hcap5 hpad hX hA3 hq
        go_enter Try.func22, Try.ntmps22
        go_upto_region 1 with fail
        rw [← HW.out, ← HG.out]
        go_wp2_with fail
        go_cut [] (fun wx => PtCut w1 g X 0 (bit F 0) (bit F 2) wx)
        case first =>
          refine wp_region_held_drew (S := fun w' => w'.cell? ⟨g, 0, none⟩ = some (.int .i64 1) ∧ w'.cell? ⟨g, 1, none⟩ = some (.int .i64 F)) (by kernel_rfl) ⟨x0, x1⟩ (fun hHeld => ?_)
          refine wpAnyH_take (i := 0) (v := ?_) rfl (by kernel_rfl) (by kernel_rfl) (by kernel_rfl) (fun _ _ _ h => h) (Or.inl ⟨by rfl, ?_⟩) hHeld ?_
          rotate_left
          · intro w hSw
            try dsimp only at hSw
            go_simp
            try with_reducible rfl
          change wpAnyH _ _ _ _ _ _ _ (Act.put _ (some 51) _) _
          simp only [Act.put, List.setIfInBounds_toArray, List.set_cons_zero, List.set_cons_succ]
          refine wpAnyH_take (i := 1) (v := ?_) rfl (by kernel_rfl) (by kernel_rfl) (by kernel_rfl) (fun _ _ _ h => h) (Or.inl ⟨by rfl, ?_⟩) hHeld ?_
          rotate_left
          · intro w hSw
            try dsimp only at hSw
            go_simp
            try with_reducible rfl
          change wpAnyH _ _ _ _ _ _ _ (Act.put _ (some 52) _) _
          simp only [Act.put, List.setIfInBounds_toArray, List.set_cons_zero, List.set_cons_succ]
          refine wpAnyH_take (i := 2) (v := ?_) rfl (by kernel_rfl) (by kernel_rfl) (by kernel_rfl) (fun _ _ _ h => h) (Or.inl ⟨by rfl, ?_⟩) hHeld ?_
          rotate_left
          · intro w hSw
            try dsimp only at hSw
            go_simp
            try with_reducible rfl
          change wpAnyH _ _ _ _ _ _ _ (Act.put _ (some 53) _) _
          simp only [Act.put, List.setIfInBounds_toArray, List.set_cons_zero, List.set_cons_succ]
          refine wpAnyH_take (i := 3) (v := ?_) rfl (by kernel_rfl) (by kernel_rfl) (by kernel_rfl) (fun _ _ _ h => h) (Or.inl ⟨by rfl, ?_⟩) hHeld ?_
          rotate_left
          · intro w hSw
            try dsimp only at hSw
            go_simp
            try with_reducible rfl
          change wpAnyH _ _ _ _ _ _ _ (Act.put _ (some 54) _) _
          simp only [Act.put, List.setIfInBounds_toArray, List.set_cons_zero, List.set_cons_succ]
          refine wpAnyH_take (i := 4) (v := ?_) rfl (by kernel_rfl) (by kernel_rfl) (by kernel_rfl) (fun _ _ _ h => h) (Or.inl ⟨by rfl, ?_⟩) hHeld ?_
          rotate_left
          · intro w hSw
            try dsimp only at hSw
            go_simp
            try with_reducible rfl
          change wpAnyH _ _ _ _ _ _ _ (Act.put _ (some 55) _) _
          simp only [Act.put, List.setIfInBounds_toArray, List.set_cons_zero, List.set_cons_succ]
          refine wpAnyH_take (i := 5) (v := ?_) rfl (by kernel_rfl) (by kernel_rfl) (by kernel_rfl) (fun _ _ _ h => h) (Or.inl ⟨by rfl, ?_⟩) hHeld ?_
          rotate_left
          · intro w hSw
            try dsimp only at hSw
            go_simp
            try with_reducible rfl
          change wpAnyH _ _ _ _ _ _ _ (Act.put _ (some 56) _) _
          simp only [Act.put, List.setIfInBounds_toArray, List.set_cons_zero, List.set_cons_succ]
          refine wpAnyH_take (i := 7) (v := ?_) rfl (by kernel_rfl) (by kernel_rfl) (by kernel_rfl) (fun _ _ _ h => h) (Or.inl ⟨by rfl, ?_⟩) hHeld ?_
          rotate_left
          · intro w hSw
            try dsimp only at hSw
            go_simp
            try with_reducible rfl
          change wpAnyH _ _ _ _ _ _ _ (Act.put _ (some 58) _) _
          simp only [Act.put, List.setIfInBounds_toArray, List.set_cons_zero, List.set_cons_succ]
          refine wpAnyH_take (i := 8) (v := ?_) rfl (by kernel_rfl) (by kernel_rfl) (by kernel_rfl) (fun _ _ _ h => h) (Or.inl ⟨by rfl, ?_⟩) hHeld ?_
          rotate_left
          · intro w hSw
            try dsimp only at hSw
            go_simp
            try with_reducible rfl
          change wpAnyH _ _ _ _ _ _ _ (Act.put _ (some 59) _) _
          simp only [Act.put, List.setIfInBounds_toArray, List.set_cons_zero, List.set_cons_succ]
          refine wpAnyH_take (i := 9) (v := ?_) rfl (by kernel_rfl) (by kernel_rfl) (by kernel_rfl) (fun _ _ _ h => h) (Or.inl ⟨by rfl, ?_⟩) hHeld ?_
          rotate_left
          · intro w hSw
            try dsimp only at hSw
            go_simp
            try with_reducible rfl
          change wpAnyH _ _ _ _ _ _ _ (Act.put _ (some 60) _) _
          simp only [Act.put, List.setIfInBounds_toArray, List.set_cons_zero, List.set_cons_succ]
          refine wpAnyH_take (i := 10) (v := ?_) rfl (by kernel_rfl) (by kernel_rfl) (by kernel_rfl) (fun _ _ _ h => h) (Or.inl ⟨by rfl, ?_⟩) hHeld ?_
          rotate_left
          · intro w hSw
            try dsimp only at hSw
            go_simp
            try with_reducible rfl
          change wpAnyH _ _ _ _ _ _ _ (Act.put _ (some 61) _) _
          simp only [Act.put, List.setIfInBounds_toArray, List.set_cons_zero, List.set_cons_succ]
          refine wpAnyH_take (i := 11) (v := ?_) rfl (by kernel_rfl) (by kernel_rfl) (by kernel_rfl) (fun _ _ _ h => h) (Or.inl ⟨by rfl, ?_⟩) hHeld ?_
          rotate_left
          · intro w hSw
            try dsimp only at hSw
            go_simp
            try with_reducible rfl
          change wpAnyH _ _ _ _ _ _ _ (Act.put _ (some 62) _) _
          simp only [Act.put, List.setIfInBounds_toArray, List.set_cons_zero, List.set_cons_succ]
          refine wpAnyH_take (i := 12) (v := ?_) rfl (by kernel_rfl) (by kernel_rfl) (by kernel_rfl) (fun _ _ _ h => h) (Or.inl ⟨by rfl, ?_⟩) hHeld ?_
          rotate_left
          · intro w hSw
            try dsimp only at hSw
            go_simp
            try with_reducible rfl
          change wpAnyH _ _ _ _ _ _ _ (Act.put _ (some 63) _) _
          simp only [Act.put, List.setIfInBounds_toArray, List.set_cons_zero, List.set_cons_succ]
          refine wpAnyH_take (i := 13) (v := ?_) rfl (by kernel_rfl) (by kernel_rfl) (by kernel_rfl) (fun _ _ _ h => h) (Or.inl ⟨by rfl, ?_⟩) hHeld ?_
          rotate_left
          · intro w hSw
            try dsimp only at hSw
            go_simp
            try with_reducible rfl
          change wpAnyH _ _ _ _ _ _ _ (Act.put _ (some 64) _) _
          simp only [Act.put, List.setIfInBounds_toArray, List.set_cons_zero, List.set_cons_succ]
          refine wpAnyH_take (i := 14) (v := ?_) rfl (by kernel_rfl) (by kernel_rfl) (by kernel_rfl) (fun _ _ _ h => h) (Or.inl ⟨by rfl, ?_⟩) hHeld ?_
          rotate_left
          · intro w hSw
            try dsimp only at hSw
            go_simp
            try with_reducible rfl
          change wpAnyH _ _ _ _ _ _ _ (Act.put _ (some 65) _) _
          simp only [Act.put, List.setIfInBounds_toArray, List.set_cons_zero, List.set_cons_succ]
          refine wpAnyH_take (i := 15) (v := ?_) rfl (by kernel_rfl) (by kernel_rfl) (by kernel_rfl) (fun _ _ _ h => h) (Or.inl ⟨by rfl, ?_⟩) hHeld ?_
          rotate_left
          · intro w hSw
            try dsimp only at hSw
            go_simp
            try with_reducible rfl
          change wpAnyH _ _ _ _ _ _ _ (Act.put _ (some 66) _) _
          simp only [Act.put, List.setIfInBounds_toArray, List.set_cons_zero, List.set_cons_succ]
          refine wpAnyH_take (i := 16) (v := .bool true) rfl (by kernel_rfl) (by kernel_rfl) (by kernel_rfl) (fun _ _ _ h => h) (Or.inl ⟨by rfl, ?_⟩) hHeld ?_
          · intro w hSw
            try dsimp only at hSw
            go_simp
            try simp
            try omega
          change wpAnyH _ _ _ _ _ _ _ (Act.put _ (some 67) _) _
          simp only [Act.put, List.setIfInBounds_toArray, List.set_cons_zero, List.set_cons_succ]
          refine wpAnyH_take (i := 24) (v := ?_) rfl (by kernel_rfl) (by kernel_rfl) (by kernel_rfl) (fun _ _ _ h => h) (Or.inl ⟨by rfl, ?_⟩) hHeld ?_
          rotate_left
          · intro w hSw
            try dsimp only at hSw
            go_simp
            try with_reducible rfl
          change wpAnyH _ _ _ _ _ _ _ (Act.put _ (some 75) _) _
          simp only [Act.put, List.setIfInBounds_toArray, List.set_cons_zero, List.set_cons_succ]
          refine wpAnyH_ready (rs := [6]) (by kernel_rfl) (by simp) ?_
          refine AllReadyH.cons rfl (fun K hK => ?_) AllReadyH.nil
          go_simp
          with_reducible refine (HCP.out _ hd).mono ?_
          rintro e w3 ⟨v3, rfl, hr3⟩
          obtain ⟨Ax, cx, hvx⟩ := own_shape hr3.1
          subst hvx
          have hb3 : Below w1.heap.size w1 w3 := hd.trans (hr3.2.mono hd.size)
          have T3 := HT.out.up hb3
          refine hK.out _ _ ⟨(three_frm T3).1, (three_frm T3).2.1⟩ (fun hHeld => ?_)
          clear hK K
          refine wpAnyH_take (i := 17) (v := ?_) rfl (by kernel_rfl) (by kernel_rfl) (by kernel_rfl) (fun _ _ _ h => h) (Or.inl ⟨by rfl, ?_⟩) hHeld ?_
          rotate_left
          · intro w hSw
            try dsimp only at hSw
            go_simp
            try with_reducible rfl
          change wpAnyH _ _ _ _ _ _ _ (Act.put _ (some 68) _) _
          simp only [Act.put, List.setIfInBounds_toArray, List.set_cons_zero, List.set_cons_succ]
          refine wpAnyH_take (i := 18) (v := ?_) rfl (by kernel_rfl) (by kernel_rfl) (by kernel_rfl) (fun _ _ _ h => h) (Or.inl ⟨by rfl, ?_⟩) hHeld ?_
          rotate_left
          · intro w hSw
            try dsimp only at hSw
            go_simp
            try with_reducible rfl
          change wpAnyH _ _ _ _ _ _ _ (Act.put _ (some 69) _) _
          simp only [Act.put, List.setIfInBounds_toArray, List.set_cons_zero, List.set_cons_succ]
          refine wpAnyH_take (i := 19) (v := ?_) rfl (by kernel_rfl) (by kernel_rfl) (by kernel_rfl) (fun _ _ _ h => h) (Or.inl ⟨by rfl, ?_⟩) hHeld ?_
          rotate_left
          · intro w hSw
            try dsimp only at hSw
            go_simp
            try with_reducible rfl
          change wpAnyH _ _ _ _ _ _ _ (Act.put _ (some 70) _) _
          simp only [Act.put, List.setIfInBounds_toArray, List.set_cons_zero, List.set_cons_succ]
          refine wpAnyH_take (i := 20) (v := ?_) rfl (by kernel_rfl) (by kernel_rfl) (by kernel_rfl) (fun _ _ _ h => h) (Or.inl ⟨by rfl, ?_⟩) hHeld ?_
          rotate_left
          · intro w hSw
            try dsimp only at hSw
            go_simp
            try with_reducible rfl
          change wpAnyH _ _ _ _ _ _ _ (Act.put _ (some 71) _) _
          simp only [Act.put, List.setIfInBounds_toArray, List.set_cons_zero, List.set_cons_succ]
          refine wpAnyH_take (i := 21) (v := ?_) rfl (by kernel_rfl) (by kernel_rfl) (by kernel_rfl) (fun _ _ _ h => h) (Or.inl ⟨by rfl, ?_⟩) hHeld ?_
          rotate_left
          · intro w hSw
            try dsimp only at hSw
            go_simp
            try with_reducible rfl
          change wpAnyH _ _ _ _ _ _ _ (Act.put _ (some 72) _) _
          simp only [Act.put, List.setIfInBounds_toArray, List.set_cons_zero, List.set_cons_succ]
          refine wpAnyH_take (i := 22) (v := ?_) rfl (by kernel_rfl) (by kernel_rfl) (by kernel_rfl) (fun _ _ _ h => h) (Or.inl ⟨by rfl, ?_⟩) hHeld ?_
          rotate_left
          · intro w hSw
            try dsimp only at hSw
            go_simp
            try with_reducible rfl
          change wpAnyH _ _ _ _ _ _ _ (Act.put _ (some 73) _) _
          simp only [Act.put, List.setIfInBounds_toArray, List.set_cons_zero, List.set_cons_succ]
          refine wpAnyH_take (i := 23) (v := ?_) rfl (by kernel_rfl) (by kernel_rfl) (by kernel_rfl) (fun _ _ _ h => h) (Or.inl ⟨by rfl, ?_⟩) hHeld ?_
          rotate_left
          · intro w hSw
            try dsimp only at hSw
            go_simp
            try with_reducible rfl
          change wpAnyH _ _ _ _ _ _ _ (Act.put _ (some 74) _) _
          simp only [Act.put, List.setIfInBounds_toArray, List.set_cons_zero, List.set_cons_succ]
          obtain ⟨p0, p1, p2, p3, p4, p5, p6, p7, p8⟩ := three_prt T3
          obtain ⟨t0, t1, t2⟩ := three_flt T3
          obtain ⟨f0, f1, f2, f3, f4, f5, f6, f7, f8, u0, u1, u2⟩ := three_froz T3
          have T3' := Lib.hid T3
          clear T3
          refine wpAnyH_ready (rs := [25]) (by kernel_rfl) (by simp) ?_
          refine AllReadyH.cons rfl (fun K hK => ?_) AllReadyH.nil
          go_simp
          refine hK.out _ _ (three_9 T3'.out _ _ _ _ _ _ _ _ _) (fun hHeld => ?_)
          clear hK K
          refine wpAnyH_ready (rs := [26]) (by kernel_rfl) (by simp) ?_
          refine AllReadyH.cons rfl (fun K hK => ?_) AllReadyH.nil
          go_simp
          refine hK.out _ _ (three_12 T3'.out _ _ _ _ _ _ _ _ _ _ _ _) (fun hHeld => ?_)
          clear hK K
          refine wpAnyH_done (by kernel_rfl) ?_ _
          go_wp2
          rw [show IntKind.i64.wrap 0 = ((0 : Nat) : Int) from rfl]
          go_meet
          case rel => exact ptcut_mk T3'.out HSZ'.out hb3 (own_more hr3.1 hd.size)
        case rest =>
          obtain ⟨Ax, cx, h1, h2, hro, hbx⟩ := hcut
          have HN := Lib.hid (PtCut.post (pad := 0) (E := bit F 0) (Q := bit F 2) HG.out HSZ'.out HBL.out hro hbx)
          have p0 := cell_of_row _ _ 0 _ 28 _ h1
          have p1 := cell_of_row _ _ 1 _ 28 _ h1
          have p2 := cell_of_row _ _ 2 _ 28 _ h1
          have p3 := cell_of_row _ _ 3 _ 28 _ h1
          have p4 := cell_of_row _ _ 4 _ 28 _ h1
          have p5 := cell_of_row _ _ 5 _ 28 _ h1
          have p6 := cell_of_row _ _ 6 _ 28 _ h1
          have p7 := cell_of_row _ _ 7 _ 28 _ h1
          have p8 := cell_of_row _ _ 8 _ 28 _ h1
          have t0 := cell_of_row _ _ 0 _ 30 _ h2
          have t1 := cell_of_row _ _ 1 _ 30 _ h2
          have t2 := cell_of_row _ _ 2 _ 30 _ h2
          rw [← HP.out] at HN
          clear HP x0 x1 x2 x3 h1 h2 hro hbx
          go_wp2
          refine bodyPost_ret (v := .tuple #[.agg #[.slice Ax X.length cx, .int .i64 ((0 : Nat) : Int), .int .i64 0, .int .i64 0, .int .i64 0, .slice none 0 0, .bool (bit F 0), .bool false, .bool (bit F 2)], .agg #[.bool false, .bool false, .int .i64 0]]) (by simp [results, Try.results22, go_sem, p0, p1, p2, p3, p4, p5, p6, p7, p8, t0, t1, t2]) rfl HN.out
end Go.Proofs.Ytelbldhnlmggiaa
