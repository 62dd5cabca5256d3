/- The landed Put. -/
import Derived.Test.YtegcloapadippaaLFSmall
import Derived.Test.YtegcloapadippaaFRPut
import Derived.Test.YtegcloapadippaaFNum
namespace Go.Proofs.Ytegcloapadippaa
open Go.RowKit Fr

theorem finbyte_yes {n : Int} (h : 0 ≤ n ∧ n ≤ 255) (w : World) : Calls Try.prog 20 #[.int .i64 n] w fun e w' => e = .returned (.bool true) ∧ w' = w := by
  have := finbyte n w
  rwa [decide_eq_true h] at this
theorem finbyte_no {n : Int} (h : ¬ (0 ≤ n ∧ n ≤ 255)) (w : World) : Calls Try.prog 20 #[.int .i64 n] w fun e w' => e = .returned (.bool false) ∧ w' = w := by
  have := finbyte n w
  rwa [decide_eq_false h] at this
set_option maxRecDepth 100000 in
set_option maxHeartbeats 4000000 in
theorem fput_range (f : Frm) (A : Option Addr) (c : Nat) (w : World) (hr : ¬ f.in_) : Calls Try.prog 10 #[frm f A c] w (FpPost w (put f)) := by
  have HP : Hid (put f = ([], 1)) := Lib.hid (by rw [put, if_neg hr])
  unfold frm
  obtain ⟨k, fl, s, b⟩ := f
  simp only [Frm.in_] at hr ⊢
  obtain ⟨n, hn⟩ : ∃ n, n = b.length := ⟨_, rfl⟩
  rw [← hn]
  obtain ⟨wa, hwa⟩ : ∃ wa, wa = w.alloc (.cells #[.int .i64 k, .int .i64 fl, .int .i64 s, .slice A n c] 30) := ⟨_, rfl⟩
  have hbb : Below w.heap.size w wa := by rw [hwa]; exact (Below.refl _ _).alloc (Nat.le_refl _) _
  have HFIN : Hid (FpPost w (put ⟨k, fl, s, b⟩) (.returned (.tuple #[.slice none 0 0, .int .i64 1])) wa) := Lib.hid (by
    rw [HP.out]
    exact ⟨none, 0, rfl, at_nil _ _ _ _, fun _ => rfl, Nat.le_refl _, fun b o s h => (by cases h), hbb⟩)
  have hha : wa.heap[w.heap.size]? = some (.cells #[.int .i64 k, .int .i64 fl, .int .i64 s, .slice A n c] 30 (0, 0)) := by rw [hwa]; exact heap_alloc_new w _
  obtain ⟨g, hg⟩ : ∃ g, g = w.heap.size := ⟨_, rfl⟩
  rw [← hg] at hha
  have x0 : wa.cell? ⟨g, 0, none⟩ = some (.int .i64 k) := cell_of_row _ g 0 _ 30 _ hha
  have x1 : wa.cell? ⟨g, 1, none⟩ = some (.int .i64 fl) := cell_of_row _ g 1 _ 30 _ hha
  have x2 : wa.cell? ⟨g, 2, none⟩ = some (.int .i64 s) := cell_of_row _ g 2 _ 30 _ hha
  have HWA := Lib.hid hwa
  have HG := Lib.hid hg
  clear hn hbb hha hwa hg
  by_cases hk : 0 ≤ k ∧ k ≤ 255
  · have HK := Lib.hid (finbyte_yes hk wa)
    by_cases hf : 0 ≤ fl ∧ fl ≤ 255
    · have HF := Lib.hid (finbyte_yes hf wa)
      by_cases hs : s < 0
      · clear hr hk hf
        go_enter Try.func10, Try.ntmps10
        go_wp2_with fail
        rw [← HWA.out, ← HG.out]
        with_reducible refine (HK.out).mono ?_
        rintro e w1 ⟨rfl, rfl⟩
        go_wp2_with fail
        with_reducible refine (HF.out).mono ?_
        rintro e w1 ⟨rfl, rfl⟩
        go_wp2
        go_ret2
        exact HFIN.out
      · have hs2 : 2147483647 < s := by
          rcases hr with hr
          omega
        clear hr hk hf
        go_enter Try.func10, Try.ntmps10
        go_wp2_with fail
        rw [← HWA.out, ← HG.out]
        with_reducible refine (HK.out).mono ?_
        rintro e w1 ⟨rfl, rfl⟩
        go_wp2_with fail
        with_reducible refine (HF.out).mono ?_
        rintro e w1 ⟨rfl, rfl⟩
        go_wp2
        go_ret2
        exact HFIN.out
    · have HF := Lib.hid (finbyte_no hf wa)
      clear hr hk hf
      go_enter Try.func10, Try.ntmps10
      go_wp2_with fail
      rw [← HWA.out, ← HG.out]
      with_reducible refine (HK.out).mono ?_
      rintro e w1 ⟨rfl, rfl⟩
      go_wp2_with fail
      with_reducible refine (HF.out).mono ?_
      rintro e w1 ⟨rfl, rfl⟩
      go_wp2
      go_ret2
      exact HFIN.out
  · have HK := Lib.hid (finbyte_no hk wa)
    clear hr hk
    go_enter Try.func10, Try.ntmps10
    go_wp2_with fail
    rw [← HWA.out, ← HG.out]
    with_reducible refine (HK.out).mono ?_
    rintro e w1 ⟨rfl, rfl⟩
    go_wp2
    go_ret2
    exact HFIN.out
set_option maxRecDepth 100000 in
set_option maxHeartbeats 8000000 in
theorem fput_ok (f : Frm) (A : Option Addr) (c : Nat) (w : World) (hr : f.in_) (hl : f.body.length ≤ 100000) (hA : At .u8 w w.heap.size A f.body) (hA0 : A = none → c = 0) : Calls Try.prog 10 #[frm f A c] w (FpPost w (put f)) := by
  have HP : Hid (put f = (num f.body.length 3 ++ [f.kind.toNat, f.flags.toNat] ++ num f.stream.toNat 4 ++ f.body, 0)) := Lib.hid (by rw [put, if_pos hr, if_neg (by omega), head]; simp only [List.append_assoc])
  unfold frm
  obtain ⟨k, fl, s, b⟩ := f
  simp only [Frm.in_] at hr hl hA HP ⊢
  obtain ⟨K, rfl⟩ : ∃ K : Nat, k = (K : Int) := ⟨k.toNat, by omega⟩
  obtain ⟨F, rfl⟩ : ∃ K : Nat, fl = (K : Int) := ⟨fl.toNat, by omega⟩
  obtain ⟨S, rfl⟩ : ∃ K : Nat, s = (K : Int) := ⟨s.toNat, by omega⟩
  obtain ⟨n, hn⟩ : ∃ n, n = b.length := ⟨_, rfl⟩
  rw [← hn, Int.toNat_natCast, Int.toNat_natCast, Int.toNat_natCast] at HP
  rw [← hn] at hl ⊢
  obtain ⟨g, hg⟩ : ∃ g, g = w.heap.size := ⟨_, rfl⟩
  obtain ⟨wa, hwa⟩ : ∃ wa, wa = w.alloc (.cells #[.int .i64 (K : Int), .int .i64 (F : Int), .int .i64 (S : Int), .slice A n c] 30) := ⟨_, rfl⟩
  have hba : Below w.heap.size w wa := by rw [hwa]; exact (Below.refl _ _).alloc (Nat.le_refl _) _
  have hha : wa.heap[g]? = some (.cells #[.int .i64 (K : Int), .int .i64 (F : Int), .int .i64 (S : Int), .slice A n c] 30 (0, 0)) := by rw [hwa, hg]; exact heap_alloc_new w _
  have hgl := lt_of_heapF hha
  have HX := Lib.hid fun (W : World) (hb : Below wa.heap.size wa W) => (show W.cell? ⟨g, 0, none⟩ = some (.int .i64 (K : Int)) ∧ W.cell? ⟨g, 1, none⟩ = some (.int .i64 (F : Int)) ∧ W.cell? ⟨g, 2, none⟩ = some (.int .i64 (S : Int)) ∧ W.cell? ⟨g, 3, none⟩ = some (.slice A n c) from ⟨(hb.cell (p := ⟨g, 0, none⟩) hgl).trans (cell_of_row _ g 0 _ 30 _ hha), (hb.cell (p := ⟨g, 1, none⟩) hgl).trans (cell_of_row _ g 1 _ 30 _ hha), (hb.cell (p := ⟨g, 2, none⟩) hgl).trans (cell_of_row _ g 2 _ 30 _ hha), (hb.cell (p := ⟨g, 3, none⟩) hgl).trans (cell_of_row _ g 3 _ 30 _ hha)⟩)
  obtain ⟨x0, x1, x2, x3⟩ := HX.out wa (Below.refl _ _)
  have HK := Lib.hid (finbyte_yes (n := (K : Int)) (by omega) wa)
  have HF := Lib.hid (finbyte_yes (n := (F : Int)) (by omega) wa)
  have h5 : ¬ (S : Int) < 0 := by omega
  have h6 : ¬ (2147483647 : Int) < (S : Int) := by omega
  have h7 : ¬ (16777215 : Int) < (n : Int) := by omega
  have wk : IntKind.u8.wrap (K : Int) = (K : Int) := by rw [IntKind.wrap_u8']; omega
  have wf : IntKind.u8.wrap (F : Int) = (F : Int) := by rw [IntKind.wrap_u8']; omega
  -- the bytes
  obtain ⟨P2, hP2⟩ : ∃ P, P = n / 65536 := ⟨_, rfl⟩
  obtain ⟨P1, hP1⟩ : ∃ P, P = n / 256 := ⟨_, rfl⟩
  obtain ⟨X2, hX2⟩ : ∃ x, x = P2 % 256 := ⟨_, rfl⟩
  obtain ⟨X1, hX1⟩ : ∃ x, x = P1 % 256 := ⟨_, rfl⟩
  obtain ⟨X0, hX0⟩ : ∃ x, x = n % 256 := ⟨_, rfl⟩
  have d2 : (n : Int) / 2 ^ 16 = (P2 : Int) := by rw [hP2]; simp
  have d2' : (n : Int) / 65536 = (P2 : Int) := by rw [hP2]; simp
  have d1 : (n : Int) / 2 ^ 8 = (P1 : Int) := by rw [hP1]; simp
  have d1' : (n : Int) / 256 = (P1 : Int) := by rw [hP1]; simp
  have u2 : IntKind.u8.wrap (P2 : Int) = (X2 : Int) := by rw [u8_low, hX2]
  have u1 : IntKind.u8.wrap (P1 : Int) = (X1 : Int) := by rw [u8_low, hX1]
  have u0 : IntKind.u8.wrap (n : Int) = (X0 : Int) := by rw [u8_low, hX0]
  obtain ⟨R3, hR3⟩ : ∃ P, P = S / 16777216 := ⟨_, rfl⟩
  obtain ⟨R2, hR2⟩ : ∃ P, P = S / 65536 := ⟨_, rfl⟩
  obtain ⟨R1, hR1⟩ : ∃ P, P = S / 256 := ⟨_, rfl⟩
  obtain ⟨Y3, hY3⟩ : ∃ x, x = R3 % 256 := ⟨_, rfl⟩
  obtain ⟨Y2, hY2⟩ : ∃ x, x = R2 % 256 := ⟨_, rfl⟩
  obtain ⟨Y1, hY1⟩ : ∃ x, x = R1 % 256 := ⟨_, rfl⟩
  obtain ⟨Y0, hY0⟩ : ∃ x, x = S % 256 := ⟨_, rfl⟩
  have r3 : (S : Int) / 2 ^ 24 = (R3 : Int) := by rw [hR3]; simp
  have r3' : (S : Int) / 16777216 = (R3 : Int) := by rw [hR3]; simp
  have r2 : (S : Int) / 2 ^ 16 = (R2 : Int) := by rw [hR2]; simp
  have r2' : (S : Int) / 65536 = (R2 : Int) := by rw [hR2]; simp
  have r1 : (S : Int) / 2 ^ 8 = (R1 : Int) := by rw [hR1]; simp
  have r1' : (S : Int) / 256 = (R1 : Int) := by rw [hR1]; simp
  have v3 : IntKind.u8.wrap (R3 : Int) = (Y3 : Int) := by rw [u8_low, hY3]
  have v2 : IntKind.u8.wrap (R2 : Int) = (Y2 : Int) := by rw [u8_low, hY2]
  have v1 : IntKind.u8.wrap (R1 : Int) = (Y1 : Int) := by rw [u8_low, hY1]
  have v0 : IntKind.u8.wrap (S : Int) = (Y0 : Int) := by rw [u8_low, hY0]
  have HN3 : Hid (num n 3 = [X2, X1, X0]) := Lib.hid (by
    rw [hX2, hX1, hX0, hP2, hP1]
    simp [num])
  have HN4 : Hid (num S 4 = [Y3, Y2, Y1, Y0]) := Lib.hid (by
    rw [hY3, hY2, hY1, hY0, hR3, hR2, hR1]
    simp [num])
  obtain ⟨q, hq⟩ : ∃ q, q = 9 + n := ⟨_, rfl⟩
  have eq : (9 : Int) + (n : Int) = (q : Int) := by omega
  have wq : IntKind.i64.wrap (q : Int) = (q : Int) := i64_ofNat q (by omega)
  have HQ : Hid (q ≤ 200000) := Lib.hid (by omega)
  have HWA := Lib.hid hwa
  have HG := Lib.hid hg
  have HA := Lib.hid hA
  have HA0 := Lib.hid hA0
  have HBA := Lib.hid hba
  have HN : Hid (b.length = n) := Lib.hid hn.symm
  have HNL : Hid (n ≤ 100000) := Lib.hid hl
  obtain ⟨i0, hi0, hz0, hz1, hz2⟩ := info_parts infoU8
  have HI := Lib.hid (And.intro hi0 (And.intro hz0 (And.intro hz1 hz2)))
  clear hr hn hwa hg hA hba hha hgl hP2 hP1 hX2 hX1 hX0 hR3 hR2 hR1 hY3 hY2 hY1 hY0 hq hA0 hl hi0 hz0 hz1 hz2
  go_enter Try.func10, Try.ntmps10
  go_wp2_with fail
  rw [← HWA.out, ← HG.out]
  with_reducible refine (HK.out).mono ?_
  rintro e w1 ⟨rfl, rfl⟩
  go_wp2_with fail
  with_reducible refine (HF.out).mono ?_
  rintro e w1 ⟨rfl, rfl⟩
  obtain ⟨wb, hwb⟩ : ∃ wb, wb = w1 := ⟨_, rfl⟩
  go_wp2_with (first
    | (at_make; refine wpList_make_own _ rfl _ _ 25 rfl w1.heap.size 5 i0 _ 1 Try.underlying25 HI.out.1 HI.out.2.1 HI.out.2.2.1 _ _ _ q rfl rfl rfl (by have := HI.out.2.2.2; have := HQ.out; rw [HI.out.2.2.2]; omega) (by have := HQ.out; unfold maxLen; omega) (Nat.le_refl _) ?_
       intro w2 hown2 hg2
       have hb2 : Below w1.heap.size w1 w2 := (Below.refl _ _).grown hg2 (Nat.le_refl _) (by simp))
    | (at_builtin; refine wpList_append_at rfl (.tmp 34) (.tmp 43) rfl w1.heap.size _ [] rfl (hown2.alloc _) (some ⟨w2.heap.size, 0, none⟩) [X2, X1, X0] _ 3 rfl rfl (fun h => by cases h) _ (At.new w2 [X2, X1, X0] 5 (0, 0)) (by simp) (by have := hb2.size; simp; omega) ?_
       intro v3 w3 hown3 hg3
       have hb3 : Below w1.heap.size w1 w3 := (hb2.alloc hb2.size _).grown hg3 (by have := hb2.size; simp; omega) (own_block hown2)
       have x0 := (HX.out w3 hb3).1
       have x1 := (HX.out w3 hb3).2.1)
    | (at_builtin; refine wpList_append_at rfl (.tmp 45) (.tmp 52) rfl w1.heap.size _ [X2, X1, X0] rfl (hown3.alloc _) (some ⟨w3.heap.size, 0, none⟩) [K, F] _ 2 rfl rfl (fun h => by cases h) _ (At.new w3 [K, F] 5 (0, 0)) (by simp) (by have := hb3.size; simp; omega) ?_
       intro v4 w4 hown4 hg4
       have hb4 : Below w1.heap.size w1 w4 := (hb3.alloc hb3.size _).grown hg4 (by have := hb3.size; simp; omega) (own_block hown3)
       have x2 := (HX.out w4 hb4).2.2.1)
    | (at_builtin; refine wpList_append_at rfl (.tmp 54) (.tmp 70) rfl w1.heap.size _ ([X2, X1, X0] ++ [K, F]) rfl (hown4.alloc _) (some ⟨w4.heap.size, 0, none⟩) [Y3, Y2, Y1, Y0] _ 4 rfl rfl (fun h => by cases h) _ (At.new w4 [Y3, Y2, Y1, Y0] 5 (0, 0)) (by simp) (by have := hb4.size; simp; omega) ?_
       intro v5 w5 hown5 hg5
       have hb5 : Below w1.heap.size w1 w5 := (hb4.alloc hb4.size _).grown hg5 (by have := hb4.size; simp; omega) (own_block hown4)
       have x3 := (HX.out w5 hb5).2.2.2)
    | (at_builtin; refine wpList_append_at rfl (.tmp 72) (.tmp 74) rfl w1.heap.size _ ([X2, X1, X0] ++ [K, F] ++ [Y3, Y2, Y1, Y0]) rfl hown5 A b _ c HN.out rfl HA0.out _ (HA.out.up (HBA.out.trans (hb5.mono HBA.out.size))) (by rw [HN.out]; have := HNL.out; simp; omega) hb5.size ?_
       intro v6 w6 hown6 hg6
       have hb6 : Below w1.heap.size w1 w6 := hb5.grown hg6 hb5.size (own_block hown5)))
  go_ret2
  rw [HP.out, HN3.out, HN4.out]
  obtain ⟨A6, c6, hv6⟩ := own_shape hown6
  subst hv6
  have ho6 := own_more hown6 HBA.out.size
  exact ⟨A6, c6, rfl, At.of_own ho6, own_none ho6, own_cap ho6, fun b o s e => by subst e; exact (ho6.lt b rfl).1, HBA.out.trans (hb6.mono HBA.out.size)⟩
theorem fput_any (f : Frm) (A : Option Addr) (c : Nat) (w : World) (hl : f.body.length ≤ 100000) (hA : At .u8 w w.heap.size A f.body) (hA0 : A = none → c = 0) : Calls Try.prog 10 #[frm f A c] w (FpPost w (put f)) := by
  by_cases h : f.in_
  · exact fput_ok f A c w h hl hA hA0
  · exact fput_range f A c w h
end Go.Proofs.Ytegcloapadippaa
