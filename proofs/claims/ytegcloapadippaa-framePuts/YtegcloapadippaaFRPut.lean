/- Contract of the reference's Put. -/
import Derived.Test.YtegcloapadippaaFNum
import Derived.Test.YtegcloapadippaaFRSame
import Derived.Test.YtegcloapadippaaLStep
namespace Go.Proofs.Ytegcloapadippaa
open Go.RowKit Fr

/-- What Put hands back: bytes in new memory, what went wrong. -/
def FpPost (w : World) (r : List Nat × Nat) (e : Ending) (w' : World) : Prop := ∃ A c, e = .returned (.tuple #[.slice A r.1.length c, .int .i64 ((r.2 : Nat) : Int)]) ∧ At .u8 w' w'.heap.size A r.1 ∧ (A = none → c = 0) ∧ r.1.length ≤ c ∧ (∀ b o s, A = some ⟨b, o, s⟩ → w.heap.size ≤ b) ∧ Below w.heap.size w w'
set_option maxRecDepth 100000 in
set_option maxHeartbeats 4000000 in
theorem rfput_range (f : Frm) (A : Option Addr) (c : Nat) (w : World) (hr : ¬ f.in_) : Calls Try.prog 11 #[frm f A c] w (FpPost w (put f)) := by
  have HP : Hid (put f = ([], 1)) := Lib.hid (by rw [put, if_neg hr])
  unfold frm
  obtain ⟨k, fl, s, b⟩ := f
  simp only [Frm.in_] at hr ⊢
  obtain ⟨n, hn⟩ : ∃ n, n = b.length := ⟨_, rfl⟩
  rw [← hn]
  have HN := Lib.hid hn
  have hbb : Below w.heap.size w (w.alloc (.cells #[.int .i64 k, .int .i64 fl, .int .i64 s, .slice A n c] 30)) := (Below.refl _ _).alloc (Nat.le_refl _) _
  have HFIN : Hid (FpPost w (put ⟨k, fl, s, b⟩) (.returned (.tuple #[.slice none 0 0, .int .i64 1])) (w.alloc (.cells #[.int .i64 k, .int .i64 fl, .int .i64 s, .slice A n c] 30))) := Lib.hid (by
    rw [HP.out]
    exact ⟨none, 0, rfl, at_nil _ _ _ _, fun _ => rfl, Nat.le_refl _, fun b o s h => (by cases h), hbb⟩)
  clear hn hbb
  rcases (show k < 0 ∨ (¬ k < 0 ∧ 255 < k) ∨ (¬ k < 0 ∧ ¬ 255 < k ∧ fl < 0) ∨ (¬ k < 0 ∧ ¬ 255 < k ∧ ¬ fl < 0 ∧ 255 < fl) ∨ (¬ k < 0 ∧ ¬ 255 < k ∧ ¬ fl < 0 ∧ ¬ 255 < fl ∧ s < 0) ∨ (¬ k < 0 ∧ ¬ 255 < k ∧ ¬ fl < 0 ∧ ¬ 255 < fl ∧ ¬ s < 0 ∧ 2147483647 < s) by omega) with h1 | ⟨h1, h2⟩ | ⟨h1, h2, h3⟩ | ⟨h1, h2, h3, h4⟩ | ⟨h1, h2, h3, h4, h5⟩ | ⟨h1, h2, h3, h4, h5, h6⟩
  all_goals
    clear hr
    go_enter Try.func11, Try.ntmps11
    go_wp2
    go_ret2
    exact HFIN.out
set_option maxRecDepth 100000 in
set_option maxHeartbeats 4000000 in
theorem rfput_long (f : Frm) (A : Option Addr) (c : Nat) (w : World) (hr : f.in_) (hl : 16777216 ≤ f.body.length) : Calls Try.prog 11 #[frm f A c] w (FpPost w (put f)) := by
  have HP : Hid (put f = ([], 3)) := Lib.hid (by rw [put, if_pos hr, if_pos hl])
  unfold frm
  obtain ⟨k, fl, s, b⟩ := f
  simp only [Frm.in_] at hr hl ⊢
  obtain ⟨n, hn⟩ : ∃ n, n = b.length := ⟨_, rfl⟩
  rw [← hn] at hl ⊢
  have hbb : Below w.heap.size w (w.alloc (.cells #[.int .i64 k, .int .i64 fl, .int .i64 s, .slice A n c] 30)) := (Below.refl _ _).alloc (Nat.le_refl _) _
  have HFIN : Hid (FpPost w (put ⟨k, fl, s, b⟩) (.returned (.tuple #[.slice none 0 0, .int .i64 3])) (w.alloc (.cells #[.int .i64 k, .int .i64 fl, .int .i64 s, .slice A n c] 30))) := Lib.hid (by
    rw [HP.out]
    exact ⟨none, 0, rfl, at_nil _ _ _ _, fun _ => rfl, Nat.le_refl _, fun b o s h => (by cases h), hbb⟩)
  have h1 : ¬ k < 0 := by omega
  have h2 : ¬ 255 < k := by omega
  have h3 : ¬ fl < 0 := by omega
  have h4 : ¬ 255 < fl := by omega
  have h5 : ¬ s < 0 := by omega
  have h6 : ¬ 2147483647 < s := by omega
  have h7 : (16777216 : Int) ≤ (n : Int) := by omega
  clear hn hbb hr hl
  go_enter Try.func11, Try.ntmps11
  go_wp2
  go_ret2
  exact HFIN.out
set_option maxRecDepth 100000 in
set_option maxHeartbeats 8000000 in
theorem rfput_ok (f : Frm) (A : Option Addr) (c : Nat) (w : World) (hr : f.in_) (hl : f.body.length ≤ 100000) (hb0 : ∀ x ∈ f.body, x < 256) (hA : At .u8 w w.heap.size A f.body) (hA0 : A = none → c = 0) (hc : f.body.length ≤ c) : Calls Try.prog 11 #[frm f A c] w (FpPost w (put f)) := by
  have HP : Hid (put f = (num f.body.length 3 ++ [f.kind.toNat, f.flags.toNat] ++ num f.stream.toNat 4 ++ f.body, 0)) := Lib.hid (by rw [put, if_pos hr, if_neg (by omega), head]; simp only [List.append_assoc])
  unfold frm
  obtain ⟨k, fl, s, b⟩ := f
  simp only [Frm.in_] at hr hl hA hc HP ⊢
  obtain ⟨K, rfl⟩ : ∃ K : Nat, k = (K : Int) := ⟨k.toNat, by omega⟩
  obtain ⟨F, rfl⟩ : ∃ K : Nat, fl = (K : Int) := ⟨fl.toNat, by omega⟩
  obtain ⟨S, rfl⟩ : ∃ K : Nat, s = (K : Int) := ⟨s.toNat, by omega⟩
  obtain ⟨n, hn⟩ : ∃ n, n = b.length := ⟨_, rfl⟩
  rw [← hn, Int.toNat_natCast, Int.toNat_natCast, Int.toNat_natCast] at HP
  rw [← hn] at hl hc ⊢
  obtain ⟨g, hg⟩ : ∃ g, g = w.heap.size := ⟨_, rfl⟩
  obtain ⟨wa, hwa⟩ : ∃ wa, wa = w.alloc (.cells #[.int .i64 (K : Int), .int .i64 (F : Int), .int .i64 (S : Int), .slice A n c] 30) := ⟨_, rfl⟩
  have hba : Below w.heap.size w wa := by rw [hwa]; exact (Below.refl _ _).alloc (Nat.le_refl _) _
  have hha : wa.heap[g]? = some (.cells #[.int .i64 (K : Int), .int .i64 (F : Int), .int .i64 (S : Int), .slice A n c] 30 (0, 0)) := by rw [hwa, hg]; exact heap_alloc_new w _
  have x0 : wa.cell? ⟨g, 0, none⟩ = some (.int .i64 (K : Int)) := cell_of_row _ g 0 _ 30 _ hha
  have x1 : wa.cell? ⟨g, 1, none⟩ = some (.int .i64 (F : Int)) := cell_of_row _ g 1 _ 30 _ hha
  have x2 : wa.cell? ⟨g, 2, none⟩ = some (.int .i64 (S : Int)) := cell_of_row _ g 2 _ 30 _ hha
  have x3 : wa.cell? ⟨g, 3, none⟩ = some (.slice A n c) := cell_of_row _ g 3 _ 30 _ hha
  have h1 : ¬ (K : Int) < 0 := by omega
  have h2 : ¬ (255 : Int) < (K : Int) := by omega
  have h3 : ¬ (F : Int) < 0 := by omega
  have h4 : ¬ (255 : Int) < (F : Int) := by omega
  have h5 : ¬ (S : Int) < 0 := by omega
  have h6 : ¬ (2147483647 : Int) < (S : Int) := by omega
  have h7 : ¬ (16777216 : Int) ≤ (n : Int) := by omega
  have wk : IntKind.u8.wrap (K : Int) = (K : Int) := by rw [IntKind.wrap_u8']; omega
  have wf : IntKind.u8.wrap (F : Int) = (F : Int) := by rw [IntKind.wrap_u8']; omega
  have HN3 := Lib.hid fun (W : World) => (show Calls Try.prog 21 #[.int .i64 (n : Int), .int .i64 3] W (RowPost W.heap.size W (num n 3)) from rnum_any n 3 W (by omega))
  have HN4 := Lib.hid fun (W : World) => (show Calls Try.prog 21 #[.int .i64 (S : Int), .int .i64 4] W (RowPost W.heap.size W (num S 4)) from rnum_any S 4 W (by omega))
  have HWA := Lib.hid hwa
  have hgl : g < wa.heap.size := by
    rcases Nat.lt_or_ge g wa.heap.size with h | h
    · exact h
    · rw [Array.getElem?_eq_none h] at hha; cases hha
  have HX := Lib.hid fun (W : World) (hb : Below wa.heap.size wa W) => (show W.cell? ⟨g, 0, none⟩ = some (.int .i64 (K : Int)) ∧ W.cell? ⟨g, 1, none⟩ = some (.int .i64 (F : Int)) ∧ W.cell? ⟨g, 3, none⟩ = some (.slice A n c) from ⟨(hb.cell (p := ⟨g, 0, none⟩) hgl).trans x0, (hb.cell (p := ⟨g, 1, none⟩) hgl).trans x1, (hb.cell (p := ⟨g, 3, none⟩) hgl).trans x3⟩)
  have HX2 := Lib.hid fun (W : World) (hb : Below wa.heap.size wa W) => (show W.cell? ⟨g, 2, none⟩ = some (.int .i64 (S : Int)) ∧ W.cell? ⟨g, 3, none⟩ = some (.slice A n c) from ⟨(hb.cell (p := ⟨g, 2, none⟩) hgl).trans x2, (hb.cell (p := ⟨g, 3, none⟩) hgl).trans x3⟩)
  have HG := Lib.hid hg
  have HA := Lib.hid hA
  have HBA := Lib.hid hba
  have HC := Lib.hid hc
  have HN := Lib.hid hn
  have HB := Lib.hid hb0
  clear hr hn hwa hg hA hc hba hb0
  go_enter Try.func11, Try.ntmps11
  go_wp2
  rw [← HWA.out, ← HG.out]
  clear h1 h2 h3 h4 h5 h6 h7
  have hbd : Below wa.heap.size wa wa.drew := (Below.refl _ _).drew
  have hbq : Below wa.heap.size wa (wa.alloc (.cells #[.int .u8 (K : Int), .int .u8 (F : Int)] 5)).drew := ((Below.refl wa.heap.size wa).alloc (Nat.le_refl _) _).drew
  have hat : At .u8 (wa.alloc (.cells #[.int .u8 (K : Int), .int .u8 (F : Int)] 5)).drew (wa.alloc (.cells #[.int .u8 (K : Int), .int .u8 (F : Int)] 5)).drew.heap.size (some ⟨wa.heap.size, 0, none⟩) [K, F] := (At.new (k := .u8) wa [K, F] 5 (0, 0)).up (Below.refl _ _).drew
  go_region_held3 (fun w' => w'.cell? ⟨g, 0, none⟩ = some (.int .i64 (K : Int)) ∧ w'.cell? ⟨g, 1, none⟩ = some (.int .i64 (F : Int)) ∧ w'.cell? ⟨g, 3, none⟩ = some (.slice A n c))
    (first
      | exact ⟨x0, x1, x3⟩
      | exact HX.out _ (Below.refl _ _).drew
      | exact HX.out _ hb1
      | exact HX.out _ hb2
      | exact HX.out _ hb3
      | exact HX.out _ (hb1.alloc hb1.size _)
      | exact HX.out _ hbq)
    (first
      | ((with_reducible refine (HN3.out wa.drew).mono ?_); rintro e w1 ⟨v1, rfl, hr1⟩; have hb1 : Below wa.heap.size wa w1 := hbd.trans (hr1.2.mono hbd.size))
      | ((with_reducible refine (HN3.out _).mono ?_); rintro e w1 ⟨v1, rfl, hr1⟩; have hb2 : Below wa.heap.size wa w1 := hbq.trans (hr1.2.mono hbq.size))
      | (refine step_appB rfl (.tmp 40) (.tmp 47) rfl wa.drew.heap.size v1 _ (num n 3) rfl (hr1.1.alloc _) ⟨w1.heap.size, 0, none⟩ [K, F] 2 rfl (new_cells w1 (cn .u8 [K, F]) 5) (by rw [num_len]; simp) (hr1.2.alloc hr1.2.size _).size ?_
         intro v2 w2 hown2 hg2
         have hb3 : Below wa.heap.size wa w2 := hbd.trans (((hr1.2.alloc hr1.2.size _).grown hg2 (hr1.2.alloc hr1.2.size _).size (own_block hr1.1)).mono hbd.size)
         have hrow3 : w2.ownsRow wa.heap.size 5 1 v2 5 (cn .u8 (num n 3 ++ [K, F])) := by rw [num_len] at hown2; exact own_more hown2 hbd.size)
      | (refine step_appB rfl (.tmp 40) (.tmp 47) rfl (wa.alloc (.cells #[.int .u8 (K : Int), .int .u8 (F : Int)] 5)).drew.heap.size v1 _ (num n 3) rfl hr1.1 ⟨wa.heap.size, 0, none⟩ [K, F] 2 rfl ((hat.up hr1.2).cells) (by rw [num_len]; simp) hr1.2.size ?_
         intro v2 w2 hown2 hg2
         have hb3 : Below wa.heap.size wa w2 := hbq.trans ((hr1.2.grown hg2 hr1.2.size (own_block hr1.1)).mono hbq.size)
         have hrow3 : w2.ownsRow wa.heap.size 5 1 v2 5 (cn .u8 (num n 3 ++ [K, F])) := by rw [num_len] at hown2; exact own_more hown2 hbq.size))
  all_goals
    obtain ⟨g4, c4, hv4, hg4, ho4⟩ := own_form hrow3 (by omega)
    subst hv4
    have HB3 := Lib.hid hb3
    have HO4 := Lib.hid ho4
    obtain ⟨y2, y3⟩ := HX2.out w2 hb3
    have hd : Below w2.heap.size w2 w2.drew := (Below.refl _ _).drew
    have HN5 := Lib.hid (HN4.out w2.drew)
    have HBL : Hid (b.length = n) := Lib.hid HN.out.symm
    clear x0 x1 x2 x3 hrow3 ho4 hb3 hown2 hg2 hr1 hat hbq hbd HN3 HN4
    go_wp2
    go_region_held3 (fun w' => w'.cell? ⟨g, 2, none⟩ = some (.int .i64 (S : Int)) ∧ w'.cell? ⟨g, 3, none⟩ = some (.slice A n c))
      (first
        | exact ⟨y2, y3⟩
        | exact HX2.out _ hb8
        | exact HX2.out _ hb7
        | exact HX2.out _ hb6)
      (first
        | ((with_reducible refine (HN5.out).mono ?_); rintro e w3 ⟨v3, rfl, hr3⟩; obtain ⟨g5, c5, hv5, hg5, ho5⟩ := own_form hr3.1 (by rw [num_len]; omega); subst hv5; have hb5 : Below w2.heap.size w2 w3 := hd.trans (hr3.2.mono hd.size); have hb6 : Below wa.heap.size wa w3 := HB3.out.trans (hb5.mono HB3.out.size))
        | (refine step_appA rfl (.tmp 49) (.tmp 52) rfl wa.heap.size _ 5 (num n 3 ++ [K, F]) rfl (own_keep HO4.out hb5) (some ⟨g5, 0, none⟩) (num S 4) _ c5 rfl rfl (fun h => by cases h) _ (At.of_own ho5) (by rw [num_len]; omega) hb6.size ?_
           intro v6 w6 hown6 hg6
           have hb7 : Below wa.heap.size wa w6 := hb6.grown hg6 hb6.size (own_block HO4.out))
        | (refine step_appA rfl (.tmp 53) (.tmp 55) rfl wa.heap.size _ _ (num n 3 ++ [K, F] ++ num S 4) rfl hown6 A b _ c HBL.out rfl hA0 _ (HA.out.up (HBA.out.trans (hb7.mono HBA.out.size))) (by rw [num_len, HBL.out]; omega) hb7.size ?_
           intro v8 w8 hown8 hg8
           have hb8 : Below wa.heap.size wa w8 := hb7.grown hg8 hb7.size (own_block hown6)))
    have HFIN : Hid (FpPost w (put ⟨K, F, S, b⟩) (.returned (.tuple #[v8, .int .i64 0])) w8) := Lib.hid (by
      rw [HP.out]
      have hl9 : (num n 3 ++ [K, F] ++ num S 4 ++ b).length = 5 + (num S 4).length + b.length := by simp only [List.length_append, num_len, List.length_cons, List.length_nil]
      rw [← hl9] at hown8
      have ho9 := own_more hown8 HBA.out.size
      obtain ⟨A8, c8, hv8⟩ := own_shape ho9
      subst hv8
      exact ⟨A8, c8, rfl, At.of_own ho9, own_none ho9, own_cap ho9, fun b o s e => by subst e; exact (ho9.lt b rfl).1, HBA.out.trans (hb8.mono HBA.out.size)⟩)
    clear hown8 hg8 hb8 hown6 hg6 hb7 hb6 hb5 ho5 hr3 y2 y3 hd
    go_wp2
    go_ret2
    exact HFIN.out
end Go.Proofs.Ytegcloapadippaa
