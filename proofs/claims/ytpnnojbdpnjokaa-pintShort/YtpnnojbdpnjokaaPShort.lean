/- The walk of PintShort. -/
import Derived.Test.YtpnnojbdpnjokaaPFirst
import Derived.Test.YtpnnojbdpnjokaaLIn
namespace Go.Proofs.Ytpnnojbdpnjokaa
open Go.RowKit Pn

/-- One byte new, behind a byte that is written. -/
theorem At.newSet (w : World) (p : Addr) (u : Value) (x : Nat) : At .u8 ((w.setCell p u).alloc (.cells #[.int .u8 (x : Int)] 5)) ((w.setCell p u).alloc (.cells #[.int .u8 (x : Int)] 5)).heap.size (some ⟨w.heap.size, 0, none⟩) [x] := by
  have h := At.new (k := .u8) (w.setCell p u) [x] 5 (0, 0)
  have e : (w.setCell p u).heap.size = w.heap.size := by simp [World.setCell]
  rw [e] at h
  exact h
namespace pintShort
set_option maxRecDepth 100000 in
set_option maxHeartbeats 4000000 in
theorem walk_err (b n : Int) (w : World) (hR : Rdy w) (hrb : Rng b) (hrn : Rng n) (hout : ¬ (1 ≤ b ∧ b ≤ 8 ∧ 0 ≤ n ∧ n ≤ 2147483647)) :
    Calls Try.prog 5 #[.int .i64 b, .int .i64 n] w (Yes w) := by
  have HR := Lib.hid hR
  have HRB := Lib.hid hrb
  have HRN := Lib.hid hrn
  have HP : Hid (putI 0 b n = ([], 1)) := Lib.hid (putI_out hout)
  have hor : b < 1 ∨ (¬ b < 1 ∧ 8 < b) ∨ (¬ b < 1 ∧ ¬ 8 < b ∧ n < 0) ∨ (¬ b < 1 ∧ ¬ 8 < b ∧ ¬ n < 0 ∧ 2147483647 < n) := by omega
  have HOR := Lib.hid hor
  clear hR hrb hrn hout hor
  go_enter Try.func5, Try.ntmps5
  go_wp2_with fail
  with_reducible refine (first_any w HR.out).mono ?_
  rintro e w1 ⟨rfl, hb1⟩
  go_wp2_with fail
  with_reducible refine (put0_f b n w1 (HR.out.below hb1) HRB.out HRN.out).mono ?_
  rw [HP.out]
  rintro e w2 ⟨A2, c2, rfl, _, _, _, hbn⟩
  have hb2 := hb1.trans (hbn.mono hb1.size)
  clear hb1 hbn
  rcases HOR.out with h | ⟨h1, h2⟩ | ⟨h1, h2, h3⟩ | ⟨h1, h2, h3, h4⟩
  all_goals
    go_wp2_with fail
    with_reducible refine (first_any w2 (HR.out.below hb2)).mono ?_
    rintro e w3 ⟨rfl, hbn⟩
    have hb3 := hb2.trans (hbn.mono hb2.size)
    clear hb2 hbn
    go_wp2_with fail
    go_ret
    exact ⟨rfl, hb3⟩
set_option maxRecDepth 100000 in
set_option maxHeartbeats 4000000 in
theorem walk_low (B n : Nat) (w : World) (hR : Rdy w) (hB1 : 1 ≤ B) (hB8 : B ≤ 8) (hn : n < full B) :
    Calls Try.prog 5 #[.int .i64 (B : Int), .int .i64 (n : Int)] w (Yes w) := by
  have HR := Lib.hid hR
  have hfb := full_bound hB8
  have hn31 : n ≤ 255 := by have := full_lt B; omega
  have HRB : Hid (Rng (B : Int)) := Lib.hid (by unfold Rng; omega)
  have HRN : Hid (Rng (n : Int)) := Lib.hid (by unfold Rng; omega)
  have HP : Hid (putI 0 (B : Int) (n : Int) = ([n], 0)) := Lib.hid (by
    rw [putI_in (by omega) (by omega), Int.toNat_natCast, Int.toNat_natCast, put, if_pos hn]
    simp [hd])
  obtain ⟨p, hp⟩ : ∃ p, p = 2 ^ B := ⟨_, rfl⟩
  have hp1 : 2 ≤ p := by rw [hp]; exact Nat.pow_le_pow_right (n := 2) (by decide) hB1
  have hp2 : p ≤ 256 := by rw [hp]; exact hfb
  have ep : ((2 : Int) ^ B) = (p : Int) := by rw [hp]; simp
  obtain ⟨F, hF⟩ : ∃ F, F = full B := ⟨_, rfl⟩
  have HF2 : Hid (F = p - 1) := Lib.hid (by rw [hF, hp, full])
  have eF : (p : Int) - 1 = (F : Int) := by have := HF2.out; omega
  have hnF : (n : Int) < (F : Int) := by rw [← hF] at hn; omega
  have su := u64_small B (by omega)
  have p1 : ((n : Int) == (n : Int)) = true := by simp
  clear hR hp hF hfb hn
  go_enter Try.func5, Try.ntmps5
  go_wp2_with fail
  with_reducible refine (first_any w HR.out).mono ?_
  rintro e w1 ⟨rfl, hb1⟩
  go_wp2_with fail
  with_reducible refine (put0_f B n w1 (HR.out.below hb1) HRB.out HRN.out).mono ?_
  rw [HP.out]
  rintro e w2 ⟨A2, c2, rfl, hat2, _, _, hbn⟩
  obtain ⟨bk, o, rfl, hbk, hcell⟩ := hat2.pos (by simp)
  have hb2 := hb1.trans (hbn.mono hb1.size)
  have cx2 : w2.cell? ⟨bk, o, none⟩ = some (.int .u8 (n : Int)) := by
    have h0 := hcell 0 (by simp)
    rwa [Nat.add_zero] at h0
  have HX2 := Lib.hid cx2
  clear hb1 hbn hat2 hcell cx2
  go_wp2_with fail
  with_reducible refine (first_any w2 (HR.out.below hb2)).mono ?_
  rintro e w3 ⟨rfl, hbn⟩
  have hb3 := hb2.trans (hbn.mono hb2.size)
  have cx : w3.cell? ⟨bk, o, none⟩ = some (.int .u8 (n : Int)) := (hbn.cell (p := ⟨bk, o, none⟩) hbk).trans HX2.out
  clear hb2 hbn
  go_wp2_with fail
  go_ret
  exact ⟨rfl, hb3⟩
def PsR (w : World) (F m : Nat) (v : Value) (wr : World) : Prop := ∃ f : Nat, nd m ≤ f ∧ f ≤ 4 ∧ Row w.heap.size w (F :: digs f m) v wr
set_option maxRecDepth 100000 in
set_option maxHeartbeats 8000000 in
theorem walk_high (B n : Nat) (w : World) (hR : Rdy w) (hB1 : 1 ≤ B) (hB8 : B ≤ 8) (hn : n ≤ 2147483647) (hlow : ¬ n < full B) :
    Calls Try.prog 5 #[.int .i64 (B : Int), .int .i64 (n : Int)] w (Yes w) := by
  have HR := Lib.hid hR
  have HRB : Hid (Rng (B : Int)) := Lib.hid (by unfold Rng; omega)
  have HRN : Hid (Rng (n : Int)) := Lib.hid (by unfold Rng; omega)
  obtain ⟨p, hp⟩ : ∃ p, p = 2 ^ B := ⟨_, rfl⟩
  have hp1 : 2 ≤ p := by rw [hp]; exact Nat.pow_le_pow_right (n := 2) (by decide) hB1
  have hp2 : p ≤ 256 := by rw [hp]; exact full_bound hB8
  have ep : ((2 : Int) ^ B) = (p : Int) := by rw [hp]; simp
  obtain ⟨F, hF⟩ : ∃ F, F = full B := ⟨_, rfl⟩
  obtain ⟨m, hm⟩ : ∃ m, m = n - F := ⟨_, rfl⟩
  obtain ⟨S, hS⟩ : ∃ S, S = F :: digs (nd m) m := ⟨_, rfl⟩
  have HS := Lib.hid hS
  have HP : Hid (putI 0 (B : Int) (n : Int) = (S, 0)) := Lib.hid (by
    rw [putI_in (by omega) (by omega), Int.toNat_natCast, Int.toNat_natCast, put, if_neg hlow, ← hF, ← hm, hS, grp]
    simp [hd])
  have hFp : F < p := by rw [hF, hp]; exact full_lt B
  have HFM : Hid (F % 2 ^ B = full B) := Lib.hid (by rw [hF]; exact Nat.mod_eq_of_lt (full_lt B))
  have HF2 : Hid (F = p - 1) := Lib.hid (by rw [hF, hp, full])
  have eF : (p : Int) - 1 = (F : Int) := by have := HF2.out; omega
  have hnF : ¬ (n : Int) < (F : Int) := by rw [← hF] at hlow; omega
  have hnm : F + m = n := by omega
  have HNM := Lib.hid hnm
  have HMB : Hid (m < 128 ^ 5) := Lib.hid (by omega)
  have HND : Hid (nd m ≤ 4) := Lib.hid (grp_nd (by omega))
  have su := u64_small B (by omega)
  have p1 : ((n : Int) == (n : Int)) = true := by simp
  obtain ⟨M, hM⟩ : ∃ M, M = S.length := ⟨_, rfl⟩
  have hM2 : M = nd m + 2 := by rw [hM, hS, List.length_cons, digs_len]
  have hM6 : M ≤ 6 ∧ 2 ≤ M := by have := HND.out; omega
  have HM := Lib.hid hM
  have HG1 : Hid (getI (F :: digs 4 m) (B : Int) = (n, 6, 0)) := Lib.hid (by
    rw [getI, if_neg (by omega), Int.toNat_natCast, get_long F B m HFM.out (by rw [← hF]; omega), ← hF, hnm])
  have HG2 : Hid (getI (F :: digs 5 m) (B : Int) = (0, 0, 1)) := Lib.hid (by
    rw [getI, if_neg (by omega), Int.toNat_natCast, get_over F B m HFM.out])
  have HBY : Hid (∀ f, f ≤ 5 → 4 ≤ f → ∀ x ∈ F :: digs f m, x < 256) := Lib.hid (fun f hf h4 x hx => by
    rw [List.mem_cons] at hx
    rcases hx with rfl | hx
    · omega
    · have : m < 128 ^ (f + 1) := Nat.lt_of_lt_of_le HMB.out (Nat.pow_le_pow_right (by decide) (by omega))
      exact digs_byte f m this x hx)
  -- one byte more behind
  have HPAD : Hid (∀ f, f ≤ 4 → nd m ≤ f → ∃ y, y < 128 ∧ (F :: digs f m)[f + 1]? = some y ∧ (F :: digs f m).set (f + 1) (y + 128) ++ [0] = F :: digs (f + 1) m) := Lib.hid (fun f _ hf => by
    have : m < 128 ^ (f + 1) := Nat.lt_of_lt_of_le (lt_nd m) (Nat.pow_le_pow_right (by decide) (by omega))
    obtain ⟨y, h1, h2, h3⟩ := digs_pad f m this
    exact ⟨y, h1, by simpa using h2, by rw [List.set_cons_succ, List.cons_append, h3]⟩)
  have q1 : ((M : Int) == 1) = false := by simp; omega
  clear hR hp hF hm hS hlow hnm hM hM2
  go_enter Try.func5, Try.ntmps5
  go_wp2_with fail
  with_reducible refine (first_any w HR.out).mono ?_
  rintro e w1 ⟨rfl, hb1⟩
  go_wp2_with fail
  with_reducible refine (put0_f B n w1 (HR.out.below hb1) HRB.out HRN.out).mono ?_
  rw [HP.out]
  rintro e w2 ⟨A2, c2, rfl, hat2, hc2, hnc2, hbn⟩
  simp only [] at hat2 hnc2 ⊢
  rw [← HM.out] at hnc2 ⊢
  have hb2 := hb1.trans (hbn.mono hb1.size)
  have HC2 := Lib.hid hc2
  have hown0 := Lib.hid (own_empty w2 w2.heap.size (Nat.le_refl _))
  have hA0 : At .u8 (w2.alloc (.cells #[] 5)) w2.heap.size A2 S := hat2.below ((Below.refl _ _).alloc (Nat.le_refl _) _) (Nat.le_refl _)
  have HA0 := Lib.hid hA0
  clear hb1 hbn hat2 hc2 hA0
  go_wp2_with (at_builtin; refine wpList_append_at rfl (.tmp 79) (.tmp 80) rfl w2.heap.size _ [] rfl hown0.out A2 S _ c2 HM.out.symm rfl HC2.out _ HA0.out ?_ ?_ ?_; (rotate_right; intro v4 w4 hown4 hg4))
  · have hb24 : Below w2.heap.size w2 w4 := ((Below.refl _ _).alloc (Nat.le_refl _) _).grown hg4 (by simp) (own_block hown0.out)
    rw [List.nil_append] at hown4
    clear hg4
    go_wp2
    go_loopw [8] (fun v wr => PsR w2 F m v wr) (fun v _ => 6 - mLen v)
    case atStart => exact ⟨nd m, Nat.le_refl _, HND.out, by rw [← HS.out]; exact ⟨hown4, hb24⟩⟩
    case round =>
      clear hown4 hb24 hown0 HA0
      obtain ⟨f, hf0, hf, hown, hbel⟩ := hrel
      obtain ⟨y, hy, hyat, hpad⟩ := HPAD.out f hf hf0
      obtain ⟨L, hL⟩ : ∃ L, L = F :: digs f m := ⟨_, rfl⟩
      rw [← hL] at hown hyat hpad
      have hLl : L.length = f + 2 := by rw [hL, List.length_cons, digs_len]
      obtain ⟨K, hK⟩ : ∃ K, K = f + 2 := ⟨_, rfl⟩
      obtain ⟨I, hI⟩ : ∃ I, I = f + 1 := ⟨_, rfl⟩
      rw [hLl, ← hK] at hown
      obtain ⟨g, cg, rfl, hg, hown⟩ := own_form hown (by omega)
      rw [← hI] at hyat hpad
      have hIL : I < L.length := by omega
      have cy : wr.cell? ⟨g, I, none⟩ = some (.int .u8 (y : Int)) := by
        rw [List.getElem?_eq_getElem hIL] at hyat
        injection hyat with hyat
        rw [← hyat]
        exact own_at hown hIL
      have fy : wr.frozen? ⟨g, I, none⟩ = false := own_free hown
      obtain ⟨y2, hy2⟩ : ∃ y2, y2 = y + 128 := ⟨_, rfl⟩
      rw [← hy2] at hpad
      have ey : bits BinOp.or IntKind.u8 (y : Int) 128 = (y2 : Int) := by rw [u8_or128_right (y : Int) (by omega) (by omega)]; omega
      by_cases h4 : f < 4
      · have HPD := Lib.hid hpad
        have HIF := Lib.hid hI
        have HLS : Hid ((L.set I y2).length = K) := Lib.hid (by rw [List.length_set, hLl, hK])
        have HLN : Hid ((L.set I y2 ++ [0]).length = K + 1) := Lib.hid (by rw [List.length_append, HLS.out]; rfl)
        have hst := (hown.stored I (.int .u8 (y2 : Int))).1
        rw [cn_set] at hst
        have hst2 : (wr.setCell ⟨g, I, none⟩ (.int .u8 (y2 : Int))).ownsRow w2.heap.size 5 1 (.slice (some ⟨g, 0, none⟩) K cg) (L.set I y2).length (cn .u8 (L.set I y2)) := by rw [HLS.out]; exact hst
        have HST := Lib.hid hst2
        have HOB := Lib.hid (own_block hst2)
        have hbs := hbel.setCell (p := ⟨g, I, none⟩) hg (.int .u8 (y2 : Int))
        have HBS := Lib.hid hbs
        have eI : (K : Int) - 1 = (I : Int) := by omega
        have k6 : (K : Int) < 6 := by omega
        have iK : (I : Int) < (K : Int) := by omega
        have HKF := Lib.hid hK
        have hK6 : K ≤ 6 := by omega
        clear hL hLl hI hIL hyat hy2 hown hbel hst hst2 hbs hpad hK hy
        go_wp2_with (at_builtin; refine wpList_append_at rfl (.tmp 93) (.tmp 94) rfl w2.heap.size _ (L.set I y2) rfl (HST.out.alloc _) (some ⟨wr.heap.size, 0, none⟩) [0] _ 1 rfl rfl (fun h => by cases h) _ (At.newSet wr ⟨g, I, none⟩ (.int .u8 (y2 : Int)) 0) ?_ ?_ ?_; (rotate_right; intro v9 w9 hown9 hg9; rw [HLN.out] at hown9; obtain ⟨A9, c9, rfl⟩ := own_shape hown9))
        · have hb9 := (HBS.out.alloc HBS.out.size _).grown hg9 (by have := HBS.out.size; simp at this ⊢; omega) HOB.out
          have HO9 : Hid (w9.ownsRow w2.heap.size 5 1 (.slice A9 (K + 1) c9) (F :: digs I m).length (cn .u8 (F :: digs I m))) := Lib.hid (by
            rw [← HPD.out, HLN.out]; exact hown9)
          clear hg9 hown9 cy fy
          go_wp2
          go_roundw
          case rel => exact ⟨I, by have := HIF.out; omega, by have := HIF.out; omega, HO9.out, hb9⟩
          case measure => simp only [mLen]; omega
        all_goals (have := HLS.out; first | (simp only [List.length_cons, List.length_nil]; omega) | (have := HBS.out.size; simp at this ⊢; omega) | simp)
      · obtain rfl : f = 4 := by omega
        obtain rfl : K = 6 := hK
        obtain rfl : I = 5 := hI
        have hat := At.of_own hown
        have HAT := Lib.hid hat
        have HCN := Lib.hid (own_none hown)
        have hcg := own_cap hown
        have HLL := Lib.hid hLl
        have HPD := Lib.hid hpad
        have HLEQ := Lib.hid hL
        have HOWN := Lib.hid hown
        have hb3 := hb2.trans (hbel.mono hb2.size)
        have hg1 : g < wr.heap.size := World.block_lt_of_cell? wr _ cy
        have HCY := Lib.hid cy
        clear hat hown hLl hpad hL hyat hIL cy fy
        go_wp2_with fail
        with_reducible refine (get_f (some ⟨g, 0, none⟩) L 6 cg B wr (HR.out.below hb3) HAT.out (by rw [HLEQ.out]; exact HBY.out 4 (by omega) (by omega)) HLL.out HCN.out hcg (by omega) HRB.out).mono ?_
        rw [HLEQ.out, HG1.out]
        rintro e w5 ⟨rfl, hbn⟩
        have hb5 := hb3.trans (hbn.mono hb3.size)
        have hown5 := own_keep HOWN.out hbn
        have hbel5 := hbel.trans (hbn.mono hbel.size)
        have cy : w5.cell? ⟨g, 5, none⟩ = some (.int .u8 (y : Int)) := (hbn.cell (p := ⟨g, 5, none⟩) hg1).trans HCY.out
        have fy : w5.frozen? ⟨g, 5, none⟩ = false := own_free hown5
        have HLS : Hid ((L.set 5 y2).length = 6) := Lib.hid (by rw [List.length_set, HLL.out])
        have HLN : Hid ((L.set 5 y2 ++ [0]).length = 7) := Lib.hid (by rw [List.length_append, HLS.out]; rfl)
        have hst := (hown5.stored 5 (.int .u8 (y2 : Int))).1
        rw [cn_set] at hst
        have hst2 : (w5.setCell ⟨g, 5, none⟩ (.int .u8 (y2 : Int))).ownsRow w2.heap.size 5 1 (.slice (some ⟨g, 0, none⟩) 6 cg) (L.set 5 y2).length (cn .u8 (L.set 5 y2)) := by rw [HLS.out]; exact hst
        have HST := Lib.hid hst2
        have HOB := Lib.hid (own_block hst2)
        have HBS := Lib.hid (hbel5.setCell (p := ⟨g, 5, none⟩) hg (.int .u8 (y2 : Int)))
        clear hbn hbel hbel5 hown5 hst hst2 hb3 HAT HOWN hb5 hy2
        go_wp2_with (at_builtin; refine wpList_append_at rfl (.tmp 109) (.tmp 110) rfl w2.heap.size _ (L.set 5 y2) rfl (HST.out.alloc _) (some ⟨w5.heap.size, 0, none⟩) [0] _ 1 rfl rfl (fun h => by cases h) _ (At.newSet w5 ⟨g, 5, none⟩ (.int .u8 (y2 : Int)) 0) ?_ ?_ ?_; (rotate_right; intro v9 w9 hown9 hg9; rw [HLN.out] at hown9; obtain ⟨A9, c9, rfl⟩ := own_shape hown9))
        · have hb9 := (HBS.out.alloc HBS.out.size _).grown hg9 (by have := HBS.out.size; simp at this ⊢; omega) HOB.out
          have hb10 := hb2.trans (hb9.mono hb2.size)
          have H9 := Lib.hid (At.of_own hown9)
          have HN9 := Lib.hid (own_none hown9)
          have hc9 := own_cap hown9
          clear hg9 hown9 cy fy hb9 hb2
          go_wp2_with fail
          with_reducible refine (get_f A9 (L.set 5 y2 ++ [0]) 7 c9 B w9 (HR.out.below hb10) H9.out (by rw [HPD.out]; exact HBY.out 5 (by omega) (by omega)) HLN.out HN9.out hc9 (by omega) HRB.out).mono ?_
          rw [HPD.out, HG2.out]
          rintro e w10 ⟨rfl, hbn⟩
          have hb11 := hb10.trans (hbn.mono hb10.size)
          clear hb10 hbn
          go_wp2_with fail
          with_reducible refine (first_any w10 (HR.out.below hb11)).mono ?_
          rintro e w11 ⟨rfl, hbn⟩
          have hb12 := hb11.trans (hbn.mono hb11.size)
          clear hb11 hbn
          go_wp2_with fail
          go_ret
          exact ⟨rfl, hb12⟩
        all_goals (have := HLS.out; first | (simp only [List.length_cons, List.length_nil]; omega) | (have := HBS.out.size; simp at this ⊢; omega) | simp)
  all_goals (have := HM.out; first | (simp; omega) | simp)
theorem walk (b n : Int) (w : World) (hR : Rdy w) (hrb : (Lit.int .i64 b).wf = true) (hrn : (Lit.int .i64 n).wf = true) :
    Calls Try.prog 5 #[.int .i64 b, .int .i64 n] w (Yes w) := by
  by_cases hin : 1 ≤ b ∧ b ≤ 8 ∧ 0 ≤ n ∧ n ≤ 2147483647
  · obtain ⟨B, rfl⟩ : ∃ v : Nat, b = (v : Int) := ⟨b.toNat, by omega⟩
    obtain ⟨n1, rfl⟩ : ∃ v : Nat, n = (v : Int) := ⟨n.toNat, by omega⟩
    by_cases hl : n1 < full B
    · exact walk_low B n1 w hR (by omega) (by omega) hl
    · exact walk_high B n1 w hR (by omega) (by omega) (by omega) hl
  · exact walk_err b n w hR (bounds_i64 hrb) (bounds_i64 hrn) hin
end pintShort
end Go.Proofs.Ytpnnojbdpnjokaa
