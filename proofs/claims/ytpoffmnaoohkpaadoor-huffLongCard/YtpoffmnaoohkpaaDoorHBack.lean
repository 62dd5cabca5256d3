/- The walk of HuffBack. -/
import Derived.Test.YtpoffmnaoohkpaaDoorHTells
import Derived.Test.YtpoffmnaoohkpaaDoorLIn
namespace Go.Proofs.YtpoffmnaoohkpaaDoor
open Go.RowKit Hf

theorem dec_tail (b : List Nat) (most : Int) (k : Nat) (hb : ∀ x ∈ b, x < 256) (hm : (b.length : Int) ≤ most) : dec (enc b ++ List.replicate k 255) most = run most (List.replicate (padN (nBits b) + 8 * k) 1) 0 0 b := by
  rw [dec, unp_app, enc, unp_pack (eBits_bt b), unp_ones, List.append_assoc, run_all most _ b [] hb (by simpa using hm), List.nil_append, List.replicate_append_replicate, eBits_len]
theorem dec_more (b : List Nat) (most : Int) (hb : ∀ x ∈ b, x < 256) (hm : (b.length : Int) ≤ most) : dec (enc b ++ [255]) most = ([], 2) := by
  have h := dec_tail b most 1 hb hm
  rw [show List.replicate 1 255 = [255] from rfl] at h
  rw [h, run_many _ _ _ (by omega) (by have := padN_le (nBits b); omega)]
theorem dec_fours (b : List Nat) (most : Int) (hb : ∀ x ∈ b, x < 256) (hm : (b.length : Int) ≤ most) : dec (enc b ++ [255, 255, 255, 255]) most = ([], 2) := by
  have h := dec_tail b most 4 hb hm
  rw [show List.replicate 4 255 = [255, 255, 255, 255] from rfl] at h
  rw [h, show padN (nBits b) + 8 * 4 = 30 + (padN (nBits b) + 2) by omega, ← List.replicate_append_replicate, run_end]
/-- No code begins another one. -/
theorem no_prefix (x y : Nat) (hx : x < 257) (hy : y < 257) (hne : x ≠ y) (h : ln x ≤ ln y) : cd y / 2 ^ (ln y - ln x) ≠ cd x := by
  rcases Nat.lt_or_ge (ln x) (ln y) with h1 | h1
  · have h2 := tab_pre ⟨y, hy⟩ ⟨ln x, by have := (tab_lim ⟨y, hy⟩).2.2.1; simp only at this; omega⟩ h1
    have h3 := (tab_lim ⟨x, hx⟩).1
    simp only at h2 h3
    omega
  · have e : ln x = ln y := by omega
    rw [show ln y - ln x = 0 by omega, Nat.pow_zero, Nat.div_one]
    exact fun h2 => hne (uniq hx hy e h2.symm)
namespace huffBack
theorem walk_long (A : Option Addr) (n c : Nat) (x y : Int) (w : World) (hR : Rdy w) (hl : 1000 < n) : Calls Tryd.prog 4 #[.slice A n c, .int .u8 x, .int .u8 y] w (Yes w) := by
  have HR := Lib.hid hR
  clear hR
  have q1 : decide ((1000 : Int) < (n : Int)) = true := by simp; omega
  go_enter Tryd.func4, Tryd.ntmps4
  go_wp2_with fail
  with_reducible refine (first_any w HR.out).mono ?_
  rintro e w1 ⟨rfl, hb1⟩
  go_wp2_with fail
  with_reducible refine (first_any w1 (HR.out.below hb1)).mono ?_
  rintro e w2 ⟨rfl, hb2⟩
  go_wp2_with fail
  go_ret
  exact ⟨rfl, hb1.trans (hb2.mono hb1.size)⟩
/-- What is known behind the parts of the walk. -/
def Kn (w : World) (Ac : Option Addr) (E : List Nat) (wx : World) : Prop := Below w.heap.size w wx ∧ At .u8 wx wx.heap.size Ac E
set_option maxRecDepth 100000 in
set_option maxHeartbeats 4000000 in
theorem walk_short (A : Option Addr) (l : List Nat) (n c x y : Nat) (w : World) (hR : Rdy w) (hA : At .u8 w w.heap.size A l) (hb : ∀ x ∈ l, x < 256) (hl : l.length = n) (hc : A = none → c = 0) (hnc : n ≤ c) (hn : n ≤ 1000) (hx : x < 256) (hy : y < 256) :
    Calls Tryd.prog 4 #[.slice A n c, .int .u8 x, .int .u8 y] w (Yes w) := by
  have HR := Lib.hid hR
  have HA := Lib.hid fun (w' : World) (hb : Below w.heap.size w w') => hA.up hb
  have HB := Lib.hid hb
  have HL := Lib.hid hl
  have HC := Lib.hid hc
  have q1 : decide ((1000 : Int) < (n : Int)) = false := by simp; omega
  obtain ⟨E, hE⟩ : ∃ E, E = enc l := ⟨_, rfl⟩
  obtain ⟨N, hN⟩ : ∃ N, N = nBits l := ⟨_, rfl⟩
  have hN30 : N ≤ 30 * n := by rw [hN, ← hl]; exact nBits_le l
  have HEB : Hid (∀ x ∈ E, x < 256) := Lib.hid (by rw [hE]; exact enc_byte l)
  have hEL : E.length = (N + 7) / 8 := by rw [hE, enc_len, ← hN]
  obtain ⟨M, hM⟩ : ∃ M, M = E.length := ⟨_, rfl⟩
  have eM : ((N : Int) + 7) / 8 = (M : Int) := by omega
  have HM := Lib.hid hM
  have hM2 : M ≤ 4000 := by omega
  have HD0 : Hid (dec E (n : Int) = (l, 0)) := Lib.hid (by rw [hE, ← hl]; exact dec_enc l _ hb (Int.le_refl _))
  have HD1 : Hid (dec (E ++ [255]) ((n : Int) + 1) = ([], 2)) := Lib.hid (by rw [hE]; exact dec_more l _ hb (by omega))
  have HD2 : Hid (0 < n → dec E ((n : Int) - 1) = ([], 3)) := Lib.hid (fun h0 => by rw [hE]; exact dec_enc_long l _ hb (by omega) (by omega))
  obtain ⟨y1, hy1⟩ : ∃ z, z = ln x := ⟨_, rfl⟩
  obtain ⟨y2, hy2⟩ : ∃ z, z = cd x := ⟨_, rfl⟩
  obtain ⟨z1, hz1⟩ : ∃ z, z = ln y := ⟨_, rfl⟩
  obtain ⟨z2, hz2⟩ : ∃ z, z = cd y := ⟨_, rfl⟩
  have b1 : 5 ≤ y1 ∧ y1 ≤ 30 := by have := (tab_lim ⟨x, by omega⟩).2; simp only at this; omega
  have b2 : 5 ≤ z1 ∧ z1 ≤ 30 := by have := (tab_lim ⟨y, by omega⟩).2; simp only at this; omega
  have HNP : Hid (x ≠ y → y1 ≤ z1 → z2 / 2 ^ (z1 - y1) ≠ y2) := Lib.hid (fun h1 h2 => by rw [hy1, hy2, hz1, hz2] at *; exact no_prefix x y (by omega) (by omega) h1 h2)
  obtain ⟨T, hT⟩ : ∃ T, T = N + y1 := ⟨_, rfl⟩
  have eT : (N : Int) + (y1 : Int) = (T : Int) := by omega
  have qT : ((T : Int) == (T : Int)) = true := by simp
  have HNX : Hid (nBits (l ++ [x]) = T) := Lib.hid (by rw [nBits_app, hT, hN, hy1]; simp [nBits])
  have HE := Lib.hid hE
  have HN := Lib.hid hN
  have HX := Lib.hid fun w hw => code_f x w hw hx
  have HY := Lib.hid fun w hw => code_f y w hw hy
  unfold CodePost at HX HY
  rw [← hy1, ← hy2] at HX
  rw [← hz1, ← hz2] at HY
  have HLX : Hid (∀ z ∈ l ++ [x], z < 256) := Lib.hid (fun z hz => by
    rw [List.mem_append, List.mem_singleton] at hz
    rcases hz with h | h
    · exact hb z h
    · omega)
  have HEX : Hid (∀ z ∈ E ++ [255], z < 256) := Lib.hid (fun z hz => by
    rw [List.mem_append, List.mem_singleton] at hz
    rcases hz with h | h
    · exact HEB.out z h
    · omega)
  clear hR hA hb hl hc hE hN hy1 hy2 hz1 hz2 hM hEL hT
  go_enter Tryd.func4, Tryd.ntmps4
  go_wp2_with fail
  with_reducible refine (first_any w HR.out).mono ?_
  rintro e w1 ⟨rfl, hb1⟩
  go_wp2_with fail
  with_reducible refine (enc_f A l n c w1 (HR.out.below hb1) (HA.out _ hb1) HB.out HL.out HC.out hnc (by omega)).mono ?_
  rw [← HE.out]
  rintro e w2 ⟨v2, rfl, hr2⟩
  obtain ⟨Ac, cc, rfl, hatc, hnc2, hcc⟩ := hr2.at
  rw [← HM.out] at hcc ⊢
  have HNC := Lib.hid hnc2
  have HE2 := Lib.hid hatc
  have hb2 := hb1.trans (hr2.2.mono hb1.size)
  clear hb1 hr2 hatc hnc2
  go_wp2_with fail
  with_reducible refine (dec_f Ac E M cc (n : Int) w2 (HR.out.below hb2) HE2.out HEB.out HM.out.symm HNC.out hcc (by omega)).mono ?_
  rw [HD0.out]
  rintro e w3 ⟨A3, c3, rfl, hat3, _, hbn⟩
  have hb3 := hb2.trans (hbn.mono hb2.size)
  have HE3 := Lib.hid (HE2.out.up hbn)
  have H3 := Lib.hid hat3
  clear hb2 hbn HE2 hat3
  go_wp2_with fail
  with_reducible refine (bytes_any A3 A l l _ _ c3 c w3 _ _ H3.out (HA.out _ hb3) HB.out HB.out rfl HL.out).mono ?_
  rw [decide_eq_true (rfl : l = l)]
  rintro e w' ⟨rfl, rfl⟩
  clear H3
  have nM : ((M : Int) != (M : Int)) = false := by simp
  go_wp2_with fail
  with_reducible refine (bits_f A l n c w3 (HR.out.below hb3) (HA.out _ hb3) HB.out HL.out HC.out hnc (by omega)).mono ?_
  rw [← HN.out]
  rintro e w4 ⟨rfl, hbn⟩
  have hb4 := hb3.trans (hbn.mono hb3.size)
  have HE4 := Lib.hid (HE3.out.up hbn)
  clear hb3 hbn HE3
  go_wp2_with fail
  with_reducible refine (HX.out w4 (HR.out.below hb4)).mono ?_
  rintro e w5 ⟨rfl, hbn⟩
  have hb5 := hb4.trans (hbn.mono hb4.size)
  have HE5 := Lib.hid (HE4.out.up hbn)
  clear hb4 hbn HE4
  go_wp2_with fail
  with_reducible refine (HY.out w5 (HR.out.below hb5)).mono ?_
  rintro e w6 ⟨rfl, hbn⟩
  have hb6 := hb5.trans (hbn.mono hb5.size)
  have HE6 := Lib.hid (HE5.out.up hbn)
  clear hb5 hbn HE5
  go_upto_region 11 with fail
  go_cut [93] (fun v wx => v = .bool false ∧ wx = w6)
  case first =>
    have p1 : decide ((y1 : Int) < 5) = false := decide_eq_false (by omega)
    have p2 : decide ((30 : Int) < (y1 : Int)) = false := decide_eq_false (by omega)
    have p3 : decide ((z1 : Int) < 5) = false := decide_eq_false (by omega)
    have p4 : decide ((30 : Int) < (z1 : Int)) = false := decide_eq_false (by omega)
    by_cases hxy : x = y
    · have p5 : ((x : Int) != (y : Int)) = false := by simp; omega
      go_wp2
      go_meet
      case rel => exact ⟨rfl, rfl⟩
    · have p5 : ((x : Int) != (y : Int)) = true := by simp; omega
      by_cases hle : y1 ≤ z1
      · have p6 : decide ((y1 : Int) ≤ (z1 : Int)) = true := decide_eq_true (by omega)
        have p6' : decide (y1 ≤ z1) = true := decide_eq_true hle
        obtain ⟨s, hs⟩ : ∃ s, s = z1 - y1 := ⟨_, rfl⟩
        have es : (z1 : Int) - (y1 : Int) = (s : Int) := by omega
        have su : IntKind.u64.wrap (s : Int) = (s : Int) := by
          have e : ∀ z : Int, IntKind.u64.wrap z = z % 18446744073709551616 := fun z => by simp [IntKind.wrap, IntKind.bits, IntKind.signed]
          rw [e]
          omega
        obtain ⟨Q, hQ⟩ : ∃ Q, Q = z2 / 2 ^ s := ⟨_, rfl⟩
        have eQ : (z2 : Int) / 2 ^ s = (Q : Int) := by rw [hQ, show ((2 : Int) ^ s) = ((2 ^ s : Nat) : Int) by simp, ← Int.natCast_ediv]
        have hne := HNP.out hxy hle
        rw [← hs, ← hQ] at hne
        have p7 : ((Q : Int) == (y2 : Int)) = false := by simp; omega
        have hs30 : s ≤ 30 := by omega
        clear hs hQ hne
        go_wp2
        go_meet
        case rel => exact ⟨rfl, rfl⟩
      · have p6 : decide ((y1 : Int) ≤ (z1 : Int)) = false := decide_eq_false (by omega)
        have p6' : decide (y1 ≤ z1) = false := decide_eq_false hle
        go_wp2
        go_meet
        case rel => exact ⟨rfl, rfl⟩
  case rest =>
    obtain ⟨rfl, hwc⟩ := hcut
    subst hwc
    go_wp2_with fail
    with_reducible refine (copy_any Ac E M cc wc HE6.out HM.out.symm HNC.out (by omega)).mono ?_
    rintro e w7 ⟨v7, rfl, hr7⟩
    have e8 : (E ++ [255]).length = M + 1 := by simp; have := HM.out; omega
    have He8 := Lib.hid e8
    clear e8
    go_wp2_with (at_builtin; refine wpList_append_at rfl (.tmp 96) (.tmp 97) rfl wc.heap.size _ E rfl (hr7.1.alloc _) (some ⟨w7.heap.size, 0, none⟩) [255] _ 1 rfl rfl (fun h => by cases h) _ (At.new w7 [255] 5 (0, 0)) ?_ ?_ ?_; (rotate_right; intro v8 w8 hown8 hg8; rw [He8.out] at hown8; obtain ⟨A8, c8, rfl⟩ := own_shape hown8))
    · have hb78 : Below wc.heap.size wc w8 := (hr7.2.alloc hr7.2.size _).grown hg8 (by have := hr7.2.size; simp; omega) (own_block hr7.1)
      have HE8 := Lib.hid (HE6.out.up hb78)
      have hb8 := hb6.trans (hb78.mono hb6.size)
      have H8 := Lib.hid (At.of_own hown8)
      have HN8 := Lib.hid (own_none hown8)
      have hc8 := own_cap hown8
      clear HE6 hb78 hb6 hg8 hown8 hr7
      go_wp2_with fail
      with_reducible refine (dec_f A8 (E ++ [255]) (M + 1) c8 ((n : Int) + 1) w8 (HR.out.below hb8) H8.out HEX.out He8.out HN8.out hc8 (by omega)).mono ?_
      rw [HD1.out]
      rintro e w9 ⟨A9, c9, rfl, _, _, hbn⟩
      have hb9 := hb8.trans (hbn.mono hb8.size)
      have HE9 := Lib.hid (HE8.out.up hbn)
      clear hb8 hbn HE8 H8
      go_upto_if 109 with fail
      go_cut [] (fun wx => Below w.heap.size w wx)
      case first =>
        by_cases h0 : 0 < n
        · have p0 : decide ((0 : Int) < (n : Int)) = true := decide_eq_true (by omega)
          have p0' : (0 : Int) < (n : Int) := by omega
          go_wp2_with fail
          with_reducible refine (dec_f Ac E M cc ((n : Int) - 1) w9 (HR.out.below hb9) HE9.out HEB.out HM.out.symm HNC.out hcc (by omega)).mono ?_
          rw [HD2.out h0]
          rintro e w10 ⟨A10, c10, rfl, _, _, hbn⟩
          have hb10 := hb9.trans (hbn.mono hb9.size)
          clear hbn
          go_wp2
          go_meet
          case rel => exact hb10
        · have p0 : decide ((0 : Int) < (n : Int)) = false := decide_eq_false (by omega)
          have p0' : ¬ (0 : Int) < (n : Int) := by omega
          go_wp2
          go_meet
          case rel => exact hb9
      case rest =>
        clear hb9 HE9
        have hbA := hcut
        clear hcut
        go_wp2_with fail
        with_reducible refine (first_any wc (HR.out.below hbA)).mono ?_
        rintro e w11 ⟨rfl, hbn⟩
        have hb11 := hbA.trans (hbn.mono hbA.size)
        clear hbn hbA
        go_wp2_with fail
        with_reducible refine (copy_any A l n c w11 (HA.out _ hb11) HL.out HC.out (by omega)).mono ?_
        rintro e w12 ⟨v12, rfl, hr12⟩
        have e13 : (l ++ [x]).length = n + 1 := by simp; have := HL.out; omega
        have He13 := Lib.hid e13
        clear e13
        go_wp2_with (at_builtin; refine wpList_append_want rfl (.tmp 123) (.tmp 125) rfl w11.heap.size _ l rfl (hr12.1.alloc _) ⟨w12.heap.size, 0, none⟩ [x] _ 1 rfl rfl _ (At.new w12 [x] 5 (0, 0)) ?_ ?_ ?_; (rotate_right; intro v13 w13 hown13 hg13; rw [He13.out] at hown13; obtain ⟨A13, c13, rfl⟩ := own_shape hown13))
        · have hb1213 : Below w11.heap.size w11 w13 := (hr12.2.alloc hr12.2.size _).grown hg13 (by have := hr12.2.size; simp; omega) (own_block hr12.1)
          have hb13 := hb11.trans (hb1213.mono hb11.size)
          have H13 := Lib.hid (At.of_own hown13)
          have HN13 := Lib.hid (own_none hown13)
          have hc13 := own_cap hown13
          clear hb11 hb1213 hg13 hown13 hr12
          go_wp2_with fail
          with_reducible refine (bits_f A13 (l ++ [x]) (n + 1) c13 w13 (HR.out.below hb13) H13.out HLX.out He13.out HN13.out hc13 (by omega)).mono ?_
          rw [HNX.out]
          rintro e w14 ⟨rfl, hbn⟩
          have hb14 := hb13.trans (hbn.mono hb13.size)
          clear hb13 hbn H13
          go_wp2_with fail
          with_reducible refine (bits_f A l n c w14 (HR.out.below hb14) (HA.out _ hb14) HB.out HL.out HC.out hnc (by omega)).mono ?_
          rw [← HN.out]
          rintro e w15 ⟨rfl, hbn⟩
          have hb15 := hb14.trans (hbn.mono hb14.size)
          clear hb14 hbn
          go_wp2_with fail
          go_ret
          exact ⟨rfl, hb15⟩
        all_goals (have := HL.out; first | (simp; omega) | (have := hr12.2.size; simp; omega) | simp)
    all_goals (have := HM.out; first | (simp; omega) | (have := hr7.2.size; simp; omega) | simp)
theorem walk (A : Option Addr) (l : List Nat) (c : Nat) (x y : Int) (w : World) (hR : Rdy w) (hA : At .u8 w w.heap.size A l) (hb : ∀ x ∈ l, x < 256) (hc : A = none → c = 0) (hnc : l.length ≤ c) (hx : (Lit.int .u8 x).wf = true) (hy : (Lit.int .u8 y).wf = true) :
    Calls Tryd.prog 4 #[.slice A l.length c, .int .u8 x, .int .u8 y] w (Yes w) := by
  by_cases hl : 1000 < l.length
  · exact walk_long A _ c x y w hR hl
  · have hx' := bounds_u8 hx
    have hy' := bounds_u8 hy
    obtain ⟨x1, rfl⟩ : ∃ v : Nat, x = (v : Int) := ⟨x.toNat, by omega⟩
    obtain ⟨y1, rfl⟩ : ∃ v : Nat, y = (v : Int) := ⟨y.toNat, by omega⟩
    exact walk_short A l _ c x1 y1 w hR hA hb rfl hc hnc (by omega) (by omega) (by omega)
end huffBack
end Go.Proofs.YtpoffmnaoohkpaaDoor
