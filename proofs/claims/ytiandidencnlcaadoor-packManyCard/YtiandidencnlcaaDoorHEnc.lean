/- Contracts of the reference's Bits and Encode. -/
import Derived.Test.YtiandidencnlcaaDoorHAux
import Derived.Test.YtiandidencnlcaaDoorLPost
namespace Go.Proofs.YtiandidencnlcaaDoor
open Go.RowKit Hf

def BtR (l : List Nat) (s i : Value) : Prop := ∃ k : Nat, k ≤ l.length ∧ i = .int .i64 (k : Int) ∧ s = .int .i64 ((nBits (l.take k) : Nat) : Int)
set_option maxRecDepth 100000 in
set_option maxHeartbeats 2000000 in
theorem rbits_any (A : Option Addr) (l : List Nat) (n c : Nat) (w : World) (hA : At .u8 w w.heap.size A l) (hb : ∀ x ∈ l, x < 256) (hl : l.length = n) (hn : n ≤ 100000) :
    Calls Tryd.prog 70 #[.slice A n c] w (NumPost w (nBits l)) := by
  have HA := Lib.hid hA
  have HB := Lib.hid hb
  have HL := Lib.hid hl
  clear hA hb hl
  go_enter Tryd.func70, Tryd.ntmps70
  go_wp2_with fail
  with_reducible refine (codes_any w).mono ?_
  rintro e w1 ⟨Ac, Al, rfl, hcod, hlen, hb1⟩
  have HLEN := Lib.hid hlen
  have HA1 := Lib.hid (HA.out.up hb1)
  clear hcod hlen HA
  go_wp2
  go_loop [5, 6] (fun s i => BtR l s i) (fun _ i => n - (intOf i).toNat)
  case atStart => exact ⟨0, Nat.zero_le _, rfl, rfl⟩
  case round =>
    obtain ⟨k, hk, rfl, rfl⟩ := hrel
    by_cases hlt : k < n
    · have hkl : k < l.length := by have := HL.out; omega
      obtain ⟨b, o, rfl, _, hc⟩ := HA1.out.pos (by omega)
      obtain ⟨x, hx⟩ : ∃ x, x = l[k] := ⟨_, rfl⟩
      have cx : w1.cell? ⟨b, o + k, none⟩ = some (.int .u8 (x : Int)) := by rw [hx]; exact hc k hkl
      have hx2 : x < 256 := by rw [hx]; exact HB.out _ (List.getElem_mem _)
      obtain ⟨bl, ol, rfl, cl⟩ := HLEN.out.ln x (by omega)
      have h30 := ln_le x
      have hnb := nBits_le (l.take k)
      have hlk : (l.take k).length ≤ k := List.length_take_le _ _
      have HN : Hid (nBits (l.take (k + 1)) = nBits (l.take k) + ln x) := Lib.hid (by rw [nBits_next l k hkl, hx])
      generalize nBits (l.take k) = s at hnb HN
      generalize ln x = y at cl h30 HN
      have xi : (x : Int) < 257 := by omega
      have ki : (k : Int) < (n : Int) := by omega
      clear hx hc hkl
      go_wp2
      go_round
      case rel =>
        refine ⟨k + 1, by have := HL.out; omega, by go_num, ?_⟩
        rw [HN.out]
        go_num
      case measure => simp [intOf]; omega
    · obtain rfl : k = n := by have := HL.out; omega
      have e : l.take k = l := List.take_of_length_le (by have := HL.out; omega)
      rw [e]
      go_wp2
      go_ret
      exact ⟨rfl, hb1⟩
/-- The bits so far: those of the first k bytes, and the first j of the next one's. -/
def EnO (w : World) (l : List Nat) (v a i : Value) (wr : World) : Prop := ∃ k : Nat, k ≤ l.length ∧ i = .int .i64 (k : Int) ∧ a = .int .i64 ((nBits (l.take k) : Nat) : Int) ∧ Row w.heap.size w (pack (eBits (l.take k))) v wr
def EnI (w : World) (B Z : List Nat) (v a i : Value) (wr : World) : Prop :=
  ∃ j : Nat, j ≤ Z.length ∧ i = .int .i64 ((Z.length : Int) - 1 - (j : Int)) ∧ a = .int .i64 ((B.length + j : Nat) : Int) ∧ Row w.heap.size w (pack (B ++ Z.take j)) v wr
theorem bOf_at (x j : Nat) (h : j < (bOf x).length) : (bOf x)[j] = cd x / 2 ^ (ln x - 1 - j) % 2 := by simp [bOf]
theorem Bt.app {a b : List Nat} (ha : Bt a) (hb : Bt b) : Bt (a ++ b) := fun x hx => by
  rw [List.mem_append] at hx
  rcases hx with h | h
  · exact ha x h
  · exact hb x h
theorem Bt.take {a : List Nat} (ha : Bt a) (n : Nat) : Bt (a.take n) := fun x hx => ha x (List.mem_of_mem_take hx)
set_option maxRecDepth 100000 in
set_option maxHeartbeats 4000000 in
theorem renc_any (A : Option Addr) (l : List Nat) (n c : Nat) (w : World) (hA : At .u8 w w.heap.size A l) (hb : ∀ x ∈ l, x < 256) (hl : l.length = n) (hn : n ≤ 20000) :
    Calls Tryd.prog 71 #[.slice A n c] w (RowPost w.heap.size w (enc l)) := by
  obtain ⟨i0, hi0, hz0, hz1, hz2⟩ := info_parts infoU8
  have HA := Lib.hid hA
  have HB := Lib.hid hb
  have HL := Lib.hid hl
  clear hA hb hl
  go_enter Tryd.func71, Tryd.ntmps71
  go_wp2_with fail
  with_reducible refine (codes_any w).mono ?_
  rintro e w1 ⟨Ac, Al, rfl, hcod, hlen, hb1⟩
  have HLEN := Lib.hid hlen
  have HCOD := Lib.hid hcod
  have HA1 := Lib.hid (HA.out.up hb1)
  clear hcod hlen HA
  go_wp2
  go_loopw [5, 6, 7] (fun v a i wr => EnO w1 l v a i wr) (fun _ _ i _ => n - (intOf i).toNat)
  case atStart => 
    refine ⟨0, Nat.zero_le _, rfl, rfl, ?_, Below.refl _ _⟩
    rw [show pack (eBits (l.take 0)) = [] by simp [eBits, pack]]
    exact World.ownsRow_nil _ _ _ _
  case round =>
    obtain ⟨k, hk, rfl, rfl, hrow⟩ := hrel
    by_cases hlt : k < n
    · have hkl : k < l.length := by have := HL.out; omega
      obtain ⟨b, o, rfl, hb0, hc⟩ := HA1.out.pos (by omega)
      obtain ⟨x, hx⟩ : ∃ x, x = l[k] := ⟨_, rfl⟩
      have hx2 : x < 256 := by rw [hx]; exact HB.out _ (List.getElem_mem _)
      have cx1 : w1.cell? ⟨b, o + k, none⟩ = some (.int .u8 (x : Int)) := by rw [hx]; exact hc k hkl
      obtain ⟨bl, ol, rfl, cl1⟩ := HLEN.out.ln x (by omega)
      obtain ⟨bc, oc, rfl, cc1⟩ := HCOD.out.cd x (by omega)
      have hbl : bl < w1.heap.size := World.block_lt_of_cell? w1 _ cl1
      have hbc : bc < w1.heap.size := World.block_lt_of_cell? w1 _ cc1
      have h30 := ln_le x
      have h1 : 1 ≤ ln x := by have := (tab_lim ⟨x, by omega⟩).2.1; simp only at this; omega
      have hnb := nBits_le (l.take k)
      have hlk : (l.take k).length ≤ k := List.length_take_le _ _
      obtain ⟨B, hB⟩ : ∃ B, B = eBits (l.take k) := ⟨_, rfl⟩
      obtain ⟨Z, hZ⟩ : ∃ Z, Z = bOf x := ⟨_, rfl⟩
      obtain ⟨L, hL⟩ : ∃ L, L = ln x := ⟨_, rfl⟩
      obtain ⟨C, hC⟩ : ∃ C, C = cd x := ⟨_, rfl⟩
      have hBl : B.length = nBits (l.take k) := by rw [hB, eBits_len]
      have hZl : Z.length = L := by rw [hZ, hL, bOf_len]
      have HBT : Hid (Bt B) := Lib.hid (by rw [hB]; exact eBits_bt _)
      have HZT : Hid (Bt Z) := Lib.hid (by rw [hZ]; exact bOf_bt _)
      have HZ : Hid (∀ j (h : j < Z.length), Z[j] = C / 2 ^ (L - 1 - j) % 2) := Lib.hid (by subst hZ hL hC; exact bOf_at x)
      have HE : Hid (eBits (l.take (k + 1)) = B ++ Z) := Lib.hid (by rw [eBits_next l k hkl, hB, hZ, hx])
      have HN : Hid (nBits (l.take (k + 1)) = B.length + L) := Lib.hid (by rw [nBits_next l k hkl, hBl, hL, hx])
      have HCC : Hid (C < 4294967296) := Lib.hid (by
        have h2 := (tab_lim ⟨x, by omega⟩).2.2.2
        simp only at h2
        have : 2 ^ ln x ≤ 2 ^ 30 := Nat.pow_le_pow_right (by decide) h30
        rw [hC]
        omega)
      rw [← hB] at hrow
      rw [← hBl] at hnb ⊢
      rw [← hL] at cl1 h30 h1
      rw [← hC] at cc1
      have hr0 : EnI w1 B Z u5 (.int .i64 (B.length : Int)) (.int .i64 ((L : Int) - 1)) wr := ⟨0, Nat.zero_le _, by rw [hZl]; simp, by simp, by simpa using hrow⟩
      have cx : wr.cell? ⟨b, o + k, none⟩ = some (.int .u8 (x : Int)) := (hrow.2.cell (p := ⟨b, o + k, none⟩) hb0).trans cx1
      have cl : wr.cell? ⟨bl, ol + x, none⟩ = some (.int .i64 (L : Int)) := (hrow.2.cell (p := ⟨bl, ol + x, none⟩) hbl).trans cl1
      have hBL : B.length ≤ 600000 := by omega
      have xi : (x : Int) < 257 := by omega
      have ki : (k : Int) < (n : Int) := by omega
      have HX1 := Lib.hid cx1
      have HC1 := Lib.hid cc1
      have HZL := Lib.hid hZl
      clear hx hc hkl hB hBl hnb hrow hZ hL hC cx1 cl1 cc1 hZl
      go_wp2
      go_loopw [5, 6, 8] (fun v a i wr => EnI w1 B Z v a i wr) (fun _ _ i _ => (intOf i + 1).toNat)
      case atStart => exact hr0
      case round =>
        clear hr0 cx cl
        obtain ⟨j, hj, rfl, rfl, hrow⟩ := hrel
        rw [HZL.out]
        have hjL : j ≤ L := by have := HZL.out; omega
        by_cases hjl : j < L
        · obtain ⟨K, hK⟩ : ∃ K, K = L - 1 - j := ⟨_, rfl⟩
          rw [show ((L : Int) - 1 - (j : Int)) = (K : Int) by omega]
          obtain ⟨B2, hB2⟩ : ∃ B2, B2 = B ++ Z.take j := ⟨_, rfl⟩
          have hat : B2.length = B.length + j := by rw [hB2, List.length_append, List.length_take]; have := HZL.out; omega
          obtain ⟨at_, hat2⟩ : ∃ a, a = B.length + j := ⟨_, rfl⟩
          rw [← hat2]
          rw [← hat2] at hat
          rw [← hB2] at hrow
          have hjz : j < Z.length := by rw [HZL.out]; exact hjl
          obtain ⟨z, hz⟩ : ∃ z, z = Z[j] := ⟨_, rfl⟩
          have hzb : z = C / 2 ^ K % 2 := by rw [hz, HZ.out j hjz, hK]
          have HNX : Hid (B ++ Z.take (j + 1) = B2 ++ [z]) := Lib.hid (by rw [List.take_succ_eq_append_getElem hjz, hB2, hz, List.append_assoc])
          have HB2T : Hid (Bt B2) := Lib.hid (by rw [hB2]; exact Bt.app HBT.out (Bt.take HZT.out j))
          have HAT := Lib.hid hat
          have HKJ : Hid (K + j + 1 = L) := Lib.hid (by omega)
          have HAT2 := Lib.hid hat2
          have hatb : at_ ≤ 600100 := by omega
          obtain ⟨r8, hr8⟩ : ∃ r, r = at_ % 8 := ⟨_, rfl⟩
          have er8 : (at_ : Int) % 8 = (r8 : Int) := by omega
          have hK30 : K < 30 := by omega
          have hku : IntKind.u64.wrap (K : Int) = (K : Int) := by
            have e : ∀ z : Int, IntKind.u64.wrap z = z % 18446744073709551616 := fun z => by simp [IntKind.wrap, IntKind.bits, IntKind.signed]
            rw [e]
            omega
          obtain ⟨Q, hQ⟩ : ∃ Q, Q = C / 2 ^ K := ⟨_, rfl⟩
          have eQ : (C : Int) / 2 ^ K = (Q : Int) := by rw [hQ, show ((2 : Int) ^ K) = ((2 ^ K : Nat) : Int) by simp, ← Int.natCast_ediv]
          have hQl : Q < 4294967296 := by rw [hQ]; exact Nat.lt_of_le_of_lt (Nat.div_le_self _ _) HCC.out
          have eand : bits BinOp.and IntKind.u32 (Q : Int) 1 = (z : Int) := by
            have := u32_and_nat Q 1 hQl (by omega)
            rw [Nat.and_one_is_mod, show Q % 2 = z by rw [hzb, hQ]] at this
            exact this
          have HZ1 : Hid (z ≤ 1) := Lib.hid (by omega)
          have HR8 := Lib.hid hr8
          clear hz hzb hB2 hat hat2 hK hQ hr8 hj hjz
          obtain ⟨P0, hP0⟩ : ∃ P, P = pack B2 := ⟨_, rfl⟩
          obtain ⟨P1, hP1⟩ : ∃ P, P = pack (B2 ++ [1]) := ⟨_, rfl⟩
          rw [← hP0] at hrow
          have HP : Hid (P1 = if r8 = 0 then P0 ++ [255] else P0) := Lib.hid (by rw [hP1, pack_one, HAT.out, ← HR8.out, hP0])
          have HP1L : Hid (P1.length = at_ / 8 + 1) := Lib.hid (by rw [hP1, pack_len, List.length_append, HAT.out]; simp; omega)
          have HP0L : Hid (P0.length = (at_ + 7) / 8) := Lib.hid (by rw [hP0, pack_len, HAT.out])
          have HP1 := Lib.hid hP1
          clear hP0 hP1
          go_upto_if 33 with fail
          go_cut [5] (fun v wx => Row w1.heap.size w1 P1 v wx)
          case first =>
            by_cases h0 : r8 = 0
            · have q0 : ((r8 : Int) == 0) = true := by simp; omega
              go_wp2_with (at_builtin; refine wpList_append_at rfl (.tmp 34) (.tmp 35) rfl w1.heap.size _ P0 rfl (hrow.1.alloc _) (some ⟨wr.heap.size, 0, none⟩) [255] _ 1 rfl rfl (fun h => by cases h) _ (At.new wr [255] 5 (0, 0)) ?_ ?_ ?_; (rotate_right; intro v' w2 hown2 hg2))
              · have hb2 := (hrow.2.alloc hrow.2.size _).grown hg2 (by have := hrow.2.size; simp; omega) (own_block hrow.1)
                clear hg2
                go_wp2
                go_meet
                case rel =>
                  refine ⟨?_, hb2⟩
                  rw [HP.out, if_pos h0]
                  exact hown2
              all_goals (have := HP0L.out; first | (simp; omega) | (have := hrow.2.size; simp; omega) | simp)
            · have q0 : ((r8 : Int) == 0) = false := by simp; omega
              have HPE : Hid (P1 = P0) := Lib.hid (by rw [HP.out, if_neg h0])
              have HROW := Lib.hid hrow
              clear hrow
              go_wp2
              go_meet
              case rel =>
                rw [HPE.out]
                exact HROW.out
          case rest =>
            clear hrow
            obtain ⟨hown, hbel⟩ := hcut
            have hP1p : 0 < P1.length := by rw [HP1L.out]; omega
            obtain ⟨g, cg, rfl, hg, hown⟩ := own_form hown hP1p
            have hN : P1.length = at_ / 8 + 1 := HP1L.out
            obtain ⟨M, hM⟩ : ∃ M, M = at_ / 8 := ⟨_, rfl⟩
            have cx : wc.cell? ⟨b, o + k, none⟩ = some (.int .u8 (x : Int)) := (hbel.cell (p := ⟨b, o + k, none⟩) hb0).trans HX1.out
            have cc : wc.cell? ⟨bc, oc + x, none⟩ = some (.int .u32 (C : Int)) := (hbel.cell (p := ⟨bc, oc + x, none⟩) hbc).trans HC1.out
            have hML : M < P1.length := by omega
            have eM : (P1.length : Int) - 1 = (M : Int) := by omega
            have lM : (M : Int) < (P1.length : Int) := by omega
            have pl : P1.length ≤ 100000 := by omega
            rcases (show z = 0 ∨ z = 1 by have := HZ1.out; omega) with rfl | rfl
            · obtain ⟨y, hy⟩ : ∃ y, y = P1[M] := ⟨_, rfl⟩
              have cy : wc.cell? ⟨g, M, none⟩ = some (.int .u8 (y : Int)) := by rw [hy]; exact own_at hown hML
              have fy : wc.frozen? ⟨g, M, none⟩ = false := own_free hown
              have hyb : y = byteAt (B2 ++ [1]) M := by
                rw [hy]
                simp only [HP1.out, pack, List.getElem_map, List.getElem_range]
              have hy256 : y < 256 := by rw [hyb, byteAt_one]; exact byteAt_lt HB2T.out _
              obtain ⟨s8, hs8⟩ : ∃ s, s = 7 - r8 := ⟨_, rfl⟩
              have hr8l : r8 < 8 := by rw [HR8.out]; omega
              have es8 : (7 : Int) - (r8 : Int) = (s8 : Int) := by omega
              have hs7 : s8 ≤ 7 := by omega
              obtain ⟨p, hp⟩ : ∃ p, p = 2 ^ s8 := ⟨_, rfl⟩
              have hp256 : p < 256 := by rw [hp]; exact Nat.lt_of_le_of_lt (Nat.pow_le_pow_right (by decide) hs7) (by decide)
              obtain ⟨y2, hy2⟩ : ∃ y2, y2 = y ^^^ p := ⟨_, rfl⟩
              have ex : bits BinOp.xor IntKind.u8 (y : Int) (p : Int) = (y2 : Int) := by rw [hy2]; exact u8_xor_nat y p hy256 hp256
              have su : IntKind.u64.wrap (s8 : Int) = (s8 : Int) := by
                have e : ∀ z : Int, IntKind.u64.wrap z = z % 18446744073709551616 := fun z => by simp [IntKind.wrap, IntKind.bits, IntKind.signed]
                rw [e]
                omega
              have ep : ((2 : Int) ^ s8) = (p : Int) := by rw [hp]; simp
              have HPZ : Hid (pack (B2 ++ [0]) = P1.set M y2) := Lib.hid (by
                rw [pack_zero B2 HB2T.out, HAT.out, ← hM, ← HP1.out, ← HR8.out, ← hs8, ← hp, ← hyb, ← hy2])
              have hst := (hown.stored M (.int .u8 (y2 : Int))).1
              rw [cn_set, ← HPZ.out] at hst
              have hbs := hbel.setCell (p := ⟨g, M, none⟩) hg (.int .u8 (y2 : Int))
              have HST := Lib.hid hst
              clear hy hyb hs8 hp hy2 hM hN hown hbel hst
              go_wp2
              go_roundw
              case rel =>
                refine ⟨j + 1, by have := HZL.out; have := HKJ.out; omega, ?_, ?_, ?_⟩
                · congr 1
                  have := HZL.out
                  have := HKJ.out
                  omega
                · congr 1
                  have := HAT2.out
                  omega
                · rw [HNX.out]
                  have e : (pack (B2 ++ [0])).length = P1.length := by rw [HPZ.out, List.length_set]
                  refine ⟨?_, hbs⟩
                  rw [e]
                  exact HST.out
              case measure => simp [intOf]
            · clear hM hN
              go_wp2
              go_roundw
              case rel =>
                refine ⟨j + 1, by have := HZL.out; have := HKJ.out; omega, ?_, ?_, ?_⟩
                · congr 1
                  have := HZL.out
                  have := HKJ.out
                  omega
                · congr 1
                  have := HAT2.out
                  omega
                · rw [HNX.out, ← HP1.out]
                  exact ⟨hown, hbel⟩
              case measure => simp [intOf]
        · obtain rfl : j = L := by omega
          rw [show ((j : Int) - 1 - (j : Int)) = -1 by omega]
          have HROW : Hid (Row w1.heap.size w1 (pack (B ++ Z)) u5 wr) := Lib.hid (by
            have e : Z.take j = Z := List.take_of_length_le (by rw [HZL.out]; exact Nat.le_refl _)
            rw [e] at hrow
            exact hrow)
          clear hrow
          go_wp2
          go_roundw
          case rel =>
            refine ⟨k + 1, by have := HL.out; omega, by go_num, by rw [HN.out], ?_⟩
            rw [HE.out]
            exact HROW.out
          case measure => simp [intOf]; omega
    · obtain rfl : k = n := by have := HL.out; omega
      have e : l.take k = l := List.take_of_length_le (by have := HL.out; omega)
      rw [e] at hrow ⊢
      go_wp2
      go_ret
      exact ⟨_, rfl, own_more hrow.1 hb1.size, hb1.trans (hrow.2.mono hb1.size)⟩
end Go.Proofs.YtiandidencnlcaaDoor
