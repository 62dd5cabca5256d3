/- Contract of the reference's Decode. -/
import Derived.Test.YtpoffmnaoohkpaaDoorHEnc
namespace Go.Proofs.YtpoffmnaoohkpaaDoor
open Go.RowKit Hf

/-- What Decode hands back: bytes in new memory, and what went wrong. -/
def DecPost (w : World) (s : List Nat × Nat) (e : Ending) (w' : World) : Prop := ∃ A c, e = .returned (.tuple #[.slice A s.1.length c, .int .i64 ((s.2 : Nat) : Int)]) ∧ At .u8 w' w'.heap.size A s.1 ∧ (A = none → c = 0) ∧ Below w.heap.size w w'
def DcO (w : World) (b : List Nat) (most : Int) (v x l i : Value) (wr : World) : Prop :=
  ∃ (k W L : Nat) (o : List Nat), k ≤ 8 * b.length ∧ i = .int .i64 (k : Int) ∧ x = .int .u32 (W : Int) ∧ W < 4294967296 ∧ l = .int .i64 (L : Int) ∧ L ≤ k ∧ o.length ≤ k ∧ run most ((unp b).drop k) W L o = dec b most ∧ Row w.heap.size w o v wr
def toI : Option Nat → Int
  | none => -1
  | some i => i
def DcI (W L : Nat) (f i : Value) : Prop := ∃ k : Nat, k ≤ 257 ∧ i = .int .i64 (k : Int) ∧ f = .int .i64 (toI (fnd W L k))
theorem fnd_low (W L : Nat) (h : L < 5) : ∀ n, n ≤ 257 → fnd W L n = none
  | 0, _ => rfl
  | n + 1, hn => by
    have := (tab_lim ⟨n, by omega⟩).2.1
    simp only at this
    rw [fnd, if_neg (by omega), fnd_low W L h n (by omega)]
set_option maxRecDepth 100000 in
set_option maxHeartbeats 8000000 in
theorem rdec_any (A : Option Addr) (b : List Nat) (n c : Nat) (most : Int) (w : World) (hA : At .u8 w w.heap.size A b) (hb : ∀ x ∈ b, x < 256) (hl : b.length = n) (hn : n ≤ 10000) :
    Calls Tryd.prog 12 #[.slice A n c, .int .i64 most] w (DecPost w (dec b most)) := by
  obtain ⟨i0, hi0, hz0, hz1, hz2⟩ := info_parts infoU8
  have HA := Lib.hid hA
  have HB := Lib.hid hb
  have HL := Lib.hid hl
  clear hA hb hl
  obtain ⟨D, hD⟩ : ∃ D, D = dec b most := ⟨_, rfl⟩
  rw [← hD]
  have HD := Lib.hid hD
  clear hD
  go_enter Tryd.func12, Tryd.ntmps12
  go_wp2_with fail
  with_reducible refine (codes_any w).mono ?_
  rintro e w1 ⟨Ac, Al, rfl, hcod, hlen, hb1⟩
  obtain ⟨bl, ol, hAl, _⟩ := hlen.ln 0 (by omega)
  obtain ⟨bc, oc, hAc, _⟩ := hcod.cd 0 (by omega)
  subst hAl hAc
  have HLEN := Lib.hid hlen
  have HCOD := Lib.hid hcod
  have HA1 := Lib.hid (HA.out.up hb1)
  clear hcod hlen HA
  go_wp2
  go_loopw [8, 9, 10, 11] (fun v x l i wr => DcO w1 b most v x l i wr) (fun _ _ _ i _ => 8 * n - (intOf i).toNat)
  case atStart =>
    exact ⟨0, 0, 0, [], Nat.zero_le _, rfl, rfl, by omega, rfl, by omega, by simp, rfl, (World.ownsRow_nil _ _ _ _ : w1.ownsRow w1.heap.size 5 1 (.slice none 0 0) 0 []), Below.refl _ _⟩
  case round =>
    obtain ⟨k, W, L, o, hk, rfl, rfl, hW, rfl, hLk, hok, hrun, hrow⟩ := hrel
    have hbn := HL.out
    by_cases hlt : k < 8 * n
    · have hku : k < (unp b).length := by rw [unp_len]; omega
      obtain ⟨q, hq⟩ : ∃ q, q = k / 8 := ⟨_, rfl⟩
      obtain ⟨r8, hr8⟩ : ∃ r, r = k % 8 := ⟨_, rfl⟩
      have hqb : q < b.length := by omega
      obtain ⟨ab, ao, rfl, hab, hc⟩ := HA1.out.pos (by omega)
      obtain ⟨y, hy⟩ : ∃ y, y = b[q] := ⟨_, rfl⟩
      have hy256 : y < 256 := by rw [hy]; exact HB.out _ (List.getElem_mem _)
      have cy : wr.cell? ⟨ab, ao + q, none⟩ = some (.int .u8 (y : Int)) := by
        rw [hrow.2.cell (p := ⟨ab, ao + q, none⟩) hab, hy]
        exact hc q hqb
      obtain ⟨s8, hs8⟩ : ∃ s, s = 7 - r8 := ⟨_, rfl⟩
      obtain ⟨z, hz⟩ : ∃ z, z = y / 2 ^ s8 % 2 := ⟨_, rfl⟩
      have HBIT : Hid ((unp b)[k] = z) := Lib.hid (by
        simp only [unp, List.getElem_map, List.getElem_range]
        rw [← hq, ← hr8, ← hs8, List.getD, List.getElem?_eq_getElem hqb, hz, hy]
        rfl)
      have eq8 : (k : Int) / 8 = (q : Int) := by omega
      have er8 : (k : Int) % 8 = (r8 : Int) := by omega
      have es8 : (7 : Int) - (r8 : Int) = (s8 : Int) := by omega
      have su : IntKind.u64.wrap (s8 : Int) = (s8 : Int) := by
        have e : ∀ z : Int, IntKind.u64.wrap z = z % 18446744073709551616 := fun z => by simp [IntKind.wrap, IntKind.bits, IntKind.signed]
        rw [e]
        omega
      have hs7 : s8 ≤ 7 := by omega
      obtain ⟨Y, hY⟩ : ∃ Y, Y = y / 2 ^ s8 := ⟨_, rfl⟩
      have eY : (y : Int) / 2 ^ s8 = (Y : Int) := by rw [hY, show ((2 : Int) ^ s8) = ((2 ^ s8 : Nat) : Int) by simp, ← Int.natCast_ediv]
      have hY256 : Y < 256 := by rw [hY]; exact Nat.lt_of_le_of_lt (Nat.div_le_self _ _) hy256
      have ez : bits BinOp.and IntKind.u8 (Y : Int) 1 = (z : Int) := by
        have := u8_and_nat Y 1 hY256 (by omega)
        rw [Nat.and_one_is_mod, show Y % 2 = z by rw [hz, hY]] at this
        exact this
      have hz1' : z ≤ 1 := by omega
      have ez2 : IntKind.u32.wrap (z : Int) = (z : Int) := by rw [IntKind.wrap_u32']; omega
      obtain ⟨W1, hW1⟩ : ∃ W1, W1 = W * 2 % 4294967296 := ⟨_, rfl⟩
      have eW1 : (W : Int) * 2 % 4294967296 = (W1 : Int) := by omega
      have eW1' : IntKind.u32.wrap ((W : Int) * 2) = (W1 : Int) := by rw [IntKind.wrap_u32']; omega
      obtain ⟨W2, hW2⟩ : ∃ W2, W2 = W1 + z := ⟨_, rfl⟩
      have hW2l : W2 < 4294967296 := by omega
      have eor : bits BinOp.or IntKind.u32 (W1 : Int) (z : Int) = (W2 : Int) := by
        have := u32_or_nat W1 z (by omega) (by omega)
        rw [nat_join 1 W1 z (by omega) (by omega), ← hW2] at this
        exact this
      have HD2 : Hid ((unp b).drop k = z :: (unp b).drop (k + 1)) := Lib.hid (by rw [List.drop_eq_getElem_cons hku, HBIT.out])
      have HW2 : Hid (W * 2 % 4294967296 + z = W2) := Lib.hid (by rw [hW2, hW1])
      have HRUN := Lib.hid hrun
      have HROW := Lib.hid hrow
      have qi : (q : Int) < (n : Int) := by omega
      have ki : (k : Int) < 8 * (n : Int) := by omega
      clear hq hr8 hy hs8 hz hY hW1 hW2 hrun hrow hku hqb hc hbn HBIT
      obtain ⟨L2, hL2⟩ : ∃ L2, L2 = L + 1 := ⟨_, rfl⟩
      have eL2 : (L : Int) + 1 = (L2 : Int) := by omega
      have hL2b : L2 ≤ 80000 := by omega
      have HL2 := Lib.hid hL2
      clear hL2
      by_cases hL5 : L2 < 5
      · have q5 : decide ((5 : Int) ≤ (L2 : Int)) = false := decide_eq_false (by omega)
        go_wp2
        go_loop [12, 13] (fun f i => i = .int .i64 0 ∧ f = .int .i64 (-1)) (fun _ i => 257 - (intOf i).toNat)
        case atStart => exact ⟨rfl, rfl⟩
        case round =>
          obtain ⟨rfl, rfl⟩ := hrel
          go_wp2
          go_roundw
          case rel =>
            refine ⟨k + 1, W2, L2, o, by have := HL.out; omega, by go_num, rfl, hW2l, rfl, by have := HL2.out; omega, by omega, ?_, HROW.out⟩
            rw [← HRUN.out, HD2.out, run_none (by rw [HW2.out, ← HL2.out]; exact fnd_low _ _ hL5 257 (Nat.le_refl _)), HW2.out, ← HL2.out]
          case measure => simp [intOf]; omega
      · have q5 : decide ((5 : Int) ≤ (L2 : Int)) = true := decide_eq_true (by omega)
        have q5' : (5 : Int) ≤ (L2 : Int) := by omega
        have hbw := HROW.out.2
        go_wp2
        go_loop [12, 13] (fun f i => DcI W2 L2 f i) (fun _ i => 257 - (intOf i).toNat)
        case atStart => exact ⟨0, by omega, rfl, rfl⟩
        case round =>
          obtain ⟨t, ht, rfl, rfl⟩ := hrel
          by_cases ht7 : t < 257
          · obtain ⟨bl', ol', e1, cl⟩ := HLEN.out.ln t ht7
            obtain ⟨bc', oc', e2, cc⟩ := HCOD.out.cd t ht7
            injection e1 with e1a e1b
            injection e2 with e2a e2b
            subst e1a e1b e2a e2b
            have cl2 : wr.cell? ⟨bl, ol + t, none⟩ = some (.int .i64 ((ln t : Nat) : Int)) := (hbw.cell (p := ⟨bl, ol + t, none⟩) (World.block_lt_of_cell? w1 _ cl)).trans cl
            have cc2 : wr.cell? ⟨bc, oc + t, none⟩ = some (.int .u32 ((cd t : Nat) : Int)) := (hbw.cell (p := ⟨bc, oc + t, none⟩) (World.block_lt_of_cell? w1 _ cc)).trans cc
            have hF : fnd W2 L2 (t + 1) = if ln t = L2 ∧ cd t = W2 then some t else fnd W2 L2 t := rfl
            generalize ln t = x1 at cl2 hF
            generalize cd t = x2 at cc2 hF
            have HF := Lib.hid hF
            have ti : (t : Int) < 257 := by omega
            clear cl cc hF
            obtain ⟨f0, hf0⟩ : ∃ f, f = toI (fnd W2 L2 t) := ⟨_, rfl⟩
            rw [← hf0]
            have HF0 := Lib.hid hf0
            clear hf0
            by_cases h1 : x1 = L2
            · have p1 : ((x1 : Int) == (L2 : Int)) = true := by simp; omega
              by_cases h2 : x2 = W2
              · have p2 : ((x2 : Int) == (W2 : Int)) = true := by simp; omega
                go_wp2
                go_round
                case rel => exact ⟨t + 1, by omega, by go_num, by rw [HF.out, if_pos ⟨h1, h2⟩]; rfl⟩
                case measure => simp [intOf]; omega
              · have p2 : ((x2 : Int) == (W2 : Int)) = false := by simp; omega
                go_wp2
                go_round
                case rel => exact ⟨t + 1, by omega, by go_num, by rw [HF.out, if_neg (fun h => h2 h.2), HF0.out]⟩
                case measure => simp [intOf]; omega
            · have p1 : ((x1 : Int) == (L2 : Int)) = false := by simp; omega
              go_wp2
              go_round
              case rel => exact ⟨t + 1, by omega, by go_num, by rw [HF.out, if_neg (fun h => h1 h.1), HF0.out]⟩
              case measure => simp [intOf]; omega
          · obtain rfl : t = 257 := by omega
            cases hF : fnd W2 L2 257 with
            | none =>
              rw [show toI none = -1 from rfl]
              have HF := Lib.hid hF
              clear hF
              go_wp2
              go_roundw
              case rel =>
                refine ⟨k + 1, W2, L2, o, by have := HL.out; omega, by go_num, rfl, hW2l, rfl, by have := HL2.out; omega, by omega, ?_, HROW.out⟩
                rw [← HRUN.out, HD2.out, run_none (by rw [HW2.out, ← HL2.out]; exact HF.out), HW2.out, ← HL2.out]
              case measure => simp [intOf]; omega
            | some f =>
              rw [show toI (some f) = (f : Int) from rfl]
              have hf7 := ((fnd_spec _ _ 257).1 f hF).1
              have HF := Lib.hid hF
              clear hF
              by_cases h256 : f = 256
              · have p0 : ((f : Int) == 256) = true := by simp; omega
                have HDD : Hid (D = ([], 2)) := Lib.hid (by rw [HD.out, ← HRUN.out, HD2.out, run_some (by rw [HW2.out, ← HL2.out]; exact HF.out), if_pos h256])
                have hb3 : Below w.heap.size w wr := hb1.trans (hbw.mono hb1.size)
                go_wp2
                go_ret2
                rw [HDD.out]
                exact ⟨none, 0, rfl, at_nil _ _ _ _, fun _ => rfl, hb3⟩
              · have p0 : ((f : Int) == 256) = false := by simp; omega
                have p1 : (0 : Int) ≤ (f : Int) := by omega
                obtain ⟨A8, c8, hv8⟩ := own_shape HROW.out.1
                subst hv8
                by_cases hlong : most ≤ (o.length : Int)
                · have HDD : Hid (D = ([], 3)) := Lib.hid (by rw [HD.out, ← HRUN.out, HD2.out, run_some (by rw [HW2.out, ← HL2.out]; exact HF.out), if_neg h256, if_pos hlong])
                  have hb3 : Below w.heap.size w wr := hb1.trans (hbw.mono hb1.size)
                  go_wp2
                  go_ret2
                  rw [HDD.out]
                  exact ⟨none, 0, rfl, at_nil _ _ _ _, fun _ => rfl, hb3⟩
                · have HRN : Hid (run most ((unp b).drop (k + 1)) 0 0 (o ++ [f]) = dec b most) := Lib.hid (by rw [← HRUN.out, HD2.out, run_some (by rw [HW2.out, ← HL2.out]; exact HF.out), if_neg h256, if_neg hlong])
                  have hlong' : (o.length : Int) < most := by omega
                  have fw : IntKind.u8.wrap (f : Int) = (f : Int) := by rw [IntKind.wrap_u8']; omega
                  have hrow := HROW.out
                  go_wp2_with (at_builtin; refine wpList_append_at rfl (.tmp 75) (.tmp 78) rfl w1.heap.size _ o rfl (hrow.1.alloc _) (some ⟨wr.heap.size, 0, none⟩) [f] _ 1 rfl rfl (fun h => by cases h) _ (At.new wr [f] 5 (0, 0)) ?_ ?_ ?_; (rotate_right; intro v9 w9 hown9 hg9))
                  · have hb9 := (hrow.2.alloc hrow.2.size _).grown hg9 (by have := hrow.2.size; simp; omega) (own_block hrow.1)
                    clear hg9 hrow
                    go_wp2
                    go_roundw
                    case rel =>
                      exact ⟨k + 1, 0, 0, o ++ [f], by have := HL.out; omega, by go_num, rfl, by omega, rfl, by omega, by simp; omega, HRN.out, hown9, hb9⟩
                    case measure => simp [intOf]; omega
                  all_goals first | (simp; omega) | (have := hrow.2.size; simp; omega) | simp
    · have hk8 : k = 8 * n := by omega
      have hnil : (unp b).drop k = [] := List.drop_of_length_le (by rw [unp_len]; omega)
      rw [hnil, run] at hrun
      have HRUN := Lib.hid hrun
      have kd : decide ((k : Int) < 8 * (n : Int)) = false := decide_eq_false (by omega)
      have kn : ¬ (k : Int) < 8 * (n : Int) := by omega
      have hb3 : Below w.heap.size w wr := hb1.trans (hrow.2.mono hb1.size)
      obtain ⟨A8, c8, hv8⟩ := own_shape hrow.1
      subst hv8
      have HROW := Lib.hid hrow
      have hLb : L ≤ 80000 := by omega
      clear hrun hnil hk8 hrow hbn hlt
      by_cases h7 : 7 < L
      · have p7 : decide ((7 : Int) < (L : Int)) = true := decide_eq_true (by omega)
        have HDD : Hid (D = ([], 2)) := Lib.hid (by rw [HD.out, ← HRUN.out, if_pos (Or.inl h7)])
        go_wp2
        go_ret2
        rw [HDD.out]
        exact ⟨none, 0, rfl, at_nil _ _ _ _, fun _ => rfl, hb3⟩
      · have p7 : decide ((7 : Int) < (L : Int)) = false := decide_eq_false (by omega)
        obtain ⟨p, hp⟩ : ∃ p, p = 2 ^ L := ⟨_, rfl⟩
        have hp1 : 1 ≤ p := by rw [hp]; exact Nat.one_le_two_pow
        have hp2 : p ≤ 128 := by rw [hp]; exact Nat.pow_le_pow_right (by decide) (show L ≤ 7 by omega)
        have ep : ((2 : Int) ^ L) = (p : Int) := by rw [hp]; simp
        obtain ⟨M, hM⟩ : ∃ M, M = p - 1 := ⟨_, rfl⟩
        have eM : (p : Int) - 1 = (M : Int) := by omega
        have su : IntKind.u64.wrap (L : Int) = (L : Int) := by
          have e : ∀ z : Int, IntKind.u64.wrap z = z % 18446744073709551616 := fun z => by simp [IntKind.wrap, IntKind.bits, IntKind.signed]
          rw [e]
          omega
        have HM : Hid (2 ^ L - 1 = M) := Lib.hid (by rw [hM, hp])
        have hL7 : L ≤ 7 := by omega
        clear hp hM
        by_cases hWM : W = M
        · have pn : ((W : Int) != (M : Int)) = false := by simp; omega
          have HDD : Hid (D = (o, 0)) := Lib.hid (by rw [HD.out, ← HRUN.out, HM.out, if_neg (by omega)])
          go_wp2
          go_ret2
          rw [HDD.out]
          exact ⟨A8, c8, rfl, At.of_own HROW.out.1, own_none HROW.out.1, hb3⟩
        · have pn : ((W : Int) != (M : Int)) = true := by simp; omega
          have HDD : Hid (D = ([], 2)) := Lib.hid (by rw [HD.out, ← HRUN.out, HM.out, if_pos (Or.inr hWM)])
          go_wp2
          go_ret2
          rw [HDD.out]
          exact ⟨none, 0, rfl, at_nil _ _ _ _, fun _ => rfl, hb3⟩
end Go.Proofs.YtpoffmnaoohkpaaDoor
