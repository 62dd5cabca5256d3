/- Contracts of the landed Code and Bits. They turn nothing in the world. -/
import Derived.Test.YtpoffmnaoohkpaaDoorHEnc
import Derived.Test.YtpoffmnaoohkpaaDoorHLand
import Derived.Laws.Externs
import Derived.Lib.Bytealg
import Derived.WalkMore
import Derived.ScopeJumps
namespace Go.Proofs.YtpoffmnaoohkpaaDoor
open Go.RowKit Hf

/-- The table of counts lies in block 0. -/
def Rdy (w : World) : Prop := ∀ i (h : i < cnt.length), w.cell? ⟨0, i, none⟩ = some (.int .i64 (cnt[i] : Int))
theorem Rdy.pos {w : World} (h : Rdy w) : 0 < w.heap.size := World.block_lt_of_cell? w ⟨0, 0, none⟩ (h 0 (by rw [cnt_len]; omega))
theorem Rdy.below {w w' : World} (h : Rdy w) (hb : Below w.heap.size w w') : Rdy w' := fun i hi => (hb.cell (p := ⟨0, i, none⟩) h.pos).trans (h i hi)
theorem Rdy.low {w w' : World} {B : Nat} (h : Rdy w) (hb : Below B w w') (hB : 0 < B) : Rdy w' := fun i hi => (hb.cell (p := ⟨0, i, none⟩) hB).trans (h i hi)
theorem Rdy.ct {w : World} (h : Rdy w) (i : Nat) (hi : i < 31) : w.cell? ⟨0, i, none⟩ = some (.int .i64 ((Hf.ct i : Nat) : Int)) := by
  have hl : i < cnt.length := by rw [cnt_len]; exact hi
  rw [h i hl, Hf.ct, List.getD, List.getElem?_eq_getElem hl]
  rfl
abbrev byB : ByteArray := ⟨#[48, 49, 50, 97, 99, 101, 105, 111, 115, 116, 32, 37, 45, 46, 47, 51, 52, 53, 54, 55, 56, 57, 61, 65, 95, 98, 100, 102, 103, 104, 108, 109, 110, 112, 114, 117, 58, 66, 67, 68, 69, 70, 71, 72, 73, 74, 75, 76, 77, 78, 79, 80, 81, 82, 83, 84, 85, 86, 87, 89, 106, 107, 113, 118, 119, 120, 121, 122, 38, 42, 44, 59, 88, 90, 33, 34, 40, 41, 63, 39, 43, 124, 35, 62, 0, 36, 64, 91, 93, 126, 94, 125, 60, 96, 123, 92, 195, 208, 128, 130, 131, 162, 184, 194, 224, 226, 153, 161, 167, 172, 176, 177, 179, 209, 216, 217, 227, 229, 230, 129, 132, 133, 134, 136, 146, 154, 156, 160, 163, 164, 169, 170, 173, 178, 181, 185, 186, 187, 189, 190, 196, 198, 228, 232, 233, 1, 135, 137, 138, 139, 140, 141, 143, 147, 149, 150, 151, 152, 155, 157, 158, 165, 166, 168, 174, 175, 180, 182, 183, 188, 191, 197, 231, 239, 9, 142, 144, 145, 148, 159, 171, 206, 215, 225, 236, 237, 199, 207, 234, 235, 192, 193, 200, 201, 202, 205, 210, 213, 218, 219, 238, 240, 242, 243, 255, 203, 204, 211, 212, 214, 221, 222, 223, 241, 244, 245, 246, 247, 248, 250, 251, 252, 253, 254, 2, 3, 4, 5, 6, 7, 8, 11, 12, 14, 15, 16, 17, 18, 19, 20, 21, 23, 24, 25, 26, 27, 28, 29, 30, 31, 127, 220, 249, 10, 13, 22]⟩
theorem run_ix (s : ByteArray) (c : Nat) (w : World) : (callFunc 23 #[.string s, .int .u8 (c : Int)]).run Tryd.prog w = .ok (.value (.int .i64 (firstIdx s c.toUInt8))) w := by
  rw [run_callFunc_extern (f := 23) (fn := Tryd.f23) Tryd.func23 (by kernel_rfl) (by kernel_rfl) (by kernel_rfl) (e := Go.Extern.BytealgIndexByte.indexByte) (by rfl), run_indexByte_string]
  simp [Result.andThen]
theorem ixl_any (s : ByteArray) (c : Nat) (w : World) : Calls Tryd.prog 22 #[.string s, .int .u8 (c : Int)] w fun e w' => e = .returned (.int .i64 (firstIdx s c.toUInt8)) ∧ w' = w := by
  have hr := run_ix s c
  go_enter Tryd.func22, Tryd.ntmps22
  go_wp2
  go_ret
  exact ⟨rfl, rfl⟩
theorem ix_any (s : ByteArray) (c : Nat) (w : World) : Calls Tryd.prog 20 #[.string s, .int .u8 (c : Int)] w fun e w' => e = .returned (.int .i64 (firstIdx s c.toUInt8)) ∧ w' = w := by
  go_enter Tryd.func20, Tryd.ntmps20
  go_wp2_with fail
  with_reducible refine (ixl_any s c w).mono ?_
  rintro e w1 ⟨rfl, rfl⟩
  go_wp2
  go_ret
  exact ⟨rfl, rfl⟩
set_option maxRecDepth 100000 in
theorem ix_tab : ∀ x : Fin 256, firstIdx byB (x.1.toUInt8) = ((plc x.1 : Nat) : Int) := of_decide_eq_true (by kernel_rfl)
theorem ix_by (x : Nat) (hx : x < 256) (w : World) : Calls Tryd.prog 20 #[.string byB, .int .u8 (x : Int)] w fun e w' => e = .returned (.int .i64 ((plc x : Nat) : Int)) ∧ w' = w := by
  have h := ix_any byB x w
  rw [ix_tab ⟨x, hx⟩] at h
  exact h
/-- Code's frame at the label. -/
def CdF (x : Nat) (p f l : Nat) (a : Act) : Prop := ∃ u7 u8 u9 u10 u11 u12 u13 u14 u15 u16 u17 u18 u19 u20 u21 u22 u23 u24 u25 u26 u27 u28 u29 u30 u31 u32 : Value, a = { tmps := #[.int .u8 (x : Int), undef, .int .u32 0, .int .i64 0, .int .i64 (p : Int), .int .i64 (f : Int), .int .i64 (l : Int), u7, u8, u9, u10, u11, u12, u13, u14, u15, u16, u17, u18, u19, u20, u21, u22, u23, u24, u25, u26, u27, u28, u29, u30, u31, u32], defers := [] }
def CdJ (w : World) (x : Nat) (a : Act) (w' : World) : Prop := ∃ p f l : Nat, w' = w ∧ CdF x p f l a ∧ l < 30 ∧ p < 256 ∧ f ≤ 32 * (2 ^ l - 1) ∧ cst (30 - l) f l p = some (cd x, ln x)
set_option maxRecDepth 100000 in
set_option maxHeartbeats 4000000 in
theorem code_any (x : Nat) (w : World) (hR : Rdy w) (hx : x < 256) : Calls Tryd.prog 10 #[.int .u8 x] w fun e w' => e = .returned (.tuple #[.int .u32 ((cd x : Nat) : Int), .int .i64 ((ln x : Nat) : Int)]) ∧ w' = w := by
  have hall := cst_all ⟨x, hx⟩
  simp only at hall
  have HX := Lib.hid hx
  have HR := Lib.hid hR
  have c1 : w.cell? ⟨0, 1, none⟩ = some (.int .i64 0) := hR.ct 1 (by omega)
  obtain ⟨r1, hr1⟩ : ∃ r, r = cd x := ⟨_, rfl⟩
  obtain ⟨r2, hr2⟩ : ∃ r, r = ln x := ⟨_, rfl⟩
  rw [← hr1, ← hr2]
  have HR1 := Lib.hid hr1
  have HR2 := Lib.hid hr2
  have hp := hall.2
  have HC : Hid (cst 29 0 1 (plc x) = some (r1, r2)) := Lib.hid (by
    have h := hall.1
    rw [cst, show Hf.ct (0 + 1) = 0 from rfl, if_pos (Nat.zero_le _)] at h
    rw [hr1, hr2]
    exact h)
  clear hR hx hall hr1 hr2
  go_enter Tryd.func10, Tryd.ntmps10
  go_wp2
  refine wp_scope_jumps 0 (CdJ w x) (fun a' _ => 31 - (intOf (a'.tmps.getD 6 undef)).toNat) rfl ?_ ?_
  · go_wp2_with fail
    with_reducible refine (ix_by x HX.out w).mono ?_
    rintro e w1 ⟨rfl, rfl⟩
    generalize plc x = p at hp HC
    go_wp2
    go_step3
    go_wp2
    go_step3
    refine ⟨rfl, p, 0, 1, rfl, ⟨_, _, _, _, _, _, _, _, _, _, _, _, _, _, _, _, _, _, _, _, _, _, _, _, _, _, rfl⟩, by omega, hp, by omega, ?_⟩
    rw [← HR1.out, ← HR2.out]
    exact HC.out
  · rintro a' w' ⟨p, f, l, rfl, ⟨u7, u8, u9, u10, u11, u12, u13, u14, u15, u16, u17, u18, u19, u20, u21, u22, u23, u24, u25, u26, u27, u28, u29, u30, u31, u32, rfl⟩, hl, hp, hf, hc⟩
    obtain ⟨m, hm⟩ : ∃ m, m = l + 1 := ⟨_, rfl⟩
    obtain ⟨c, hc0⟩ : ∃ c, c = Hf.ct m := ⟨_, rfl⟩
    have cc : w'.cell? ⟨0, m, none⟩ = some (.int .i64 (c : Int)) := by rw [hc0]; exact HR.out.ct m (by omega)
    have hc32 : c ≤ 32 := by rw [hc0]; exact (ct_le ⟨m, by omega⟩).1
    have hst : cst (30 - l) f l p = if c ≤ p then cst (30 - m) (2 * f + c) m (p - c) else some (2 * f + p, m) := by rw [hc0, hm, show 30 - l = (30 - (l + 1)) + 1 by omega, cst]
    rw [hst, ← HR1.out, ← HR2.out] at hc
    have hp2 : (2 : Nat) ^ l ≤ 2 ^ 29 := Nat.pow_le_pow_right (by decide) (by omega)
    have hf2 : f ≤ 17179869184 := by omega
    have em : (l : Int) + 1 = (m : Int) := by omega
    have mi : (m : Int) < 31 := by omega
    have HM := Lib.hid hm
    have HF := Lib.hid hf
    have hr1 : r1 < 4294967296 := by
      have h2 := (tab_lim ⟨x, by have := HX.out; omega⟩)
      simp only at h2
      have : 2 ^ ln x ≤ 2 ^ 30 := Nat.pow_le_pow_right (by decide) h2.2.2.1
      rw [HR1.out]
      omega
    clear hst hc0 hm hf hp2
    by_cases hcp : c ≤ p
    · rw [if_pos hcp] at hc
      obtain ⟨p2, hp2⟩ : ∃ p2, p2 = p - c := ⟨_, rfl⟩
      obtain ⟨f2, hf3⟩ : ∃ f2, f2 = 2 * f + c := ⟨_, rfl⟩
      rw [← hp2, ← hf3] at hc
      have HC2 := Lib.hid hc
      have hcp' : (c : Int) ≤ (p : Int) := by omega
      have q : decide ((c : Int) ≤ (p : Int)) = true := decide_eq_true hcp'
      have e1 : (p : Int) - (c : Int) = (p2 : Int) := by omega
      have e2 : 2 * (f : Int) + (c : Int) = (f2 : Int) := by omega
      have HP2 := Lib.hid hp2
      have HF3 := Lib.hid hf3
      clear hc hp2 hf3
      go_wp2
      go_step3
      have hm30 : m < 30 := by
        rcases Nat.lt_or_ge m 30 with h | h
        · exact h
        · have h2 := HC2.out
          rw [show 30 - m = 0 by omega, cst] at h2
          cases h2
      refine ⟨rfl, ⟨p2, f2, m, rfl, ⟨_, _, _, _, _, _, _, _, _, _, _, _, _, _, _, _, _, _, _, _, _, _, _, _, _, _, rfl⟩, hm30, by have := HP2.out; omega, ?_, ?_⟩, ?_⟩
      · have h1 := HF.out
        rw [HM.out, Nat.pow_succ, HF3.out]
        have : 1 ≤ 2 ^ l := Nat.one_le_two_pow
        omega
      · rw [← HR1.out, ← HR2.out]
        exact HC2.out
      · have := HM.out
        simp [intOf]
        omega
    · rw [if_neg hcp] at hc
      injection hc with hc
      injection hc with h1 h2
      have q : decide ((c : Int) ≤ (p : Int)) = false := decide_eq_false (by omega)
      have hcp' : ¬ (c : Int) ≤ (p : Int) := by omega
      have e2 : 2 * (f : Int) + (p : Int) = (r1 : Int) := by omega
      have e3 : IntKind.u32.wrap (r1 : Int) = (r1 : Int) := by rw [IntKind.wrap_u32']; omega
      have e4 : (m : Int) = (r2 : Int) := by omega
      have H2 := Lib.hid e4
      clear h1 h2 e4
      go_wp2
      simp only [Exit.jump]
      go_ret2
      rw [H2.out]
      exact ⟨rfl, rfl⟩
def CodePost (w : World) (x : Nat) (e : Ending) (w' : World) : Prop := e = .returned (.tuple #[.int .u32 ((cd x : Nat) : Int), .int .i64 ((ln x : Nat) : Int)]) ∧ Below w.heap.size w w'
theorem code_f (x : Nat) (w : World) (hR : Rdy w) (hx : x < 256) : Calls Tryd.prog 10 #[.int .u8 x] w (CodePost w x) := by
  refine (code_any x w hR hx).mono ?_
  rintro e w1 ⟨rfl, rfl⟩
  exact ⟨rfl, Below.refl _ _⟩
set_option maxRecDepth 100000 in
set_option maxHeartbeats 2000000 in
theorem bits_any (A : Option Addr) (l : List Nat) (n c : Nat) (w : World) (hR : Rdy w) (hA : At .u8 w w.heap.size A l) (hb : ∀ x ∈ l, x < 256) (hl : l.length = n) (hn : n ≤ 10000) :
    Calls Tryd.prog 13 #[.slice A n c] w fun e w' => e = .returned (.int .i64 ((nBits l : Nat) : Int)) ∧ w' = w := by
  have HA := Lib.hid hA
  have HB := Lib.hid hb
  have HL := Lib.hid hl
  have HR := Lib.hid hR
  clear hA hb hl hR
  go_enter Tryd.func13, Tryd.ntmps13
  go_wp2
  go_loop [3, 5, 6, 7, 10] (fun s _ _ _ i => BtR l s i) (fun _ _ _ _ i => n - (intOf i).toNat)
  case atStart => exact ⟨0, Nat.zero_le _, rfl, rfl⟩
  case round =>
    obtain ⟨k, hk, rfl, rfl⟩ := hrel
    by_cases hlt : k < n
    · have hkl : k < l.length := by have := HL.out; omega
      obtain ⟨b, o, rfl, _, hc⟩ := HA.out.pos (by omega)
      obtain ⟨x, hx⟩ : ∃ x, x = l[k] := ⟨_, rfl⟩
      have cx : w.cell? ⟨b, o + k, none⟩ = some (.int .u8 (x : Int)) := by rw [hx]; exact hc k hkl
      have hx2 : x < 256 := by rw [hx]; exact HB.out _ (List.getElem_mem _)
      have h30 := ln_le x
      have hnb := nBits_le (l.take k)
      have hlk : (l.take k).length ≤ k := List.length_take_le _ _
      have HN : Hid (nBits (l.take (k + 1)) = nBits (l.take k) + ln x) := Lib.hid (by rw [nBits_next l k hkl, hx])
      have HC := Lib.hid (code_any x w HR.out hx2)
      generalize nBits (l.take k) = s at hnb HN
      generalize ln x = y at HC h30 HN
      have ki : (k : Int) < (n : Int) := by omega
      clear hx hc hkl
      go_wp2_with fail
      with_reducible refine (HC.out).mono ?_
      rintro e w1 ⟨rfl, rfl⟩
      go_wp2
      go_round
      case rel =>
        refine ⟨k + 1, by have := HL.out; omega, by go_num, ?_⟩
        rw [HN.out]
        go_num
      case measure => simp [intOf]; omega
    · obtain rfl : k = n := by have := HL.out; omega
      have e : l.take k = l := List.take_of_length_le (by have := HL.out; omega)
      rw [e]
      go_wp2
      go_ret
      exact ⟨rfl, rfl⟩
theorem bits_f (A : Option Addr) (l : List Nat) (n c : Nat) (w : World) (hR : Rdy w) (hA : At .u8 w w.heap.size A l) (hb : ∀ x ∈ l, x < 256) (hl : l.length = n) (_ : A = none → c = 0) (_ : n ≤ c) (hn : n ≤ 10000) :
    Calls Tryd.prog 13 #[.slice A n c] w (NumPost w (nBits l)) := by
  refine (bits_any A l n c w hR hA hb hl hn).mono ?_
  rintro e w1 ⟨rfl, rfl⟩
  exact ⟨rfl, Below.refl _ _⟩
end Go.Proofs.YtpoffmnaoohkpaaDoor
