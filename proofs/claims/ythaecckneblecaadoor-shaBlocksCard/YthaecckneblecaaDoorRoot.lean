/- Contract of the reference's root: the greatest r with r^k at most p times 2^(32k), its lowest 32 bits. -/
import Derived.Test.YthaecckneblecaaDoorBelow
namespace Go.Proofs.YthaecckneblecaaDoor
open Go.RowKit Sh

/-- R is the greatest whole number whose k-th power is at most p times 2^(32k). -/
def IsRoot (p k R : Nat) : Prop := R ^ k ≤ p * 65536 ^ (2 * k) ∧ p * 65536 ^ (2 * k) < (R + 1) ^ k
def RtR (p k : Nat) (w : World) (v i : Value) (wr : World) : Prop :=
  ∃ b r : Nat, b ≤ 37 ∧ i = .int .i64 ((b : Int) - 1) ∧ v = .int .u64 r ∧ r % 2 ^ b = 0 ∧ r < 137438953472 ∧ r ^ k ≤ p * 65536 ^ (2 * k) ∧ p * 65536 ^ (2 * k) < (r + 2 ^ b) ^ k ∧ Below w.heap.size w wr
theorem or_bit {r b : Nat} (hb : b ≤ 36) (hr : r < 137438953472) (h : r % 2 ^ (b + 1) = 0) : bits BinOp.or IntKind.u64 (r : Int) (IntKind.u64.wrap (2 ^ b)) = ((r + 2 ^ b : Nat) : Int) := by
  have h1 : (2 : Nat) ^ b ≤ 2 ^ 36 := Nat.pow_le_pow_right (by omega) hb
  have ew : IntKind.u64.wrap ((2 : Int) ^ b) = ((2 ^ b : Nat) : Int) := by
    rw [show ((2 : Int) ^ b) = ((2 ^ b : Nat) : Int) by simp, IntKind.wrap_u64]
    generalize 2 ^ b = q at *
    omega
  rw [ew, u64_or_nat _ _ (by omega) (by omega), nat_join (b + 1) r (2 ^ b) h (Nat.pow_lt_pow_right (by omega) (by omega))]
theorem bit_lt {r b : Nat} (hb : b ≤ 36) (hr : r < 137438953472) (h : r % 2 ^ (b + 1) = 0) : r + 2 ^ b < 137438953472 := by
  obtain ⟨q, hq⟩ : 2 ^ (b + 1) ∣ r := Nat.dvd_of_mod_eq_zero h
  have e : (137438953472 : Nat) = 2 ^ (b + 1) * 2 ^ (36 - b) := by rw [← Nat.pow_add, show b + 1 + (36 - b) = 37 by omega]
  rw [hq, e] at hr
  have hqlt : q < 2 ^ (36 - b) := Nat.lt_of_mul_lt_mul_left hr
  have h3 : 2 ^ (b + 1) * (q + 1) ≤ 2 ^ (b + 1) * 2 ^ (36 - b) := Nat.mul_le_mul_left _ hqlt
  have h4 : 0 < 2 ^ b := Nat.pow_pos (by omega)
  rw [← e, Nat.mul_add, ← hq, Nat.mul_one, Nat.pow_succ] at h3
  omega
def RtPost (w : World) (p k : Nat) (e : Ending) (w' : World) : Prop := ∃ R : Nat, IsRoot p k R ∧ e = .returned (.int .u32 ((R % 4294967296 : Nat) : Int)) ∧ Below w.heap.size w w'
set_option maxHeartbeats 2000000 in
theorem root_any (p k : Nat) (w : World) (hk0 : 2 ≤ k) (hk : k ≤ 3) (hp : p ≤ 1000) : Calls Tryd.prog 19 #[.int .i64 p, .int .i64 k] w (RtPost w p k) := by
  have hM : p * 65536 ^ (2 * k) < (0 + 2 ^ 37) ^ k := by
    rcases (show k = 2 ∨ k = 3 by omega) with rfl | rfl
    · show p * 18446744073709551616 < 18889465931478580854784
      omega
    · show p * 79228162514264337593543950336 < 2596148429267413814265248164610048
      omega
  have HM := Lib.hid hM
  clear hM
  go_enter Tryd.func19, Tryd.ntmps19
  go_wp2
  go_loopw [5, 6] (fun v i wr => RtR p k w v i wr) (fun _ i _ => (intOf i + 1).toNat)
  case atStart => exact ⟨37, 0, by omega, rfl, rfl, rfl, by omega, by rw [Nat.zero_pow (by omega)]; omega, HM.out, Below.refl _ _⟩
  case round =>
    obtain ⟨b, r, hb, rfl, rfl, hr, hrl, h1, h2, hbel⟩ := hrel
    have HR := Lib.hid hr
    have H1 := Lib.hid h1
    have H2 := Lib.hid h2
    clear hr h1 h2
    by_cases hlt : 0 < b
    · obtain ⟨s, rfl⟩ : ∃ s, b = s + 1 := ⟨b - 1, by omega⟩
      have es : ((s + 1 : Nat) : Int) - 1 = (s : Int) := by omega
      rw [es]
      clear es
      obtain ⟨x, hx⟩ : ∃ x, x = r + 2 ^ s := ⟨_, rfl⟩
      have ex : bits BinOp.or IntKind.u64 (r : Int) (IntKind.u64.wrap (2 ^ s)) = (x : Int) := by rw [or_bit (by omega) hrl HR.out, hx]
      have hx1 : x < 137438953472 := by rw [hx]; exact bit_lt (by omega) hrl HR.out
      have HX := Lib.hid hx
      clear hx
      go_wp2_with fail
      with_reducible refine (power_any x k wr (by omega) (by omega)).mono ?_
      rintro e w2 ⟨d, A, c, rfl, hl, hA, hdg, hV, hb2⟩
      have HL := Lib.hid hl
      have HV := Lib.hid hV
      have hb02 := hbel.trans (hb2.mono hbel.size)
      clear hl hV
      by_cases hle : x ^ k ≤ p * 65536 ^ (2 * k)
      · have eb : bw d p k = true := bw_yes (by rw [HV.out]; exact hle)
        have HE := Lib.hid hle
        have EB := Lib.hid (below_any A d (3 * k + 1) c p k w2 hA hdg HL.out rfl (by omega) (by omega) hp)
        clear hle
        go_wp2_with fail
        with_reducible refine (EB.out).mono ?_
        rw [eb]
        rintro e w' ⟨rfl, rfl⟩
        clear EB eb
        go_wp2
        go_roundw
        case rel =>
          have st := (root_step HR.out H1.out H2.out).1 (by rw [← HX.out]; exact HE.out)
          rw [← HX.out] at st
          exact ⟨s, x, by omega, rfl, rfl, st.1, hx1, st.2.1, st.2.2, hb02⟩
        case measure => simp [intOf]
      · have eb : bw d p k = false := bw_no (by rw [HV.out]; exact hle)
        have HE := Lib.hid hle
        have EB := Lib.hid (below_any A d (3 * k + 1) c p k w2 hA hdg HL.out rfl (by omega) (by omega) hp)
        clear hle
        go_wp2_with fail
        with_reducible refine (EB.out).mono ?_
        rw [eb]
        rintro e w' ⟨rfl, rfl⟩
        clear EB eb
        go_wp2
        go_roundw
        case rel =>
          have st := (root_step HR.out H1.out H2.out).2 (by rw [← HX.out]; exact HE.out)
          exact ⟨s, r, by omega, rfl, rfl, st.1, hrl, st.2.1, st.2.2, hb02⟩
        case measure => simp [intOf]
    · obtain rfl : b = 0 := by omega
      go_wp2
      go_ret
      refine ⟨r, ⟨H1.out, by have := H2.out; simpa using this⟩, ret_int ?_, hbel⟩
      simp
end Go.Proofs.YthaecckneblecaaDoor
