/- Bits of numbers that are not below nought. -/
import Derived.Test.YtlnppbnbjeakhaaDoorLStr
import Derived.Test.YtlnppbnbjeakhaaDoorLMem
import Derived.Laws.Bits128
namespace Go.Proofs.YtlnppbnbjeakhaaDoor
open Go.RowKit Pn

theorem i64_ofNat (a : Nat) (ha : a < 9223372036854775808) : IntKind.i64.wrap (a : Int) = (a : Int) := by rw [IntKind.wrap_i64]; omega
theorem i64_and_nat (a b : Nat) (ha : a < 9223372036854775808) (hb : b < 9223372036854775808) : bits .and .i64 (a : Int) (b : Int) = ((a &&& b : Nat) : Int) := by
  have hx : a &&& b < 2 ^ 63 := Nat.and_lt_two_pow _ (by omega)
  show IntKind.i64.wrap ((BitVec.ofInt 64 (a : Int) &&& BitVec.ofInt 64 (b : Int)).toNat : Int) = _
  rw [BitVec.toNat_and, ofInt_u64 a (by omega), ofInt_u64 b (by omega)]
  exact i64_ofNat _ (by omega)
theorem i64_or_nat (a b : Nat) (ha : a < 9223372036854775808) (hb : b < 9223372036854775808) : bits .or .i64 (a : Int) (b : Int) = ((a ||| b : Nat) : Int) := by
  have hx : a ||| b < 2 ^ 63 := Nat.or_lt_two_pow (by omega) (by omega)
  show IntKind.i64.wrap ((BitVec.ofInt 64 (a : Int) ||| BitVec.ofInt 64 (b : Int)).toNat : Int) = _
  rw [BitVec.toNat_or, ofInt_u64 a (by omega), ofInt_u64 b (by omega)]
  exact i64_ofNat _ (by omega)
theorem u64_small (B : Nat) (h : B ≤ 1000) : IntKind.u64.wrap (B : Int) = (B : Int) := by
  have e : ∀ z : Int, IntKind.u64.wrap z = z % 18446744073709551616 := fun z => by simp [IntKind.wrap, IntKind.bits, IntKind.signed]
  rw [e]
  omega
end Go.Proofs.YtlnppbnbjeakhaaDoor
/- Contract of the reference's Get. -/
namespace Go.Proofs.YtlnppbnbjeakhaaDoor
open Go.RowKit Pn

/-- What Get hands back: the number, how many bytes it has, what went wrong. -/
def GetPost (w : World) (s : Nat × Nat × Nat) (e : Ending) (w' : World) : Prop := e = .returned (.tuple #[.int .i64 ((s.1 : Nat) : Int), .int .i64 ((s.2.1 : Nat) : Int), .int .i64 ((s.2.2 : Nat) : Int)]) ∧ Below w.heap.size w w'
theorem ret_tuple3 {a a2 b b2 c c2 : Int} (h : a = a2) (h2 : b = b2) (h3 : c = c2) : Ending.returned (.tuple #[.int .i64 a, .int .i64 b, .int .i64 c]) = .returned (.tuple #[.int .i64 a2, .int .i64 b2, .int .i64 c2]) := by rw [h, h2, h3]
def GtR (l : List Nat) (D : Nat × Nat × Nat) (n i : Value) : Prop := ∃ j N : Nat, j ≤ 5 ∧ N ≤ 2147483647 ∧ i = .int .i64 ((j + 1 : Nat) : Int) ∧ n = .int .i64 (N : Int) ∧ rd (5 - j) (l.drop (j + 1)) j N = D
set_option maxRecDepth 100000 in
theorem rget_out (A : Option Addr) (l : List Nat) (n c : Nat) (b : Int) (w : World) (hb : b < 1 ∨ 8 < b) : Calls Tryd.prog 43 #[.slice A n c, .int .i64 b] w (GetPost w (getI l b)) := by
  have HP : Hid (getI l b = (0, 0, 1)) := Lib.hid (by rw [getI, if_pos hb])
  by_cases h1 : b < 1
  · clear hb
    go_enter Tryd.func43, Tryd.ntmps43
    go_wp2
    go_ret3
    rw [HP.out]
    exact ⟨rfl, Below.refl _ _⟩
  · have h2 : 8 < b := by omega
    clear hb
    go_enter Tryd.func43, Tryd.ntmps43
    go_wp2
    go_ret3
    rw [HP.out]
    exact ⟨rfl, Below.refl _ _⟩
set_option maxRecDepth 100000 in
theorem rget_nil (A : Option Addr) (c B : Nat) (w : World) (hB1 : 1 ≤ B) (hB8 : B ≤ 8) : Calls Tryd.prog 43 #[.slice A 0 c, .int .i64 (B : Int)] w (GetPost w (getN [] B)) := by
  go_enter Tryd.func43, Tryd.ntmps43
  go_wp2
  go_ret3
  exact ⟨rfl, Below.refl _ _⟩
set_option maxRecDepth 100000 in
set_option maxHeartbeats 4000000 in
theorem rget_in (A : Option Addr) (l : List Nat) (n c B : Nat) (w : World) (hA : At .u8 w w.heap.size A l) (hb : ∀ x ∈ l, x < 256) (hl : l.length = n) (hn : n ≤ 100000) (hpos : 0 < n) (hB1 : 1 ≤ B) (hB8 : B ≤ 8) :
    Calls Tryd.prog 43 #[.slice A n c, .int .i64 (B : Int)] w (GetPost w (getN l B)) := by
  obtain ⟨bk, o, rfl, _, hc⟩ := hA.pos (by omega)
  obtain ⟨D, hD⟩ : ∃ D, D = getN l B := ⟨_, rfl⟩
  rw [← hD]
  obtain ⟨x, hx⟩ : ∃ x, x = l[0] := ⟨_, rfl⟩
  have cx : w.cell? ⟨bk, o, none⟩ = some (.int .u8 (x : Int)) := by rw [hx]; have := hc 0 (by omega); rwa [Nat.add_zero] at this
  have hx2 : x < 256 := by rw [hx]; exact hb _ (List.getElem_mem _)
  obtain ⟨p, hp⟩ : ∃ p, p = 2 ^ B := ⟨_, rfl⟩
  have hp1 : 2 ≤ p := by rw [hp]; exact Nat.pow_le_pow_right (n := 2) (by decide) hB1
  have hp2 : p ≤ 256 := by rw [hp]; exact full_bound hB8
  have ep : ((2 : Int) ^ B) = (p : Int) := by rw [hp]; simp
  obtain ⟨F, hF⟩ : ∃ F, F = full B := ⟨_, rfl⟩
  have HF2 : Hid (F = p - 1) := Lib.hid (by rw [hF, hp, full])
  have eF : (p : Int) - 1 = (F : Int) := by have := HF2.out; omega
  have hFp : F < p := by omega
  have su := u64_small B (by omega)
  obtain ⟨m, hm⟩ : ∃ m, m = x % p := ⟨_, rfl⟩
  have hmp : m < p := by rw [hm]; exact Nat.mod_lt _ (by omega)
  have em : bits BinOp.and IntKind.i64 (x : Int) (F : Int) = (m : Int) := by rw [i64_and_nat x F (by omega) (by omega), hF, and_low, hm, hp]
  have HD : Hid (D = if m < F then (m, 1, 0) else rd 5 (l.drop 1) 0 m) := Lib.hid (by
    rw [hD]
    rcases l with _ | ⟨y, r⟩
    · simp at hl; omega
    · rw [hm, hF, hx, hp]; rfl)
  have HC := Lib.hid hc
  have HB := Lib.hid hb
  have HL := Lib.hid hl
  have hpi : (n : Int) ≠ 0 := by omega
  have hpi2 : (0 : Int) < (n : Int) := by omega
  clear hp hF hD hx hm hA hc hb hl
  by_cases hlt : m < F
  · go_enter Tryd.func43, Tryd.ntmps43
    go_wp2
    go_ret3
    rw [HD.out, if_pos hlt]
    exact ⟨rfl, Below.refl _ _⟩
  · go_enter Tryd.func43, Tryd.ntmps43
    go_wp2
    go_loop [8, 9] (fun n i => GtR l D n i) (fun _ i => 6 - (intOf i).toNat)
    case atStart => exact ⟨0, m, by omega, by omega, rfl, rfl, by rw [HD.out, if_neg hlt]⟩
    case round =>
      obtain ⟨j, N, hj, hN, rfl, rfl, hrd⟩ := hrel
      clear cx
      by_cases h5 : j < 5
      · by_cases hjn : j + 1 < n
        · have hjl : j + 1 < l.length := by have := HL.out; omega
          obtain ⟨y, hy⟩ : ∃ y, y = l[j + 1] := ⟨_, rfl⟩
          obtain ⟨i, hi⟩ : ∃ i, i = j + 1 := ⟨_, rfl⟩
          have cy : w.cell? ⟨bk, o + i, none⟩ = some (.int .u8 (y : Int)) := by rw [hy, hi]; exact HC.out (j + 1) hjl
          have hy2 : y < 256 := by rw [hy]; exact HB.out _ (List.getElem_mem _)
          obtain ⟨z, hz⟩ : ∃ z, z = y % 128 := ⟨_, rfl⟩
          have ez : bits BinOp.and IntKind.u8 (y : Int) 127 = (z : Int) := by
            have := u8_and_nat y 127 hy2 (by omega)
            rw [show (127 : Nat) = full 7 from rfl, and_low, show y % 2 ^ 7 = z by rw [hz]] at this
            exact this
          obtain ⟨s, hs⟩ : ∃ s, s = 7 * j := ⟨_, rfl⟩
          have es : (7 : Int) * ((i : Int) - 1) = (s : Int) := by omega
          have ss := u64_small s (by omega)
          obtain ⟨q, hq⟩ : ∃ q, q = 2 ^ s := ⟨_, rfl⟩
          have hq2 : q ≤ 268435456 := by rw [hq]; exact (Nat.pow_le_pow_right (by decide) (by omega) : 2 ^ s ≤ 2 ^ 28)
          have eq : ((2 : Int) ^ s) = (q : Int) := by rw [hq]; simp
          obtain ⟨t, ht⟩ : ∃ t, t = z * q := ⟨_, rfl⟩
          have et : (z : Int) * (q : Int) = (t : Int) := by rw [ht]; simp
          have ht2 : t ≤ 127 * 268435456 := by rw [ht]; exact Nat.mul_le_mul (by omega) hq2
          have hsb : s ≤ 28 := by omega
          obtain ⟨V, hV⟩ : ∃ V, V = N + t := ⟨_, rfl⟩
          have eV : (N : Int) + (t : Int) = (V : Int) := by omega
          have HRD : Hid (D = if 2147483647 < V then (0, 0, 1) else if y < 128 then (V, j + 2, 0) else rd (5 - (j + 1)) (l.drop (j + 1 + 1)) (j + 1) V) := Lib.hid (by
            rw [← hrd, List.drop_eq_getElem_cons hjl, ← hy, show 5 - j = 5 - (j + 1) + 1 by omega, rd, ← hz, ← hs, ← hq, ← ht, ← hV])
          have hz128 : z < 128 := by omega
          have hVb : V ≤ 2147483647 + 127 * 268435456 := by omega
          have i5 : (i : Int) < 6 := by omega
          have ij : (i : Int) < (n : Int) := by omega
          rw [show ((j + 1 : Nat) : Int) = (i : Int) by omega]
          have HI := Lib.hid hi
          have hi1 : 1 ≤ i := by omega
          clear hrd hy hz hs hq ht hV hi hj h5 hjn hjl
          by_cases hbig : 2147483647 < V
          · go_wp2
            go_ret3
            rw [HRD.out, if_pos hbig]
            exact ⟨rfl, Below.refl _ _⟩
          · by_cases h128 : y < 128
            · go_wp2
              go_ret3
              rw [HRD.out, if_neg hbig, if_pos h128]
              exact ⟨ret_tuple3 rfl (by have := HI.out; simp; omega) rfl, Below.refl _ _⟩
            · go_wp2
              go_round
              case rel => exact ⟨j + 1, V, by have := HI.out; omega, by omega, by have := HI.out; go_num, rfl, by rw [HRD.out, if_neg hbig, if_neg h128]⟩
              case measure => simp [intOf]; have := HI.out; omega
        · have HRD : Hid (D = (0, 0, 4)) := Lib.hid (by rw [← hrd, List.drop_of_length_le (by have := HL.out; omega), show 5 - j = 5 - (j + 1) + 1 by omega, rd])
          obtain ⟨i, hi⟩ : ∃ i, i = j + 1 := ⟨_, rfl⟩
          rw [show ((j + 1 : Nat) : Int) = (i : Int) by omega]
          have i5 : (i : Int) < 6 := by omega
          have ij : ¬ (i : Int) < (n : Int) := by omega
          have ij' : (n : Int) ≤ (i : Int) := by omega
          clear hrd hi
          go_wp2
          go_ret3
          rw [HRD.out]
          exact ⟨rfl, Below.refl _ _⟩
      · obtain rfl : j = 5 := by omega
        have HRD : Hid (D = (0, 0, 1)) := Lib.hid (by rw [← hrd, rd])
        clear hrd
        go_wp2
        go_ret3
        rw [HRD.out]
        exact ⟨rfl, Below.refl _ _⟩
/-- The reference's Get, at all arguments. -/
theorem rget_any (A : Option Addr) (l : List Nat) (n c : Nat) (b : Int) (w : World) (hA : At .u8 w w.heap.size A l) (hb : ∀ x ∈ l, x < 256) (hl : l.length = n) (hn : n ≤ 100000) :
    Calls Tryd.prog 43 #[.slice A n c, .int .i64 b] w (GetPost w (getI l b)) := by
  by_cases hin : b < 1 ∨ 8 < b
  · exact rget_out A l n c b w hin
  · obtain ⟨B, rfl⟩ : ∃ v : Nat, b = (v : Int) := ⟨b.toNat, by omega⟩
    rw [getI, if_neg hin, Int.toNat_natCast]
    rcases Nat.eq_zero_or_pos n with h0 | h0
    · subst h0
      obtain rfl := List.length_eq_zero_iff.1 hl
      exact rget_nil A c B w (by omega) (by omega)
    · exact rget_in A l n c B w hA hb hl hn h0 (by omega) (by omega)
end Go.Proofs.YtlnppbnbjeakhaaDoor
