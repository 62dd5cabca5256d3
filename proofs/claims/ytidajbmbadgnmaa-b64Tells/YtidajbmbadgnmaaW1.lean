/- Contracts of the small functions: lowest, sign, IndexByte, TrimSuffix, withoutPads. None of them touches the world. -/
import Derived.Test.YtidajbmbadgnmaaRows
import Derived.Test.YtidajbmbadgnmaaMath
import Derived.WalkKit
import Derived.WalkSpells
import Derived.WalkLawsBesides
import Derived.Laws.Externs
import Derived.Laws.BytesArg
import Derived.Laws.BitsAllLaws
import Derived.Lib.RabinKarpLaws
import Derived.Lib.Hide
import Derived.IntWalk
namespace Go.Proofs.Ytidajbmbadgnmaa
open Go.RowKit Bm

theorem ret_int {k : IntKind} {a b : Int} (h : a = b) : Ending.returned (.int k a) = .returned (.int k b) := by rw [h]
theorem low_bits (b h : Nat) (hb : b < 65536) (hh : h < 16) : bits BinOp.and IntKind.u64 (b : Int) (IntKind.u64.wrap (IntKind.u64.wrap (2 ^ h) - 1)) = ((b % 2 ^ h : Nat) : Int) := by
  have h1 : (2 : Nat) ^ h ≤ 2 ^ 15 := Nat.pow_le_pow_right (by omega) (by omega)
  have h0 : 0 < (2 : Nat) ^ h := Nat.pow_pos (by omega)
  have e : IntKind.u64.wrap (IntKind.u64.wrap (2 ^ h) - 1) = ((2 ^ h - 1 : Nat) : Int) := by
    rw [show ((2 : Int) ^ h) = ((2 ^ h : Nat) : Int) by simp, IntKind.wrap_u64, IntKind.wrap_u64]
    omega
  rw [e, u64_and_nat b (2 ^ h - 1) (by omega) (by omega), Nat.and_two_pow_sub_one_eq_mod]

theorem lowest_any (b h : Nat) (w : World) (hb : b < 65536) (hh : h < 16) :
    Calls Try.prog 17 #[.int .u64 b, .int .u64 h] w fun e w' => e = .returned (.int .u64 ((b % 2 ^ h : Nat) : Int)) ∧ w = w' := by
  go_enter Try.func17, Try.ntmps17
  go_wp2
  go_ret
  exact ⟨ret_int (low_bits b h hb hh), rfl⟩

abbrev alphB : ByteArray := ⟨#[65, 66, 67, 68, 69, 70, 71, 72, 73, 74, 75, 76, 77, 78, 79, 80, 81, 82, 83, 84, 85, 86, 87, 88, 89, 90, 97, 98, 99, 100, 101, 102, 103, 104, 105, 106, 107, 108, 109, 110, 111, 112, 113, 114, 115, 116, 117, 118, 119, 120, 121, 122, 48, 49, 50, 51, 52, 53, 54, 55, 56, 57, 43, 47]⟩
theorem alph_get (k : Nat) (h : k < alphB.size) : alphB[k]'h = sgn k := by
  have h' : k < alph.length := h
  unfold sgn
  rw [List.getD, List.getElem?_eq_getElem h', Option.getD_some]
  rfl
theorem and63 (n : Nat) (hn : n < 1073741824) : bits BinOp.and IntKind.i64 (n : Int) 63 = ((n % 64 : Nat) : Int) := by
  show IntKind.i64.wrap ((BitVec.ofInt 64 (n : Int) &&& BitVec.ofInt 64 ((63 : Nat) : Int)).toNat : Int) = _
  rw [BitVec.toNat_and, ofInt_u64 n (by omega), ofInt_u64 63 (by omega), nat_mask6]
  exact IntWalk.i64_in _ (by omega)
theorem sign_any (n : Nat) (w : World) (hn : n < 1073741824) :
    Calls Try.prog 19 #[.int .i64 n] w fun e w' => e = .returned (.int .u8 ((sgn (n % 64)).toNat : Int)) ∧ w = w' := by
  have hb := and63 n hn
  have hm : n % 64 < 64 := by omega
  go_enter Try.func19, Try.ntmps19
  go_wp2
  go_ret
  refine ⟨ret_int ?_, rfl⟩
  have := alph_get (n % 64) hm
  rw [← this]
theorem run_ix (s : ByteArray) (c : UInt8) (w : World) : (callFunc 23 #[.string s, .int .u8 (c.toNat : Int)]).run Try.prog w = .ok (.value (.int .i64 (firstIdx s c))) w := by
  rw [run_callFunc_extern (f := 23) (fn := Try.f23) Try.func23 (by kernel_rfl) (by kernel_rfl) (by kernel_rfl) (e := Go.Extern.BytealgIndexByte.indexByte) (by rfl), run_indexByte_string]
  simp [Result.andThen]
theorem ix_any (s : ByteArray) (c : UInt8) (w : World) :
    Calls Try.prog 16 #[.string s, .int .u8 (c.toNat : Int)] w fun e w' => e = .returned (.int .i64 (firstIdx s c)) ∧ w = w' := by
  have hr := run_ix s c
  go_enter Try.func16, Try.ntmps16
  go_wp2
  go_ret
  exact ⟨rfl, rfl⟩
theorem ix_alph : ∀ c : UInt8, firstIdx alphB c = if val c < 64 then (val c : Int) else -1 := by
  intro c
  have h : ∀ n : Fin 256, firstIdx alphB (UInt8.ofNat n.1) = if val (UInt8.ofNat n.1) < 64 then (val (UInt8.ofNat n.1) : Int) else -1 := of_decide_eq_true (by kernel_rfl)
  have := h ⟨c.toNat, c.toNat_lt⟩
  simpa using this
theorem ix_yes (c : UInt8) (w : World) (h : val c < 64) :
    Calls Try.prog 16 #[.string alphB, .int .u8 (c.toNat : Int)] w fun e w' => e = .returned (.int .i64 ((val c : Nat) : Int)) ∧ w = w' := by
  have := ix_any alphB c w
  rw [ix_alph, if_pos h] at this
  exact this
theorem ix_no (c : UInt8) (w : World) (h : ¬ val c < 64) :
    Calls Try.prog 16 #[.string alphB, .int .u8 (c.toNat : Int)] w fun e w' => e = .returned (.int .i64 (-1)) ∧ w = w' := by
  have := ix_any alphB c w
  rw [ix_alph, if_neg h] at this
  exact this

/-- The string of bytes. -/
def str (l : List UInt8) : ByteArray := ⟨l.toArray⟩
theorem str_list (l : List UInt8) : (str l).data.toList = l := by simp [str]
theorem str_size (l : List UInt8) : (str l).size = l.length := by simp [str, ByteArray.size]
theorem str_of (s : ByteArray) : str s.data.toList = s := by simp [str]
theorem ret_str {a b : ByteArray} (h : a = b) : Ending.returned (.string a) = .returned (.string b) := by rw [h]
theorem bytes_ext {a b : ByteArray} (h : a.data.toList = b.data.toList) : a = b := by
  rw [← str_of a, ← str_of b, h]

theorem toList_data (s : ByteArray) : s.toList = s.data.toList := by rw [← str_of s, str, ByteArray.toList_mk]

def stripB (s : ByteArray) : ByteArray := str (strip s.data.toList)
theorem last_piece (s : ByteArray) : (s.extract (s.size - 1) s.size).toList = s.data.toList.drop (s.size - 1) := by
  rw [ext_win]
  exact List.take_of_length_le (by simp)
theorem drop_last (l : List UInt8) (h : 1 ≤ l.length) : l.drop (l.length - 1) = [61] ↔ l.getLast? = some 61 := by
  have hne : l ≠ [] := by rintro rfl; simp at h
  rw [List.getLast?_eq_some_getLast hne, List.drop_eq_getElem_cons (by omega), List.drop_eq_nil_of_le (by omega), List.getLast_eq_getElem hne]
  simp
theorem strip_yes (s : ByteArray) (h : 1 ≤ s.size) (h2 : ((s.extract (s.size - 1) s.size).toList == [61]) = true) : s.extract 0 (s.size - 1) = stripB s := by
  have hl : s.data.toList.length = s.size := by simp
  rw [last_piece s, beq_iff_eq, ← hl, drop_last _ (by omega)] at h2
  apply bytes_ext
  rw [stripB, str_list, strip, if_pos h2, Lib.extract_data]
  simp [List.dropLast_eq_take]
theorem strip_no (s : ByteArray) (h : 1 ≤ s.size) (h2 : ((s.extract (s.size - 1) s.size).toList == [61]) = false) : s = stripB s := by
  have hl : s.data.toList.length = s.size := by simp
  rw [last_piece s, ← hl] at h2
  have h3 : ¬ s.data.toList.getLast? = some 61 := by
    rw [← drop_last _ (by omega)]
    intro e
    rw [e] at h2
    simp at h2
  rw [stripB, strip, if_neg h3, str_of]
theorem strip_empty (s : ByteArray) (h : (s.size : Int) < 1) : s = stripB s := by
  have hl : s.data.toList.length = s.size := by simp
  have h0 : s.data.toList = [] := List.eq_nil_of_length_eq_zero (by omega)
  rw [stripB, strip, if_neg (by rw [h0]; simp), str_of]
theorem trim_any (s : ByteArray) (w : World) (hs : s.size ≤ 10000) :
    Calls Try.prog 20 #[.string s, .string ⟨#[61]⟩] w fun e w' => e = .returned (.string (stripB s)) ∧ w = w' := by
  go_enter Try.func20, Try.ntmps20
  go_wp2
  · go_ret
    have h1 : (1 : Int) ≤ s.size := by assumption
    exact ⟨ret_str (strip_yes s (by omega) (by assumption)), rfl⟩
  · go_ret
    have h1 : (1 : Int) ≤ s.size := by assumption
    exact ⟨ret_str (strip_no s (by omega) (by assumption)), rfl⟩
  · go_ret
    exact ⟨ret_str (strip_empty s (by assumption)), rfl⟩
theorem stripB_size (s : ByteArray) : (stripB s).size ≤ s.size := by
  rw [stripB, str_size]
  have hl : s.data.toList.length = s.size := by simp
  rw [← hl]
  unfold strip
  split
  · simp
  · omega
def padsOf (s : ByteArray) (k : Nat) : ByteArray := if k = 0 then s else if k = 1 then stripB s else stripB (stripB s)
theorem pads_any (s : ByteArray) (w : World) (hs : s.size ≤ 10000) :
    Calls Try.prog 15 #[.string s] w fun e w' => e = .returned (.string (stripB (stripB s))) ∧ w = w' := by
  have hz := stripB_size s
  go_enter Try.func15, Try.ntmps15
  go_wp2
  go_loop [0, 3] (fun t i => ∃ k : Nat, k ≤ 2 ∧ i = .int .i64 k ∧ t = .string (padsOf s k)) (fun _ i => 2 - (intOf i).toNat)
  case atStart => exact ⟨0, by omega, rfl, rfl⟩
  case round =>
    obtain ⟨k, hk, rfl, rfl⟩ := hrel
    rcases (show k = 0 ∨ k = 1 ∨ k = 2 by omega) with rfl | rfl | rfl
    · go_wp2_with (go_at_call 20; refine (trim_any s _ hs).mono ?_; rintro e w' ⟨rfl, rfl⟩)
      go_round
      case rel => exact ⟨1, by omega, rfl, rfl⟩
      case measure => simp [intOf]
    · go_wp2_with (go_at_call 20; refine (trim_any (stripB s) _ (by omega)).mono ?_; rintro e w' ⟨rfl, rfl⟩)
      go_round
      case rel => exact ⟨2, by omega, rfl, rfl⟩
      case measure => simp [intOf]
    · go_wp2
      go_ret
      exact ⟨rfl, rfl⟩
end Go.Proofs.Ytidajbmbadgnmaa
