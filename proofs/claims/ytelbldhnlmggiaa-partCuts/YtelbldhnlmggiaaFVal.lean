/- Contract of the reference's val. -/
import Derived.Test.YtelbldhnlmggiaaPtPlain
import Derived.Test.YtelbldhnlmggiaaLMem
import Derived.Test.YtelbldhnlmggiaaLPost
import Derived.Test.YtelbldhnlmggiaaPBits
import Derived.Laws.Bits128
namespace Go.Proofs.Ytelbldhnlmggiaa
open Go.RowKit Fr

def VlR (w : World) (l : List Nat) (v i : Value) (wr : World) : Prop := ∃ (k V : Nat), k ≤ l.length ∧ i = .int .i64 (k : Int) ∧ v = .int .i64 (V : Int) ∧ vals (l.drop k) V = val l ∧ V < 256 ^ k ∧ wr = w
set_option maxRecDepth 100000 in
set_option maxHeartbeats 4000000 in
theorem rval_any (A : Option Addr) (l : List Nat) (n c : Nat) (w : World) (hA : At .u8 w w.heap.size A l) (hb : ∀ x ∈ l, x < 256) (hl : l.length = n) (hn : n ≤ 4) : Calls Try.prog 24 #[.slice A n c] w fun e w' => e = .returned (.int .i64 (val l : Int)) ∧ w' = w := by
  have HA := Lib.hid hA
  have HL := Lib.hid hl
  have HB := Lib.hid hb
  clear hA hl hb
  go_enter Try.func24, Try.ntmps24
  go_wp2
  go_loopw [3, 4] (fun v i wr => VlR w l v i wr) (fun _ i _ => n - (intOf i).toNat)
  case atStart => exact ⟨0, 0, Nat.zero_le _, rfl, rfl, rfl, by simp, rfl⟩
  case round =>
    obtain ⟨k, V, hk, rfl, rfl, hv, hV, rfl⟩ := hrel
    by_cases hlt : k < n
    · have ki : (k : Int) < (n : Int) := by omega
      have hkl : k < l.length := by have := HL.out; omega
      obtain ⟨b, o, rfl, hbk, hc⟩ := HA.out.pos (by omega)
      obtain ⟨x, hx⟩ : ∃ x, x = l[k] := ⟨_, rfl⟩
      have cx := hc k hkl
      rw [← hx] at cx
      have hx2 : x < 256 := by rw [hx]; exact HB.out _ (List.getElem_mem hkl)
      have hp3 : 256 ^ k ≤ 256 ^ 3 := Nat.pow_le_pow_right (by omega) (by omega)
      have hV2 : V < 16777216 := by omega
      have e8 : (V : Int) * 2 ^ 8 = ((V * 256 : Nat) : Int) := by simp
      have e9 : (V : Int) * 256 = ((V * 256 : Nat) : Int) := by simp
      obtain ⟨U, hU⟩ : ∃ U, U = V * 256 := ⟨_, rfl⟩
      rw [← hU] at e8 e9
      obtain ⟨V2, hV2e⟩ : ∃ V2, V2 = U + x := ⟨_, rfl⟩
      have eo : bits BinOp.or IntKind.i64 (U : Int) (x : Int) = (V2 : Int) := by
        have := i64_or_nat U x (by omega) (by omega)
        rw [nat_join 8 U x (by omega) (by omega)] at this
        rw [hV2e]
        exact this
      have hNX : vals (l.drop (k + 1)) V2 = val l := by
        rw [List.drop_eq_getElem_cons hkl, vals, ← hx, ← hU, ← hV2e] at hv
        exact hv
      have hVN : V2 < 256 ^ (k + 1) := by rw [Nat.pow_succ]; omega
      have HNX : Hid (vals (l.drop (k + 1)) V2 = val l ∧ V2 < 256 ^ (k + 1) ∧ k + 1 ≤ l.length) := Lib.hid ⟨hNX, hVN, hkl⟩
      have hub : U < 4294967296 := by omega
      have hvb : V2 < 4294967296 := by omega
      clear hNX hVN hx hc hkl hv hV hU hV2e hp3
      go_wp2
      go_roundw
      case rel => exact ⟨k + 1, V2, HNX.out.2.2, by go_num, by go_num, HNX.out.1, HNX.out.2.1, rfl⟩
      case measure => simp [intOf]; omega
    · obtain rfl : k = n := by have := HL.out; omega
      have ki : ¬ (k : Int) < (k : Int) := by omega
      have hv2 : V = val l := by
        rw [List.drop_of_length_le (by have := HL.out; omega)] at hv
        exact hv
      subst hv2
      go_wp2
      go_ret
      exact ⟨rfl, rfl⟩
end Go.Proofs.Ytelbldhnlmggiaa
