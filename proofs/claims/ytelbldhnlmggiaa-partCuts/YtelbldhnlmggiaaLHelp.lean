/- Contracts of the statements' helpers Bytes and Copy (package wlvref), of every stage. -/
import Derived.Test.YtelbldhnlmggiaaLBytes
import Derived.Test.YtelbldhnlmggiaaLStr
import Derived.Lib.AppendStr
import Derived.Lib.SlBytesConst
namespace Go.Proofs.Ytelbldhnlmggiaa
open Go.RowKit
set_option maxHeartbeats 1000000 in
theorem copy_any (A : Option Addr) (l : List Nat) (n c : Nat) (w : World) (hA : At .u8 w w.heap.size A l) (hn : l.length = n) (hc : A = none → c = 0) (hm : n ≤ 100000) :
    Calls Try.prog 25 #[.slice A n c] w (RowPost w.heap.size w l) := by
  have HC := Lib.hid hc
  have HN := Lib.hid hn
  clear hc hn
  have hown0 := Lib.hid (own_empty w w.heap.size (Nat.le_refl _))
  have hA0 : At .u8 (w.alloc (.cells #[] 5)) w.heap.size A l := hA.below ((Below.refl _ _).alloc (Nat.le_refl _) _) (Nat.le_refl _)
  go_enter Try.func25, Try.ntmps25
  go_wp2_with (at_builtin; refine wpList_append_at rfl (.tmp 3) (.tmp 4) rfl w.heap.size _ [] rfl hown0.out A l _ c HN.out rfl HC.out _ hA0 ?_ ?_ ?_; (rotate_right; intro v4 w4 hown4 hg4))
  · have hb4 : Below w.heap.size w w4 := ((Below.refl _ _).alloc (Nat.le_refl _) _).grown hg4 (by simp) (own_block hown0.out)
    clear hg4
    go_wp2
    go_ret
    exact ⟨v4, rfl, hown4, hb4⟩
  all_goals (have := HN.out; first | (simp; omega) | simp)
end Go.Proofs.Ytelbldhnlmggiaa
