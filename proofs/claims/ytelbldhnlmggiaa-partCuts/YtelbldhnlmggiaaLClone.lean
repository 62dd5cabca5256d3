/- bytes.Clone. -/
import Derived.Test.YtelbldhnlmggiaaLMem
import Derived.Test.YtelbldhnlmggiaaLPost
import Derived.Lib.Hide
import Derived.OwnWalk
import Derived.ArgAppend
namespace Go.Proofs.Ytelbldhnlmggiaa
open Go.RowKit

set_option maxHeartbeats 1000000 in
theorem bclone_any (A : Option Addr) (l : List Nat) (n c : Nat) (w : World) (hA : At .u8 w w.heap.size A l) (hn : l.length = n) (hc : A = none → c = 0) (hm : n ≤ 200000) :
    Calls Try.prog 28 #[.slice A n c] w (RowPost w.heap.size w l) := by
  have qT : ∀ (w : World) (a : Option Addr) (n c n' c' : Nat), (binOp .eql 25 (.slice a n c) (.slice none n' c')).run Try.prog w = .ok (.bool a.isNone) w := fun w a n c n' c' => Lib.run_eql_slice_nil w _ _ a n c n' c' Try.underlying25
  cases A with
  | none =>
    have hl := hA.none_nil
    subst hl
    subst hn
    have hc0 := hc rfl
    subst hc0
    go_enter Try.func28, Try.ntmps28
    go_wp2
    go_ret
    exact ⟨_, rfl, World.ownsRow_nil _ _ _ _, Below.refl _ _⟩
  | some ad =>
    have HN := Lib.hid hn
    have HC := Lib.hid (show (some ad : Option Addr) = none → c = 0 from fun h => by cases h)
    clear hn hc
    have hown0 := Lib.hid (own_empty w w.heap.size (Nat.le_refl _))
    have hA0 : At .u8 (w.alloc (.cells #[] 5)) w.heap.size (some ad) l := hA.below ((Below.refl _ _).alloc (Nat.le_refl _) _) (Nat.le_refl _)
    go_enter Try.func28, Try.ntmps28
    go_wp2_with (at_builtin; refine wpList_append_at rfl (.tmp 5) (.tmp 6) rfl w.heap.size _ [] rfl hown0.out (some ad) l _ c HN.out rfl HC.out _ hA0 ?_ ?_ ?_; (rotate_right; intro v4 w4 hown4 hg4))
    · have hb4 : Below w.heap.size w w4 := ((Below.refl _ _).alloc (Nat.le_refl _) _).grown hg4 (by simp) (own_block hown0.out)
      clear hg4
      go_wp2
      go_ret
      exact ⟨v4, rfl, hown4, hb4⟩
    all_goals (have := HN.out; first | (simp; omega) | simp)
end Go.Proofs.Ytelbldhnlmggiaa
