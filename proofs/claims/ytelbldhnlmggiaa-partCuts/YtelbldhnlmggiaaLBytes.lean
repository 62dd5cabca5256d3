/- Contract of wlvref.Bytes. -/
import Derived.Test.YtelbldhnlmggiaaLStr
import Derived.Lib.AppendStr
import Derived.Lib.SlBytesConst
namespace Go.Proofs.Ytelbldhnlmggiaa
open Go.RowKit

theorem bytes_any (A A' : Option Addr) (l l' : List Nat) (n n' c c' : Nat) (w : World) (B B' : Nat) (h : At .u8 w B A l) (h' : At .u8 w B' A' l') (hb : ∀ x ∈ l, x < 256) (hb' : ∀ x ∈ l', x < 256) (hn : l.length = n) (hn' : l'.length = n') :
    Calls Try.prog 16 #[.slice A n c, .slice A' n' c'] w fun e w' => e = .returned (.bool (decide (l = l'))) ∧ w = w' := by
  subst hn hn'
  have h1 := run_str w _ A l c h
  have h2 := run_str w _ A' l' c' h'
  rw [← str_eq l l' hb hb']
  clear h h' hb hb'
  go_enter Try.func16, Try.ntmps16
  go_wp2
  go_ret
  exact ⟨rfl, rfl⟩
end Go.Proofs.Ytelbldhnlmggiaa
