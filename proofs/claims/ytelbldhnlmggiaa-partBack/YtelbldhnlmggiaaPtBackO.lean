/- The walk of PartBack. -/
import Derived.Test.YtelbldhnlmggiaaPtFew
import Derived.Test.YtelbldhnlmggiaaPtKeep
import Derived.Test.YtelbldhnlmggiaaPtStore
import Derived.Test.YtelbldhnlmggiaaLZeros
import Derived.Test.YtelbldhnlmggiaaLBytes
import Derived.Test.YtelbldhnlmggiaaLCut
import Derived.Deep.DeepCutAuto
import Derived.BigQuiet
namespace Go.Proofs.Ytelbldhnlmggiaa
open Go.RowKit Fr

theorem own_one (w : World) (x : Nat) : (w.alloc (.cells #[.int .u8 (x : Int)] 5)).ownsRow w.heap.size 5 1 (.slice (some ⟨w.heap.size, 0, none⟩) 1 1) 1 (cn .u8 [x]) :=
  ⟨rfl, .inr ⟨w.heap.size, 1, #[.int .u8 (x : Int)], rfl, Nat.le_refl _, heap_alloc_new w _, Nat.le_refl _, by unfold maxLen; omega, rfl, rfl⟩⟩
namespace partBack
set_option maxRecDepth 100000 in
set_option maxHeartbeats 8000000 in
theorem walk_out (A B : Option Addr) (n c m d : Nat) (stream N pad : Int) (w : World) (h : 200 < n ∨ 200 < m ∨ stream < 1 ∨ 2147483647 < stream ∨ N < 1 ∨ 2147483647 < N ∨ pad < 0 ∨ 255 < pad) : Calls Try.prog 4 #[.slice A n c, .int .i64 stream, .int .i64 N, .slice B m d, .int .i64 pad] w (YesP w) := by
  have HFST := Lib.hid fun (W : World) => first11_any W
  rcases (show (200 : Int) < (n : Int) ∨ (¬ (200 : Int) < (n : Int) ∧ (200 : Int) < (m : Int)) ∨ (¬ (200 : Int) < (n : Int) ∧ ¬ (200 : Int) < (m : Int) ∧ stream < 1) ∨ (¬ (200 : Int) < (n : Int) ∧ ¬ (200 : Int) < (m : Int) ∧ ¬ stream < 1 ∧ 2147483647 < stream) ∨ (¬ (200 : Int) < (n : Int) ∧ ¬ (200 : Int) < (m : Int) ∧ ¬ stream < 1 ∧ ¬ 2147483647 < stream ∧ N < 1) ∨ (¬ (200 : Int) < (n : Int) ∧ ¬ (200 : Int) < (m : Int) ∧ ¬ stream < 1 ∧ ¬ 2147483647 < stream ∧ ¬ N < 1 ∧ 2147483647 < N) ∨ (¬ (200 : Int) < (n : Int) ∧ ¬ (200 : Int) < (m : Int) ∧ ¬ stream < 1 ∧ ¬ 2147483647 < stream ∧ ¬ N < 1 ∧ ¬ 2147483647 < N ∧ pad < 0) ∨ (¬ (200 : Int) < (n : Int) ∧ ¬ (200 : Int) < (m : Int) ∧ ¬ stream < 1 ∧ ¬ 2147483647 < stream ∧ ¬ N < 1 ∧ ¬ 2147483647 < N ∧ ¬ pad < 0 ∧ 255 < pad) by omega) with h1 | ⟨h1, h2⟩ | ⟨h1, h2, h3⟩ | ⟨h1, h2, h3, h4⟩ | ⟨h1, h2, h3, h4, h5⟩ | ⟨h1, h2, h3, h4, h5, h6⟩ | ⟨h1, h2, h3, h4, h5, h6, h7⟩ | ⟨h1, h2, h3, h4, h5, h6, h7, h8⟩
  all_goals
    clear h
    go_enter Try.func4, Try.ntmps4
    go_wp2_with fail
    with_reducible refine (HFST.out w).mono ?_
    rintro e w1 ⟨rfl, hb1⟩
    have HB1 := Lib.hid hb1
    have HF2 := Lib.hid (HFST.out w1)
    clear hb1
    go_wp2_with fail
    with_reducible refine (HF2.out).mono ?_
    rintro e w3 ⟨rfl, hb3⟩
    have HZ := Lib.hid (HB1.out.trans (hb3.mono HB1.out.size))
    clear hb3 HF2
    go_wp2
    go_ret
    exact ⟨rfl, HZ.out⟩
end partBack
end Go.Proofs.Ytelbldhnlmggiaa
