/- The landed table: New, isMost, Len, Most, Size. -/
import Derived.Test.YtjohchedckmadaaDObj
import Derived.Test.YtjohchedckmadaaLSTotal
namespace Go.Proofs.Ytjohchedckmadaa
open Go.RowKit

set_option maxRecDepth 100000 in
theorem isMost_ok (m : Nat) (w : World) (hm : m ≤ 4096) : Calls Try.prog 24 #[.int .i64 (m : Int)] w fun e w' => e = .returned (.bool true) ∧ w' = w := by
  have h1 : (0 : Int) ≤ (m : Int) := by omega
  have h2 : (m : Int) ≤ 4096 := by omega
  go_enter Try.func24, Try.ntmps24
  go_wp2
  go_ret
  exact ⟨rfl, rfl⟩
set_option maxRecDepth 100000 in
theorem isMost_no (m : Int) (w : World) (hm : m < 0 ∨ 4096 < m) : Calls Try.prog 24 #[.int .i64 m] w fun e w' => e = .returned (.bool false) ∧ w' = w := by
  by_cases h0 : m < 0
  · have h1 : ¬ (0 : Int) ≤ m := by omega
    go_enter Try.func24, Try.ntmps24
    go_wp2
    go_ret
    exact ⟨rfl, rfl⟩
  · have h1 : (0 : Int) ≤ m := by omega
    have h2 : ¬ m ≤ 4096 := by omega
    go_enter Try.func24, Try.ntmps24
    go_wp2
    go_ret
    exact ⟨rfl, rfl⟩
set_option maxRecDepth 100000 in
theorem dnew_ok (m : Nat) (w : World) (_ : Rdy w) (hm : m ≤ 4096) : Calls Try.prog 9 #[.int .i64 (m : Int)] w fun e w' => ∃ p S, e = .returned (.tuple #[.pointer (some ⟨p, 0, none⟩), .int .i64 0]) ∧ DT w' S p m [] ∧ (∀ x, S x → w.heap.size ≤ x) ∧ Below w.heap.size w w' := by
  go_enter Try.func9, Try.ntmps9
  go_wp2_with fail
  with_reducible refine (isMost_ok m w hm).mono ?_
  rintro e w1 ⟨rfl, rfl⟩
  go_wp2
  go_ret2
  refine ⟨w1.heap.size, fun x => x = w1.heap.size ∨ (Value.slice none 0 0).ownBlock = some x, rfl, ⟨⟨.slice none 0 0, heap_alloc_new w1 _, World.ownsRow_nil _ _ _ _, fun k hk => by simp [Value.ownBlock] at hk, fun x => Iff.rfl, by simp [tot], hm⟩, by simp [tot]⟩, fun x hx => ?_, (Below.refl _ _).alloc (Nat.le_refl _) _⟩
  rcases hx with rfl | hx
  · exact Nat.le_refl _
  · simp [Value.ownBlock] at hx
set_option maxRecDepth 100000 in
theorem dnew_no (m : Int) (w : World) (_ : Rdy w) (hm : m < 0 ∨ 4096 < m) : Calls Try.prog 9 #[.int .i64 m] w fun e w' => e = .returned (.tuple #[.pointer none, .int .i64 1]) ∧ Below w.heap.size w w' := by
  go_enter Try.func9, Try.ntmps9
  go_wp2_with fail
  with_reducible refine (isMost_no m w hm).mono ?_
  rintro e w1 ⟨rfl, rfl⟩
  go_wp2
  go_ret2
  exact ⟨rfl, Below.refl _ _⟩
end Go.Proofs.Ytjohchedckmadaa
