/- Slice expressions over bytes, of every stage. -/
import Derived.Test.YtelbldhnlmggiaaLMem
namespace Go.Proofs.Ytelbldhnlmggiaa
open Go.RowKit

theorem elemBs : Try.prog.underlying 25 = some (.slice (Try.prog.elem 25)) := by kernel_rfl
theorem sizeU8 (w : World) : (sizeOf (Try.prog.elem 25)).run Try.prog w = .ok 1 w := by kernel_rfl
theorem slice_h (A : Option Addr) (n c q : Nat) (w : World) (h : q ≤ c) : (Instr.sliceAt 25 (.slice A n c) none (some (.int .i64 q)) none).run Try.prog w = .ok (.slice (cutAt A c 0) q c) w := by
  rw [run_sliceAt_slice w 25 _ _ _ _ elemBs, run_slice_h w 25 A n c elemBs .i64 q (by omega) (by omega), sizeU8]
  simp [sliced, cutAt, Result.andThen]
theorem slice_l (A : Option Addr) (n c q r : Nat) (w : World) (h : q ≤ n) (hr : n - q = r) : (Instr.sliceAt 25 (.slice A n c) (some (.int .i64 q)) none none).run Try.prog w = .ok (.slice (cutAt A c q) r (c - q)) w := by
  subst hr
  rw [run_sliceAt_slice w 25 _ _ _ _ elemBs, run_slice_l w 25 A n c elemBs .i64 q (by omega) (by omega), sizeU8]
  simp [sliced, cutAt, Result.andThen]
theorem At.take {w : World} {B c q : Nat} {A : Option Addr} {l : List Nat} (h : At .u8 w B A l) (hc : l.length ≤ c) : At .u8 w B (cutAt A c 0) (l.take q) :=
  h.cut (q := 0) hc (fun i hi => by
    have hi' : i < q ∧ i < l.length := by simp at hi; omega
    exact ⟨by omega, by rw [Nat.zero_add, List.getElem?_take, if_pos hi'.1]⟩)
theorem slice_lh (A : Option Addr) (n c q h r : Nat) (w : World) (h1 : q ≤ h) (h2 : h ≤ c) (hr : h - q = r) : (Instr.sliceAt 25 (.slice A n c) (some (.int .i64 q)) (some (.int .i64 h)) none).run Try.prog w = .ok (.slice (cutAt A c q) r (c - q)) w := by
  subst hr
  rw [run_sliceAt_slice w 25 _ _ _ _ elemBs, run_slice_lh w 25 A n c elemBs .i64 .i64 q h (by omega) (by omega) (by omega), sizeU8]
  simp [sliced, cutAt, Result.andThen]
theorem At.drop {w : World} {B c q : Nat} {A : Option Addr} {l : List Nat} (h : At .u8 w B A l) (hc : l.length ≤ c) : At .u8 w B (cutAt A c q) (l.drop q) :=
  h.cut (q := q) hc (fun i hi => by
    have hi' : i < l.length - q := by simpa using hi
    exact ⟨by omega, by rw [List.getElem?_drop]⟩)
theorem At.mid {w : World} {B c q k : Nat} {A : Option Addr} {l : List Nat} (h : At .u8 w B A l) (hc : l.length ≤ c) : At .u8 w B (cutAt A c q) ((l.drop q).take k) :=
  h.cut (q := q) hc (fun i hi => by
    have hi' : i < k ∧ i < l.length - q := by simp at hi; omega
    exact ⟨by omega, by rw [List.getElem?_take, if_pos hi'.1, List.getElem?_drop]⟩)
end Go.Proofs.Ytelbldhnlmggiaa
