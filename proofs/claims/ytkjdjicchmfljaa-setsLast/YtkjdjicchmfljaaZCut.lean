/- Slices of settings that came in. -/
import Derived.Test.YtkjdjicchmfljaaZPost
import Derived.WalkKit
namespace Go.Proofs.Ytkjdjicchmfljaa
open Go.RowKit Zs

def cutS (A : Option Addr) (c q : Nat) : Option Addr := if c = q then A else A.map (·.add (q * 2))
theorem elemPSets : Try.prog.underlying 24 = some (.slice (Try.prog.elem 24)) := by kernel_rfl
theorem sizePSet (w : World) : (sizeOf (Try.prog.elem 24)).run Try.prog w = .ok 2 w := by kernel_rfl
theorem slice_hS (A : Option Addr) (n c q : Nat) (w : World) (h : q ≤ c) : (Instr.sliceAt 24 (.slice A n c) none (some (.int .i64 q)) none).run Try.prog w = .ok (.slice (cutS A c 0) q c) w := by
  rw [run_sliceAt_slice w 24 _ _ _ _ elemPSets, run_slice_h w 24 A n c elemPSets .i64 q (by omega) (by omega), sizePSet]
  simp [sliced, cutS, Result.andThen]
theorem slice_lS (A : Option Addr) (n c q r : Nat) (w : World) (h : q ≤ n) (hr : n - q = r) : (Instr.sliceAt 24 (.slice A n c) (some (.int .i64 q)) none none).run Try.prog w = .ok (.slice (cutS A c q) r (c - q)) w := by
  subst hr
  rw [run_sliceAt_slice w 24 _ _ _ _ elemPSets, run_slice_l w 24 A n c elemPSets .i64 q (by omega) (by omega), sizePSet]
  simp [sliced, cutS, Result.andThen]
theorem AtS.cut {w : World} {B c q : Nat} {A : Option Addr} {l l' : List (Int × Int)} (h : AtS w B A l) (hc : l.length ≤ c) (hl : ∀ i, i < l'.length → q + i < l.length ∧ l'[i]? = l[q + i]?) : AtS w B (cutS A c q) l' := fun hne => by
  have hpos : 0 < l'.length := List.length_pos_iff.2 hne
  have h0 := (hl 0 hpos).1
  obtain ⟨b, o, rfl, hB, hcell⟩ := h (by rintro rfl; simp at h0)
  have hplain : (⟨b, o, none⟩ : Addr).add (q * 2) = ⟨b, o + q * 2, none⟩ := by unfold Addr.add; split <;> simp_all
  refine ⟨b, o + q * 2, ?_, hB, fun i hi => ?_⟩
  · rw [cutS, if_neg (by omega)]
    simp [hplain]
  · obtain ⟨h1, h2⟩ := hl i hi
    rw [List.getElem?_eq_getElem hi, List.getElem?_eq_getElem h1] at h2
    injection h2 with h2
    obtain ⟨c0, c1⟩ := hcell (q + i) h1
    rw [h2, show o + q * 2 + i * 2 = o + (q + i) * 2 by omega]
    exact ⟨c0, c1⟩
theorem AtS.take {w : World} {B c q : Nat} {A : Option Addr} {l : List (Int × Int)} (h : AtS w B A l) (hc : l.length ≤ c) : AtS w B (cutS A c 0) (l.take q) :=
  h.cut (q := 0) hc (fun i hi => by
    have hi' : i < q ∧ i < l.length := by simp at hi; omega
    exact ⟨by omega, by rw [Nat.zero_add, List.getElem?_take, if_pos hi'.1]⟩)
theorem AtS.drop {w : World} {B c q : Nat} {A : Option Addr} {l : List (Int × Int)} (h : AtS w B A l) (hc : l.length ≤ c) : AtS w B (cutS A c q) (l.drop q) :=
  h.cut (q := q) hc (fun i hi => by
    have hi' : i < l.length - q := by simpa using hi
    exact ⟨by omega, by rw [List.getElem?_drop]⟩)
end Go.Proofs.Ytkjdjicchmfljaa
