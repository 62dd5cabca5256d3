/- From what a row says of its arguments and of the table of round words to the words of the contracts. -/
import Derived.Test.YthaecckneblecaaDoorS8
import Derived.ProofKit
import Derived.OpenShut
import Derived.ShutString
import Derived.ChangeOld
import Derived.Below
import Derived.LaidMore
import Derived.Stop.Joined
import Derived.Lib.LaidTab
namespace Go.Proofs.YthaecckneblecaaDoor
open Go.ChangeShapes Go.WideShapes Go.ChangeAt Go.RowKit Sh

theorem own : ownKnob Tryd.prog.godebug = none := by kernel_rfl
theorem laidOut : laidOutB Tryd.prog = true := by kernel_rfl
abbrev laid1 : List (String × DataW Unit) := [("wayleave/sha.roundWords", Rows.laid_wayleave_sha_roundWords)]
theorem gWords : Tryd.prog.globalNamed "wayleave/sha.roundWords" = some 0 := by kernel_rfl
theorem tWords : (Tryd.prog.globals[0]?).map (·.type) = some 38 := by kernel_rfl
def words : List Int := K64.map fun (x : Nat) => (x : Int)
theorem laid_is : (Rows.laid_wayleave_sha_roundWords : DataW Unit) = Lib.tabData .u32 words := by kernel_rfl
theorem cells30 : Tryd.prog.cellsOf 30 = 1 := by kernel_rfl
theorem cells38 : Tryd.prog.cellsOf 38 = 64 := by kernel_rfl
/-- What the condition on the listed variable gives the walks. -/
theorem tab_of_laid {W : World} (h : laidMetH Tryd.prog laid1 W) : Tab W := by
  rw [MakeChecks.laidMetH_plain _ _ _ (by kernel_rfl)] at h
  have h' : laidMet Tryd.prog (("wayleave/sha.roundWords", Lib.tabData .u32 words) :: []) W := by
    rw [← laid_is]
    exact h
  have ht := Lib.tabIs_of_head gWords tWords Tryd.underlying38 Tryd.underlying30 cells30 cells38 h'
  intro i hi
  rw [ht.cell gWords i (by simpa [words] using hi)]
  simp [words, List.getD, hi]
/-- The heap that the variables' own text leaves meets the condition. -/
theorem door_met (os : Os) (args : Array Value) : laidMetH Tryd.prog laid1 ((World.doorLaid Tryd.prog 14 os).forCall (fun _ _ => 0) ⟨#[], args, []⟩).memory :=
  laidMetH_of_parts3 (fuel := 8) (laidMet_of_run' 8 (by kernel_rfl) (by kernel_rfl)) (by kernel_rfl) (by kernel_rfl)

/-- A slice of bytes that came in: its bytes l. -/
theorem opened {H : Type} {enc : TypeId × Value → H} {W : World} {a : Option Addr} {len cap : Nat} {d : DataW H} {p : List MemPlace}
    (h : DataW.Trod enc Tryd.prog W 0 (fun _ => true) true 22 (.slice a len cap) d p) : ∃ l : List Nat, l.length = len ∧ len ≤ cap ∧ (a = none → cap = 0) ∧ (∀ x ∈ l, x < 256) ∧ At .u8 W W.heap.size a l := by
  obtain ⟨fuel, hf⟩ := h
  rcases open_ints Tryd.underlying22 Tryd.underlying5 (by kernel_rfl) hf with ⟨hcs, _⟩ | ⟨x, l, c, zs, hcs, _, hl, hm, hz, _, hcell, hwz⟩
  · simp [Value.cells] at hcs
    obtain ⟨rfl, rfl, rfl⟩ := hcs
    exact ⟨[], rfl, Nat.le_refl _, fun _ => rfl, fun x hx => by simp at hx, at_nil _ _ _ _⟩
  · simp [Value.cells] at hcs
    obtain ⟨rfl, rfl, rfl⟩ := hcs
    have hzl : zs.length = cap := by simpa using hz
    refine ⟨(zs.take len).map fun n => n.toNat, by simp; omega, hl, (fun h => by cases h), fun y hy => ?_, fun hne => ?_⟩
    · simp only [List.mem_map] at hy
      obtain ⟨z, hz1, rfl⟩ := hy
      have hb := bounds_u8 (hwz z (List.mem_of_mem_take hz1))
      omega
    have hpos : 0 < len := by
      rcases Nat.eq_zero_or_pos len with h0 | h0
      · subst h0; simp at hne
      · exact h0
    obtain ⟨b, off, rfl, hc⟩ := ints_at hcell (by omega)
    refine ⟨b, off, rfl, ?_, fun i hi => ?_⟩
    · have h0 := hc 0 (by omega)
      rcases Nat.lt_or_ge b W.heap.size with hlt | hge
      · exact hlt
      · simp [World.cell?, Array.getElem?_eq_none hge] at h0
    · have hi' : i < len := by simp at hi; omega
      rw [hc i (by omega)]
      have hb := bounds_u8 (hwz (zs[i]'(by omega)) (List.getElem_mem _))
      simp only [List.getElem_map, List.getElem_take, List.getD, List.getElem?_eq_getElem (show i < zs.length by omega), Option.getD_some]
      congr 2
      omega
theorem Row.sum {B : Nat} {w w' : World} {l : List Nat} {v : Value} (h : Row B w (Sh.sum l) v w') : ∃ A c, v = .slice A 32 c ∧ At .u8 w' w'.heap.size A (Sh.sum l) ∧ (A = none → c = 0) ∧ 32 ≤ c := by
  obtain ⟨A, c, rfl, h1, h2, h3⟩ := h.at
  rw [sum_len] at h3
  exact ⟨A, c, by rw [sum_len], h1, h2, h3⟩
theorem rsalted (A A' : Option Addr) (s l J : List Nat) (hJ : J = s ++ [0] ++ l) (n n' c c' : Nat) (w : World) (hA : At .u8 w w.heap.size A s) (hA' : At .u8 w w.heap.size A' l) (hs : ∀ x ∈ s, x < 256) (hb : ∀ x ∈ l, x < 256) (hn : s.length = n) (hn' : l.length = n') (hc : A = none → c = 0) (hc' : A' = none → c' = 0) (hm : n ≤ 2400) (hm' : n' ≤ 2400) :
    Calls Tryd.prog 12 #[.slice A n c, .slice A' n' c'] w (OnePost w (Sh.sum J)) := by
  subst hJ hn hn'
  exact salted_any A A' s l c c' w hA hA' hs hb hc hc' hm hm'
end Go.Proofs.YthaecckneblecaaDoor
