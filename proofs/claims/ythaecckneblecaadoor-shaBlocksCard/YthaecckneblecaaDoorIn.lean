/- From what a row says of its arguments and of the table of round words to the words of the contracts. -/
import Derived.Test.YthaecckneblecaaDoorS8
import Derived.ProofKit
import Derived.OpenShut
import Derived.ShutString
import Derived.ChangeOld
import Derived.Below
import Derived.LaidMore
import Derived.Stop.Joined
import Derived.Lib.LaidTab
namespace Go.Proofs.YthaecckneblecaaDoor
open Go.ChangeShapes Go.WideShapes Go.ChangeAt Go.RowKit Sh

theorem own : ownKnob Tryd.prog.godebug = none := by kernel_rfl
theorem laidOut : laidOutB Tryd.prog = true := by kernel_rfl
abbrev laid1 : List (String × DataW Unit) := Rows.shaTellsRow.laid
/-- The listed variable's name. -/
def wName : String := (laid1.map (·.1)).headD ""
theorem gWords : Tryd.prog.globalNamed wName = some 0 := by kernel_rfl
theorem tWords : (Tryd.prog.globals[0]?).map (·.type) = some 38 := by kernel_rfl
def words : List Int := K64.map fun (x : Nat) => (x : Int)
theorem laid_is : (Rows.laid_wayleave_sha_roundWords : DataW Unit) = Lib.tabData .u32 words := by kernel_rfl
theorem cells30 : Tryd.prog.cellsOf 30 = 1 := by kernel_rfl
theorem cells38 : Tryd.prog.cellsOf 38 = 64 := by kernel_rfl
/-- What the condition on the listed variable gives the walks. -/
theorem tab_of_laid {W : World} (h : laidMetH Tryd.prog laid1 W) : Tab W := by
  rw [MakeChecks.laidMetH_plain _ _ _ (by kernel_rfl)] at h
  have h' : laidMet Tryd.prog ((wName, Lib.tabData .u32 words) :: []) W := by
    rw [← laid_is]
    exact h
  have ht := Lib.tabIs_of_head gWords tWords Tryd.underlying38 Tryd.underlying30 cells30 cells38 h'
  intro i hi
  rw [ht.cell gWords i (by simpa [words] using hi)]
  simp [words, List.getD, hi]
/-- The heap that the variables' own text leaves meets the condition. -/
theorem door_met (os : Os) (args : Array Value) : laidMetH Tryd.prog laid1 ((World.doorLaid Tryd.prog 14 os).forCall (fun _ _ => 0) ⟨#[], args, []⟩).memory :=
  laidMetH_of_parts3 (fuel := 8) (laidMet_of_run' 8 (by kernel_rfl) (by kernel_rfl)) (by kernel_rfl) (by kernel_rfl)

/-- A slice of bytes that came in: its bytes l. -/
theorem opened {H : Type} {enc : TypeId × Value → H} {W : World} {a : Option Addr} {len cap : Nat} {d : DataW H} {p : List MemPlace}
    (h : DataW.Trod enc Tryd.prog W 0 (fun _ => true) true 22 (.slice a len cap) d p) : ∃ l : List Nat, l.length = len ∧ len ≤ cap ∧ (a = none → cap = 0) ∧ (∀ x ∈ l, x < 256) ∧ At .u8 W W.heap.size a l := by
  obtain ⟨fuel, hf⟩ := h
  rcases open_ints Tryd.underlying22 Tryd.underlying5 (by kernel_rfl) hf with ⟨hcs, _⟩ | ⟨x, l, c, zs, hcs, _, hl, hm, hz, _, hcell, hwz⟩
  · simp [Value.cells] at hcs
    obtain ⟨rfl, rfl, rfl⟩ := hcs
    exact ⟨[], rfl, Nat.le_refl _, fun _ => rfl, fun x hx => by simp at hx, at_nil _ _ _ _⟩
  · simp [Value.cells] at hcs
    obtain ⟨rfl, rfl, rfl⟩ := hcs
    have hzl : zs.length = cap := by simpa using hz
    refine ⟨(zs.take len).map fun n => n.toNat, by simp; omega, hl, (fun h => by cases h), fun y hy => ?_, fun hne => ?_⟩
    · simp only [List.mem_map] at hy
      obtain ⟨z, hz1, rfl⟩ := hy
      have hb := bounds_u8 (hwz z (List.mem_of_mem_take hz1))
      omega
    have hpos : 0 < len := by
      rcases Nat.eq_zero_or_pos len with h0 | h0
      · subst h0; simp at hne
      · exact h0
    obtain ⟨b, off, rfl, hc⟩ := ints_at hcell (by omega)
    refine ⟨b, off, rfl, ?_, fun i hi => ?_⟩
    · have h0 := hc 0 (by omega)
      rcases Nat.lt_or_ge b W.heap.size with hlt | hge
      · exact hlt
      · simp [World.cell?, Array.getElem?_eq_none hge] at h0
    · have hi' : i < len := by simp at hi; omega
      rw [hc i (by omega)]
      have hb := bounds_u8 (hwz (zs[i]'(by omega)) (List.getElem_mem _))
      simp only [List.getElem_map, List.getElem_take, List.getD, List.getElem?_eq_getElem (show i < zs.length by omega), Option.getD_some]
      congr 2
      omega
theorem At.up {k : IntKind} {w w' : World} {A : Option Addr} {l : List Nat} (h : At k w w.heap.size A l) (hb : Below w.heap.size w w') : At k w' w'.heap.size A l := (h.below hb (Nat.le_refl _)).more hb.size
/-- A sum as a row of the call's own: where it lies. -/
theorem Row.form {B : Nat} {w w' : World} {l : List Nat} {v : Value} (h : Row B w (Sh.sum l) v w') : ∃ g c, v = .slice (some ⟨g, 0, none⟩) 32 c ∧ B ≤ g ∧ 32 ≤ c ∧ w'.ownsRow B 5 1 (.slice (some ⟨g, 0, none⟩) 32 c) 32 (cn .u8 (Sh.sum l)) := by
  have h1 := h.1
  rw [sum_len] at h1
  obtain ⟨g, c, hv, hB, h2⟩ := own_form h1 (by omega)
  exact ⟨g, c, hv, hB, own_cap h2, h2⟩
/-- A byte of a row of the call's own is written. -/
theorem own_put {w : World} {B g n c i x : Nat} {l : List Nat} (h : w.ownsRow B 5 1 (.slice (some ⟨g, 0, none⟩) n c) n (cn .u8 l)) : At .u8 (w.setCell ⟨g, i, none⟩ (.int .u8 (x : Int))) (w.setCell ⟨g, i, none⟩ (.int .u8 (x : Int))).heap.size (some ⟨g, 0, none⟩) (l.set i x) := fun hne => by
  have hat := At.of_own h
  have hl : l ≠ [] := by rintro rfl; simp at hne
  obtain ⟨b, o, e, hb, hc⟩ := hat hl
  injection e with e
  injection e with e1 e2
  subst e1 e2
  refine ⟨g, 0, rfl, by simpa [World.setCell] using hb, fun j hj => ?_⟩
  have hj' : j < l.length := by simpa using hj
  have hcj := hc j hj'
  rw [Nat.zero_add] at hcj ⊢
  by_cases hij : i = j
  · subst hij
    rw [World.cell?_setCell_same w ⟨g, i, none⟩ _ hcj]
    simp
  · rw [World.cell?_setCell_other w ⟨g, i, none⟩ ⟨g, j, none⟩ _ (by rintro e; injection e with _ e; exact hij e), hcj]
    simp [hij]
theorem own_free {w : World} {B g n c i : Nat} {xs : List Value} (h : w.ownsRow B 5 1 (.slice (some ⟨g, 0, none⟩) n c) n xs) : w.frozen? ⟨g, i, none⟩ = false := by
  rcases h.2 with ⟨hv, _⟩ | ⟨g', cap, cur, hv, _, hh, _⟩
  · cases hv
  · injection hv with hv _ _
    injection hv with hv
    injection hv with hv _ _
    subst hv
    exact frozen_of_row w g i _ 5 hh
theorem own_at {w : World} {B g n c i : Nat} {l : List Nat} (h : w.ownsRow B 5 1 (.slice (some ⟨g, 0, none⟩) n c) n (cn .u8 l)) (hi : i < l.length) : w.cell? ⟨g, i, none⟩ = some (.int .u8 (l[i] : Int)) := by
  obtain ⟨b, o, e, hb, hc⟩ := At.of_own h (by rintro rfl; simp at hi)
  injection e with e
  injection e with e1 e2
  subst e1 e2
  have := hc i hi
  rwa [Nat.zero_add] at this
theorem Row.sum {B : Nat} {w w' : World} {l : List Nat} {v : Value} (h : Row B w (Sh.sum l) v w') : ∃ A c, v = .slice A 32 c ∧ At .u8 w' w'.heap.size A (Sh.sum l) ∧ (A = none → c = 0) ∧ 32 ≤ c := by
  obtain ⟨A, c, rfl, h1, h2, h3⟩ := h.at
  rw [sum_len] at h3
  exact ⟨A, c, by rw [sum_len], h1, h2, h3⟩
theorem rsalted (A A' : Option Addr) (s l J : List Nat) (hJ : J = s ++ [0] ++ l) (n n' c c' : Nat) (w : World) (hA : At .u8 w w.heap.size A s) (hA' : At .u8 w w.heap.size A' l) (hs : ∀ x ∈ s, x < 256) (hb : ∀ x ∈ l, x < 256) (hn : s.length = n) (hn' : l.length = n') (hc : A = none → c = 0) (hc' : A' = none → c' = 0) (hm : n ≤ 2400) (hm' : n' ≤ 2400) :
    Calls Tryd.prog 12 #[.slice A n c, .slice A' n' c'] w (OnePost w (Sh.sum J)) := by
  subst hJ hn hn'
  exact salted_any A A' s l c c' w hA hA' hs hb hc hc' hm hm'
end Go.Proofs.YthaecckneblecaaDoor
