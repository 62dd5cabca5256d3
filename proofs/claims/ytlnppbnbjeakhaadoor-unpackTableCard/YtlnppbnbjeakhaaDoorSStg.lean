/- The static table of RFC 7541 (appendix A), names and values in turn, as bytes; what is found in it. -/
import Derived.Test.YtlnppbnbjeakhaaDoorSSize
import Derived.Great.BuildSlice
namespace St

def tab : List ByteArray := [
  ⟨#[58, 97, 117, 116, 104, 111, 114, 105, 116, 121]⟩, ⟨#[]⟩,
  ⟨#[58, 109, 101, 116, 104, 111, 100]⟩, ⟨#[71, 69, 84]⟩,
  ⟨#[58, 109, 101, 116, 104, 111, 100]⟩, ⟨#[80, 79, 83, 84]⟩,
  ⟨#[58, 112, 97, 116, 104]⟩, ⟨#[47]⟩,
  ⟨#[58, 112, 97, 116, 104]⟩, ⟨#[47, 105, 110, 100, 101, 120, 46, 104, 116, 109, 108]⟩,
  ⟨#[58, 115, 99, 104, 101, 109, 101]⟩, ⟨#[104, 116, 116, 112]⟩,
  ⟨#[58, 115, 99, 104, 101, 109, 101]⟩, ⟨#[104, 116, 116, 112, 115]⟩,
  ⟨#[58, 115, 116, 97, 116, 117, 115]⟩, ⟨#[50, 48, 48]⟩,
  ⟨#[58, 115, 116, 97, 116, 117, 115]⟩, ⟨#[50, 48, 52]⟩,
  ⟨#[58, 115, 116, 97, 116, 117, 115]⟩, ⟨#[50, 48, 54]⟩,
  ⟨#[58, 115, 116, 97, 116, 117, 115]⟩, ⟨#[51, 48, 52]⟩,
  ⟨#[58, 115, 116, 97, 116, 117, 115]⟩, ⟨#[52, 48, 48]⟩,
  ⟨#[58, 115, 116, 97, 116, 117, 115]⟩, ⟨#[52, 48, 52]⟩,
  ⟨#[58, 115, 116, 97, 116, 117, 115]⟩, ⟨#[53, 48, 48]⟩,
  ⟨#[97, 99, 99, 101, 112, 116, 45, 99, 104, 97, 114, 115, 101, 116]⟩, ⟨#[]⟩,
  ⟨#[97, 99, 99, 101, 112, 116, 45, 101, 110, 99, 111, 100, 105, 110, 103]⟩, ⟨#[103, 122, 105, 112, 44, 32, 100, 101, 102, 108, 97, 116, 101]⟩,
  ⟨#[97, 99, 99, 101, 112, 116, 45, 108, 97, 110, 103, 117, 97, 103, 101]⟩, ⟨#[]⟩,
  ⟨#[97, 99, 99, 101, 112, 116, 45, 114, 97, 110, 103, 101, 115]⟩, ⟨#[]⟩,
  ⟨#[97, 99, 99, 101, 112, 116]⟩, ⟨#[]⟩,
  ⟨#[97, 99, 99, 101, 115, 115, 45, 99, 111, 110, 116, 114, 111, 108, 45, 97, 108, 108, 111, 119, 45, 111, 114, 105, 103, 105, 110]⟩, ⟨#[]⟩,
  ⟨#[97, 103, 101]⟩, ⟨#[]⟩,
  ⟨#[97, 108, 108, 111, 119]⟩, ⟨#[]⟩,
  ⟨#[97, 117, 116, 104, 111, 114, 105, 122, 97, 116, 105, 111, 110]⟩, ⟨#[]⟩,
  ⟨#[99, 97, 99, 104, 101, 45, 99, 111, 110, 116, 114, 111, 108]⟩, ⟨#[]⟩,
  ⟨#[99, 111, 110, 116, 101, 110, 116, 45, 100, 105, 115, 112, 111, 115, 105, 116, 105, 111, 110]⟩, ⟨#[]⟩,
  ⟨#[99, 111, 110, 116, 101, 110, 116, 45, 101, 110, 99, 111, 100, 105, 110, 103]⟩, ⟨#[]⟩,
  ⟨#[99, 111, 110, 116, 101, 110, 116, 45, 108, 97, 110, 103, 117, 97, 103, 101]⟩, ⟨#[]⟩,
  ⟨#[99, 111, 110, 116, 101, 110, 116, 45, 108, 101, 110, 103, 116, 104]⟩, ⟨#[]⟩,
  ⟨#[99, 111, 110, 116, 101, 110, 116, 45, 108, 111, 99, 97, 116, 105, 111, 110]⟩, ⟨#[]⟩,
  ⟨#[99, 111, 110, 116, 101, 110, 116, 45, 114, 97, 110, 103, 101]⟩, ⟨#[]⟩,
  ⟨#[99, 111, 110, 116, 101, 110, 116, 45, 116, 121, 112, 101]⟩, ⟨#[]⟩,
  ⟨#[99, 111, 111, 107, 105, 101]⟩, ⟨#[]⟩,
  ⟨#[100, 97, 116, 101]⟩, ⟨#[]⟩,
  ⟨#[101, 116, 97, 103]⟩, ⟨#[]⟩,
  ⟨#[101, 120, 112, 101, 99, 116]⟩, ⟨#[]⟩,
  ⟨#[101, 120, 112, 105, 114, 101, 115]⟩, ⟨#[]⟩,
  ⟨#[102, 114, 111, 109]⟩, ⟨#[]⟩,
  ⟨#[104, 111, 115, 116]⟩, ⟨#[]⟩,
  ⟨#[105, 102, 45, 109, 97, 116, 99, 104]⟩, ⟨#[]⟩,
  ⟨#[105, 102, 45, 109, 111, 100, 105, 102, 105, 101, 100, 45, 115, 105, 110, 99, 101]⟩, ⟨#[]⟩,
  ⟨#[105, 102, 45, 110, 111, 110, 101, 45, 109, 97, 116, 99, 104]⟩, ⟨#[]⟩,
  ⟨#[105, 102, 45, 114, 97, 110, 103, 101]⟩, ⟨#[]⟩,
  ⟨#[105, 102, 45, 117, 110, 109, 111, 100, 105, 102, 105, 101, 100, 45, 115, 105, 110, 99, 101]⟩, ⟨#[]⟩,
  ⟨#[108, 97, 115, 116, 45, 109, 111, 100, 105, 102, 105, 101, 100]⟩, ⟨#[]⟩,
  ⟨#[108, 105, 110, 107]⟩, ⟨#[]⟩,
  ⟨#[108, 111, 99, 97, 116, 105, 111, 110]⟩, ⟨#[]⟩,
  ⟨#[109, 97, 120, 45, 102, 111, 114, 119, 97, 114, 100, 115]⟩, ⟨#[]⟩,
  ⟨#[112, 114, 111, 120, 121, 45, 97, 117, 116, 104, 101, 110, 116, 105, 99, 97, 116, 101]⟩, ⟨#[]⟩,
  ⟨#[112, 114, 111, 120, 121, 45, 97, 117, 116, 104, 111, 114, 105, 122, 97, 116, 105, 111, 110]⟩, ⟨#[]⟩,
  ⟨#[114, 97, 110, 103, 101]⟩, ⟨#[]⟩,
  ⟨#[114, 101, 102, 101, 114, 101, 114]⟩, ⟨#[]⟩,
  ⟨#[114, 101, 102, 114, 101, 115, 104]⟩, ⟨#[]⟩,
  ⟨#[114, 101, 116, 114, 121, 45, 97, 102, 116, 101, 114]⟩, ⟨#[]⟩,
  ⟨#[115, 101, 114, 118, 101, 114]⟩, ⟨#[]⟩,
  ⟨#[115, 101, 116, 45, 99, 111, 111, 107, 105, 101]⟩, ⟨#[]⟩,
  ⟨#[115, 116, 114, 105, 99, 116, 45, 116, 114, 97, 110, 115, 112, 111, 114, 116, 45, 115, 101, 99, 117, 114, 105, 116, 121]⟩, ⟨#[]⟩,
  ⟨#[116, 114, 97, 110, 115, 102, 101, 114, 45, 101, 110, 99, 111, 100, 105, 110, 103]⟩, ⟨#[]⟩,
  ⟨#[117, 115, 101, 114, 45, 97, 103, 101, 110, 116]⟩, ⟨#[]⟩,
  ⟨#[118, 97, 114, 121]⟩, ⟨#[]⟩,
  ⟨#[118, 105, 97]⟩, ⟨#[]⟩,
  ⟨#[119, 119, 119, 45, 97, 117, 116, 104, 101, 110, 116, 105, 99, 97, 116, 101]⟩, ⟨#[]⟩]
theorem tab_len : tab.length = 122 := by decide
/-- The name and the value at place i (from 0). -/
def nm (i : Nat) : ByteArray := tab.getD (2 * i) ⟨#[]⟩
def vl (i : Nat) : ByteArray := tab.getD (2 * i + 1) ⟨#[]⟩
/-- Found among the places from i on: both, the name. -/
def fnd (n v : List UInt8) : Nat → Nat → Nat × Nat
  | 0, _ => (0, 0)
  | f + 1, i => if (nm i).toList == n then (if (vl i).toList == v then (i + 1, i + 1) else ((fnd n v f (i + 1)).1, i + 1)) else fnd n v f (i + 1)
end St
/- Contract of the reference's known. -/
namespace Go.Proofs.YtlnppbnbjeakhaaDoor
open Go.RowKit St

/-- Strings that lie at block g. -/
def AtS (w : World) (g : Nat) (l : List ByteArray) : Prop := g < w.heap.size ∧ ∀ i (h : i < l.length), w.cell? ⟨g, i, none⟩ = some (.string l[i])
theorem AtS.up {w w' : World} {g : Nat} {l : List ByteArray} (h : AtS w g l) (hb : Below w.heap.size w w') : AtS w' g l :=
  ⟨Nat.lt_of_lt_of_le h.1 hb.size, fun i hi => (hb.cell (p := ⟨g, i, none⟩) h.1).trans (h.2 i hi)⟩
theorem AtS.new (w : World) (l : List ByteArray) (T : TypeId) (fr : Nat × Nat) : AtS (w.alloc (.cells (l.map Value.string).toArray T fr)) w.heap.size l := by
  refine ⟨by simp, fun i hi => ?_⟩
  rw [cell_of_row _ w.heap.size i _ T fr (heap_alloc_new w _)]
  simp [hi]
/-- A slice literal of strings. -/
theorem wpList_buildStrs {ops : Array Oper} {rest : List Oper} {o : Oper} {a : Act} {w : World} {Q : Exit → Act → World → Prop} (hg : o.guard = none) (t e : TypeId) (len : Nat) (parts : Array (Nat × Operand)) (ho : o.op = .buildSlice t len parts)
    (ss : List ByteArray) (hu : Tryd.prog.underlying t = some (.slice e)) (hsz : (Tryd.prog.info? e).map (·.size) = some 1) (hz : ((Tryd.prog.info? e).bind (·.zero)).isSome = true) (hlen : len = ss.length) (hpos : 0 < len) (hsmall : len ≤ 2 ^ 24)
    (hparts : parts.toList = (ss.zipIdx 0).map fun x => (x.2, Operand.const (Value.string x.1)))
    (h : wpList Tryd.prog ops Q rest (a.put o.dst (.slice (some ⟨w.heap.size, 0, none⟩) len len)) (w.alloc (.cells (ss.map Value.string).toArray e))) : wpList Tryd.prog ops Q (o :: rest) a w := by
  cases hie : Tryd.prog.info? e with
  | none => simp [hie] at hsz
  | some ie =>
    simp only [hie, Option.map_some, Option.some.injEq, Option.bind_some] at hsz hz
    obtain ⟨z, hzz⟩ := Option.isSome_iff_exists.1 hz
    refine wpList_buildSlice hg t e len parts ho _ ie z hu hie hzz (by rw [hsz]; omega) (by rw [hsz]; omega) ?_ h
    have hp : (parts.map fun (i, x) => (i, a.eval x)).toList = ((ss.map Value.string).zipIdx 0).map fun x => (x.2, x.1) := by
      rw [Array.toList_map, hparts, List.zipIdx_map, List.map_map, List.map_map]
      rfl
    rw [hp, hsz]
    exact Great.fill_flat _ _ (fun v hv => by obtain ⟨n, _, rfl⟩ := List.mem_map.1 hv; rfl) (by simp [hlen])
def KnPost (w : World) (e : Ending) (w' : World) : Prop := ∃ g, e = .returned (.slice (some ⟨g, 0, none⟩) 122 122) ∧ AtS w' g tab ∧ Below w.heap.size w w'
set_option maxRecDepth 100000 in
set_option maxHeartbeats 4000000 in
theorem rknown_any (w : World) : Calls Tryd.prog 59 #[] w (KnPost w) := by
  go_enter Tryd.func59, Tryd.ntmps59
  go_wp2_with (first | (refine wpList_buildStrs rfl 86 9 122 _ rfl tab (by kernel_rfl) (by kernel_rfl) (by kernel_rfl) (by kernel_rfl) (by decide) (by decide) (by kernel_rfl) ?_))
  go_ret
  exact ⟨w.heap.size, rfl, AtS.new w tab 9 (0, 0), (Below.refl _ _).alloc (Nat.le_refl _) _⟩
end Go.Proofs.YtlnppbnbjeakhaaDoor
/- The static table's field at an index; where the table's strings lie. -/
namespace Go.Proofs.YtlnppbnbjeakhaaDoor
open Go.RowKit St

/-- What stands at place i of the table (from 1). -/
def stg (i : Int) : Fld × Bool := if 1 ≤ i ∧ i ≤ 61 then (⟨nm (i.toNat - 1), vl (i.toNat - 1), false⟩, true) else (⟨⟨#[]⟩, ⟨#[]⟩, false⟩, false)
def StPost (w : World) (s : Fld × Bool) (e : Ending) (w' : World) : Prop := e = .returned (.tuple #[.agg #[.string s.1.name, .string s.1.value, .bool s.1.never], .bool s.2]) ∧ Below w.heap.size w w'
theorem tab_at {w : World} {g : Nat} (h : AtS w g tab) (i : Nat) (hi : i < 61) : w.cell? ⟨g, 2 * i, none⟩ = some (.string (nm i)) ∧ w.cell? ⟨g, 2 * i + 1, none⟩ = some (.string (vl i)) := by
  have h0 := h.2 (2 * i) (by rw [tab_len]; omega)
  have h1 := h.2 (2 * i + 1) (by rw [tab_len]; omega)
  rw [h0, h1, nm, vl, List.getD, List.getD, List.getElem?_eq_getElem (by rw [tab_len]; omega), List.getElem?_eq_getElem (by rw [tab_len]; omega)]
  exact ⟨rfl, rfl⟩
end Go.Proofs.YtlnppbnbjeakhaaDoor
