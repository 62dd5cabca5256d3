/- Contract of the reference's known. -/
import Derived.Test.YtcamcfecmjoniaaSSize
import Derived.Test.YtcamcfecmjoniaaSMath
import Derived.Great.BuildSlice
namespace Go.Proofs.Ytcamcfecmjoniaa
open Go.RowKit St

/-- Strings that lie at block g. -/
def AtS (w : World) (g : Nat) (l : List ByteArray) : Prop := g < w.heap.size ∧ ∀ i (h : i < l.length), w.cell? ⟨g, i, none⟩ = some (.string l[i])
theorem AtS.up {w w' : World} {g : Nat} {l : List ByteArray} (h : AtS w g l) (hb : Below w.heap.size w w') : AtS w' g l :=
  ⟨Nat.lt_of_lt_of_le h.1 hb.size, fun i hi => (hb.cell (p := ⟨g, i, none⟩) h.1).trans (h.2 i hi)⟩
theorem AtS.new (w : World) (l : List ByteArray) (T : TypeId) (fr : Nat × Nat) : AtS (w.alloc (.cells (l.map Value.string).toArray T fr)) w.heap.size l := by
  refine ⟨by simp, fun i hi => ?_⟩
  rw [cell_of_row _ w.heap.size i _ T fr (heap_alloc_new w _)]
  simp [hi]
/-- A slice literal of strings. -/
theorem wpList_buildStrs {ops : Array Oper} {rest : List Oper} {o : Oper} {a : Act} {w : World} {Q : Exit → Act → World → Prop} (hg : o.guard = none) (t e : TypeId) (len : Nat) (parts : Array (Nat × Operand)) (ho : o.op = .buildSlice t len parts)
    (ss : List ByteArray) (hu : Try.prog.underlying t = some (.slice e)) (hsz : (Try.prog.info? e).map (·.size) = some 1) (hz : ((Try.prog.info? e).bind (·.zero)).isSome = true) (hlen : len = ss.length) (hpos : 0 < len) (hsmall : len ≤ 2 ^ 24)
    (hparts : parts.toList = (ss.zipIdx 0).map fun x => (x.2, Operand.const (Value.string x.1)))
    (h : wpList Try.prog ops Q rest (a.put o.dst (.slice (some ⟨w.heap.size, 0, none⟩) len len)) (w.alloc (.cells (ss.map Value.string).toArray e))) : wpList Try.prog ops Q (o :: rest) a w := by
  cases hie : Try.prog.info? e with
  | none => simp [hie] at hsz
  | some ie =>
    simp only [hie, Option.map_some, Option.some.injEq, Option.bind_some] at hsz hz
    obtain ⟨z, hzz⟩ := Option.isSome_iff_exists.1 hz
    refine wpList_buildSlice hg t e len parts ho _ ie z hu hie hzz (by rw [hsz]; omega) (by rw [hsz]; omega) ?_ h
    have hp : (parts.map fun (i, x) => (i, a.eval x)).toList = ((ss.map Value.string).zipIdx 0).map fun x => (x.2, x.1) := by
      rw [Array.toList_map, hparts, List.zipIdx_map, List.map_map, List.map_map]
      rfl
    rw [hp, hsz]
    exact Great.fill_flat _ _ (fun v hv => by obtain ⟨n, _, rfl⟩ := List.mem_map.1 hv; rfl) (by simp [hlen])
def KnPost (w : World) (e : Ending) (w' : World) : Prop := ∃ g, e = .returned (.slice (some ⟨g, 0, none⟩) 122 122) ∧ AtS w' g tab ∧ Below w.heap.size w w'
set_option maxRecDepth 100000 in
set_option maxHeartbeats 4000000 in
theorem rknown_any (w : World) : Calls Try.prog 20 #[] w (KnPost w) := by
  go_enter Try.func20, Try.ntmps20
  go_wp2_with (first | (refine wpList_buildStrs rfl 40 9 122 _ rfl tab (by kernel_rfl) (by kernel_rfl) (by kernel_rfl) (by kernel_rfl) (by decide) (by decide) (by kernel_rfl) ?_))
  go_ret
  exact ⟨w.heap.size, rfl, AtS.new w tab 9 (0, 0), (Below.refl _ _).alloc (Nat.le_refl _) _⟩
end Go.Proofs.Ytcamcfecmjoniaa
