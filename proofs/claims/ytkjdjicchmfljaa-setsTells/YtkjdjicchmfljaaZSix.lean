/- Settings that come in by value: six ints. -/
import Derived.Test.YtkjdjicchmfljaaZPost
import Derived.ChangeSame
namespace Go.Proofs.Ytkjdjicchmfljaa
open Go.ChangeShapes Go.WideShapes Go.ChangeAt Go.RowKit Go.Deep Go.Joins Zs

theorem array6 {α : Type} {cs : Array α} (h : cs.size = 6) : ∃ c0 c1 c2 c3 c4 c5, cs = #[c0, c1, c2, c3, c4, c5] := by
  obtain ⟨l⟩ := cs
  match l, h with
  | [c0, c1, c2, c3, c4, c5], _ => exact ⟨c0, c1, c2, c3, c4, c5, rfl⟩
theorem list6 {α : Type} {l : List α} (h : l.length = 6) : ∃ c0 c1 c2 c3 c4 c5, l = [c0, c1, c2, c3, c4, c5] := by
  match l, h with
  | [c0, c1, c2, c3, c4, c5], _ => exact ⟨c0, c1, c2, c3, c4, c5, rfl⟩
theorem cellsSets : Try.prog.cellsOf 23 = 6 := by kernel_rfl
set_option maxRecDepth 100000 in
theorem openedT {H : Type} {enc : TypeId × Value → H} {W : World} {b0 : Nat} {v : Value} {d : DataW H} {p : List MemPlace}
    (hv : Value.okWide Try.prog W .any b0 23 v) (h : DataW.Trod enc Try.prog W 0 (fun _ => true) true 23 v d p) :
    ∃ s : St, v = stv s ∧ ∀ (W' : World) (sp : Nat → Bool), DataW.Trod enc Try.prog W' 0 sp true 23 v d p := by
  obtain ⟨cs, rfl, hsz⟩ := okWide_struct Try.underlying23 hv
  obtain ⟨c0, c1, c2, c3, c4, c5, rfl⟩ := array6 (hsz.trans cellsSets)
  obtain ⟨fuel, hf⟩ := h
  obtain ⟨xs, n, _, hx, hl, hlen, hff⟩ := DataW.trod_struct Try.underlying23 hf
  obtain ⟨y0, y1, y2, y3, y4, y5, rfl⟩ := list6 hlen
  have h0 : DataW.trod enc Try.prog W 0 (fun _ => true) true n 3 [c0] = some y0 := by
    have := hff 0 _ rfl
    simpa [Value.cells, cellsIntF] using this
  have h1 : DataW.trod enc Try.prog W 0 (fun _ => true) true n 3 [c1] = some y1 := by
    have := hff 1 _ rfl
    simpa [Value.cells, cellsIntF] using this
  have h2 : DataW.trod enc Try.prog W 0 (fun _ => true) true n 3 [c2] = some y2 := by
    have := hff 2 _ rfl
    simpa [Value.cells, cellsIntF] using this
  have h3 : DataW.trod enc Try.prog W 0 (fun _ => true) true n 3 [c3] = some y3 := by
    have := hff 3 _ rfl
    simpa [Value.cells, cellsIntF] using this
  have h4 : DataW.trod enc Try.prog W 0 (fun _ => true) true n 3 [c4] = some y4 := by
    have := hff 4 _ rfl
    simpa [Value.cells, cellsIntF] using this
  have h5 : DataW.trod enc Try.prog W 0 (fun _ => true) true n 3 [c5] = some y5 := by
    have := hff 5 _ rfl
    simpa [Value.cells, cellsIntF] using this
  obtain ⟨n0, e0, q0, w0⟩ := DataW.trod_int Try.underlying3 h0
  obtain ⟨n1, e1, q1, w1⟩ := DataW.trod_int Try.underlying3 h1
  obtain ⟨n2, e2, q2, w2⟩ := DataW.trod_int Try.underlying3 h2
  obtain ⟨n3, e3, q3, w3⟩ := DataW.trod_int Try.underlying3 h3
  obtain ⟨n4, e4, q4, w4⟩ := DataW.trod_int Try.underlying3 h4
  obtain ⟨n5, e5, q5, w5⟩ := DataW.trod_int Try.underlying3 h5
  simp at e0 e1 e2 e3 e4 e5
  subst e0 e1 e2 e3 e4 e5 q0 q1 q2 q3 q4 q5
  refine ⟨⟨n0, n1, n2, n3, n4, n5⟩, rfl, fun W' sp => ⟨2, ?_⟩⟩
  have g0 := trod_int_mk (enc := enc) (w := W') (base := 0) (spare := sp) (held := true) 0 Try.underlying3 w0
  have g1 := trod_int_mk (enc := enc) (w := W') (base := 0) (spare := sp) (held := true) 0 Try.underlying3 w1
  have g2 := trod_int_mk (enc := enc) (w := W') (base := 0) (spare := sp) (held := true) 0 Try.underlying3 w2
  have g3 := trod_int_mk (enc := enc) (w := W') (base := 0) (spare := sp) (held := true) 0 Try.underlying3 w3
  have g4 := trod_int_mk (enc := enc) (w := W') (base := 0) (spare := sp) (held := true) 0 Try.underlying3 w4
  have g5 := trod_int_mk (enc := enc) (w := W') (base := 0) (spare := sp) (held := true) 0 Try.underlying3 w5
  have := trod_struct_mk (enc := enc) (w := W') (base := 0) (spare := sp) (held := true) (n := 1) (cs := [.int .i64 n0, .int .i64 n1, .int .i64 n2, .int .i64 n3, .int .i64 n4, .int .i64 n5]) (xs := [(.lit (.int .i64 n0), []), (.lit (.int .i64 n1), []), (.lit (.int .i64 n2), []), (.lit (.int .i64 n3), []), (.lit (.int .i64 n4), []), (.lit (.int .i64 n5), [])]) Try.underlying23 (by rw [cellsSets]; rfl) (by simp [cellsIntF, g0, g1, g2, g3, g4, g5])
  rw [hx]
  simpa [Value.cells] using this
end Go.Proofs.Ytkjdjicchmfljaa
