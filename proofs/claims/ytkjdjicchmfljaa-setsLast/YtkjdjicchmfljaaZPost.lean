/- What the functions of chapter 13 hand back. -/
import Derived.Test.YtkjdjicchmfljaaZAt
import Derived.Test.YtkjdjicchmfljaaZPlain
namespace Go.Proofs.Ytkjdjicchmfljaa
open Go.RowKit Zs

def stv (s : St) : Value := .agg #[.int .i64 s.table, .int .i64 s.push, .int .i64 s.streams, .int .i64 s.window, .int .i64 s.frame, .int .i64 s.list]
def fltv (f : Flt) : Value := .agg #[.bool f.bad, .bool f.conn, .int .i64 (f.code : Int)]
def APost (w : World) (r : St × Flt) (e : Ending) (w' : World) : Prop := e = .returned (.tuple #[stv r.1, fltv r.2]) ∧ Below w.heap.size w w'
def SPost (w : World) (s : St) (e : Ending) (w' : World) : Prop := e = .returned (stv s) ∧ Below w.heap.size w w'
def YesZ (w : World) (e : Ending) (w' : World) : Prop := e = .returned (.bool true) ∧ Below w.heap.size w w'
theorem lt_of_heapZ {w : World} {k : Nat} {o : Obj} (h : w.heap[k]? = some o) : k < w.heap.size := by
  rcases Nat.lt_or_ge k w.heap.size with hlt | hge
  · exact hlt
  · rw [Array.getElem?_eq_none hge] at h; cases h
end Go.Proofs.Ytkjdjicchmfljaa
