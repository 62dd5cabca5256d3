/- Chapter 14 over whole numbers: what comes of a frame, of either side. -/
namespace Lf

structure Rv where
  st : Int
  bad : Bool
  conn : Bool
  code : Int
def ok (s : Int) : Rv := ⟨s, false, false, 0⟩
def rIdle (k : Int) (e : Bool) : Rv := if k = 1 then (if e = true then ok 2 else ok 1) else if k = 2 then ok 0 else ⟨0, true, true, 1⟩
def rOpen (k : Int) (e : Bool) (s b : Int) : Rv := if k = 0 ∨ k = 1 then (if e = true then ok b else ok s) else if k = 3 then ok 4 else ok s
def rRemote (k : Int) : Rv := if k = 0 ∨ k = 1 then ⟨2, true, false, 5⟩ else if k = 3 then ok 4 else ok 2
def rClosed (k : Int) : Rv := if k = 0 ∨ k = 1 then ⟨4, true, true, 5⟩ else ok 4
def recv (s k : Int) (e : Bool) : Rv :=
  if k = 0 ∨ k = 1 ∨ k = 2 ∨ k = 3 ∨ k = 8 then
    if s = 0 then rIdle k e else if s = 1 then rOpen k e 1 2 else if s = 3 then rOpen k e 3 4 else if s = 2 then rRemote k else if s = 4 then rClosed k else if s = 5 then ok 5 else ⟨s, true, true, 1⟩
  else ok s
def sMore (s : Int) (e : Bool) : Int × Bool := if s = 1 then (if e = true then (3, true) else (1, true)) else if s = 2 then (if e = true then (4, true) else (2, true)) else (s, false)
def sRst (s : Int) : Int × Bool := if s = 1 ∨ s = 2 ∨ s = 3 then (5, true) else (s, false)
def sUpd (s : Int) : Int × Bool := if s = 1 ∨ s = 3 then (s, true) else (s, false)
def send (s k : Int) (e : Bool) : Int × Bool := if k = 0 ∨ k = 1 then sMore s e else if k = 3 then sRst s else if k = 8 then sUpd s else (s, true)
end Lf
