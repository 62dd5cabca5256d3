/- Chapter 11 over plain values: what a frame says, or what is wrong with it. -/
import Derived.Test.YtelbldhnlmggiaaFPlain
namespace Fr

/-- What a frame says. -/
structure Prt where
  data : List Nat
  pad : Nat
  code : Nat
  last : Nat
  step : Nat
  sets : List (Int × Int)
  end' : Bool
  ack : Bool
  whole : Bool
def noPrt : Prt := ⟨[], 0, 0, 0, 0, [], false, false, false⟩
/-- What is wrong: is something, with the connection, its code. -/
structure Flt where
  bad : Bool
  conn : Bool
  code : Nat
def noFlt : Flt := ⟨false, false, 0⟩
def wrong (code : Nat) (conn : Bool) : Prt × Flt := (noPrt, ⟨true, conn, code⟩)
/-- A flag. -/
def bit (F : Int) (j : Nat) : Bool := decide (F / 2 ^ j % 2 = 1)
/-- Settings: two and four bytes each. -/
def sixes : List Nat → List (Int × Int)
  | a :: b :: c :: d :: e :: g :: r => ((val [a, b] : Int), (val [c, d, e, g] : Int)) :: sixes r
  | _ => []
/-- Behind the pad's length: the priority's five bytes, the data, the padding. -/
def padIn (f : Frm) (pad long : Nat) (b : List Nat) : Prt × Flt :=
  if pad > b.length then wrong 1 true
  else (⟨b.take (b.length - pad), pad + long, 0, 0, 0, [], bit f.flags 0, false, decide (f.kind = 1) && bit f.flags 2⟩, noFlt)
def prior (f : Frm) (pad long : Nat) (b : List Nat) : Prt × Flt :=
  if f.kind = 1 ∧ bit f.flags 5 = true then (if b.length < 5 then wrong 6 true else padIn f pad long (b.drop 5)) else padIn f pad long b
def padded (f : Frm) : Prt × Flt :=
  if f.stream = 0 then wrong 1 true
  else if bit f.flags 3 = true then (match f.body with
    | [] => wrong 6 true
    | x :: r => prior f x 1 r)
  else prior f 0 0 f.body
/-- A frame taken apart. -/
def read (f : Frm) : Prt × Flt :=
  if f.kind = 0 ∨ f.kind = 1 then padded f
  else if f.kind = 2 then (if f.stream = 0 then wrong 1 true else if f.body.length ≠ 5 then wrong 6 false else (noPrt, noFlt))
  else if f.kind = 3 then (if f.stream = 0 then wrong 1 true else if f.body.length ≠ 4 then wrong 6 true else ({ noPrt with code := val f.body }, noFlt))
  else if f.kind = 4 then (if f.stream ≠ 0 then wrong 1 true else if (bit f.flags 0 = true ∧ 0 < f.body.length) ∨ f.body.length % 6 ≠ 0 then wrong 6 true else ({ noPrt with sets := sixes f.body, ack := bit f.flags 0 }, noFlt))
  else if f.kind = 5 then wrong 1 true
  else if f.kind = 6 then (if f.stream ≠ 0 then wrong 1 true else if f.body.length ≠ 8 then wrong 6 true else ({ noPrt with data := f.body, ack := bit f.flags 0 }, noFlt))
  else if f.kind = 7 then (if f.stream ≠ 0 then wrong 1 true else if f.body.length < 8 then wrong 6 true else ({ noPrt with last := val (f.body.take 4) % 2147483648, code := val ((f.body.drop 4).take 4) }, noFlt))
  else if f.kind = 8 then (if f.body.length ≠ 4 then wrong 6 true else if val f.body % 2147483648 = 0 then wrong 1 (decide (f.stream = 0)) else ({ noPrt with step := val f.body % 2147483648 }, noFlt))
  else if f.kind = 9 then (if f.stream = 0 then wrong 1 true else ({ noPrt with data := f.body, whole := bit f.flags 2 }, noFlt))
  else (noPrt, noFlt)
theorem sixes_len : ∀ (n : Nat) (l : List Nat), l.length = 6 * n → (sixes l).length = n
  | 0, l, h => by
    have : l = [] := List.eq_nil_of_length_eq_zero (by omega)
    subst this
    rfl
  | n + 1, a :: b :: c :: d :: e :: g :: r, h => by
    rw [sixes, List.length_cons, sixes_len n r (by simp only [List.length_cons] at h; omega)]
  | n + 1, [], h => by simp at h
  | n + 1, [_], h => by simp at h; omega
  | n + 1, [_, _], h => by simp at h; omega
  | n + 1, [_, _, _], h => by simp at h; omega
  | n + 1, [_, _, _, _], h => by simp at h; omega
  | n + 1, [_, _, _, _, _], h => by simp at h; omega
theorem sixes_at : ∀ (n : Nat) (l : List Nat), l.length = 6 * n → ∀ i (h : i < (sixes l).length), (sixes l)[i] = ((val ((l.drop (6 * i)).take 2) : Int), (val ((l.drop (6 * i + 2)).take 4) : Int))
  | 0, l, hl, i, h => by
    rw [sixes_len 0 l hl] at h
    omega
  | n + 1, a :: b :: c :: d :: e :: g :: r, hl, i, h => by
    have hr : r.length = 6 * n := by simp only [List.length_cons] at hl; omega
    cases i with
    | zero => rfl
    | succ i =>
      have hi : i < (sixes r).length := by
        rw [sixes, List.length_cons] at h
        omega
      have e1 : 6 * (i + 1) = 6 * i + 6 := by omega
      have e2 : 6 * (i + 1) + 2 = 6 * i + 2 + 6 := by omega
      rw [e2, e1]
      simp only [sixes, List.getElem_cons_succ, List.drop_succ_cons]
      exact sixes_at n r hr i hi
  | n + 1, [], hl, _, _ => by simp at hl
  | n + 1, [_], hl, _, _ => by simp at hl; omega
  | n + 1, [_, _], hl, _, _ => by simp at hl; omega
  | n + 1, [_, _, _], hl, _, _ => by simp at hl; omega
  | n + 1, [_, _, _, _], hl, _, _ => by simp at hl; omega
  | n + 1, [_, _, _, _, _], hl, _, _ => by simp at hl; omega
end Fr
