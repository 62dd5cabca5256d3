/- Chapter 10 over plain values: a frame's bytes; what comes out of bytes. -/
import Derived.Test.YtelbldhnlmggiaaFMath
namespace Fr

/-- A frame. -/
structure Frm where
  kind : Int
  flags : Int
  stream : Int
  body : List Nat
def noFrm : Frm := ⟨0, 0, 0, []⟩
/-- What may be put. -/
def Frm.in_ (f : Frm) : Prop := 0 ≤ f.kind ∧ f.kind ≤ 255 ∧ 0 ≤ f.flags ∧ f.flags ≤ 255 ∧ 0 ≤ f.stream ∧ f.stream ≤ 2147483647
instance (f : Frm) : Decidable f.in_ := by unfold Frm.in_; infer_instance
def head (f : Frm) : List Nat := num f.body.length 3 ++ ([f.kind.toNat, f.flags.toNat] ++ num f.stream.toNat 4)
/-- A frame's bytes, and what went wrong. -/
def put (f : Frm) : List Nat × Nat := if f.in_ then if 16777216 ≤ f.body.length then ([], 3) else (head f ++ f.body, 0) else ([], 1)
/-- The frame at the beginning, what went wrong; what is left. -/
def next (room : Int) (b : List Nat) : Frm × Nat × List Nat :=
  if b.length < 9 then (noFrm, 4, b)
  else if room < (val (b.take 3) : Int) then (noFrm, 3, b)
  else if b.length < 9 + val (b.take 3) then (noFrm, 4, b)
  else (⟨(b.getD 3 0 : Nat), (b.getD 4 0 : Nat), ((val ((b.drop 5).take 4) % 2147483648 : Nat) : Int), (b.drop 9).take (val (b.take 3))⟩, 0, b.drop (9 + val (b.take 3)))
theorem head_len (f : Frm) : (head f).length = 9 := by simp [head, num_len]
theorem put_ok {f : Frm} {B : List Nat} (h : put f = (B, 0)) : f.in_ ∧ f.body.length < 16777216 ∧ B = head f ++ f.body := by
  unfold put at h
  by_cases h1 : f.in_
  · rw [if_pos h1] at h
    by_cases h2 : 16777216 ≤ f.body.length
    · rw [if_pos h2] at h
      simp at h
    · rw [if_neg h2] at h
      simp at h
      exact ⟨h1, by omega, h.symm⟩
  · rw [if_neg h1] at h
    simp at h
theorem head_val (f : Frm) (hb : f.body.length < 16777216) (r : List Nat) : val ((head f ++ r).take 3) = f.body.length := by
  have e : (head f ++ r).take 3 = num f.body.length 3 := by
    rw [head, List.append_assoc, List.take_append_of_le_length (by rw [num_len]; omega), List.take_of_length_le (by rw [num_len]; omega)]
  rw [e, val_num _ _ (by simpa using hb)]
/-- A whole frame at the beginning comes out as it was put. -/
theorem next_put {f : Frm} {B : List Nat} (h : put f = (B, 0)) (room : Int) (hr : (f.body.length : Int) ≤ room) (r : List Nat) : next room (B ++ r) = (f, 0, r) := by
  obtain ⟨⟨k1, k2, k3, k4, k5, k6⟩, hb, rfl⟩ := put_ok h
  have hl := head_len f
  have hv : val ((head f ++ f.body ++ r).take 3) = f.body.length := by rw [List.append_assoc]; exact head_val f hb _
  rw [next, if_neg (by simp only [List.length_append]; omega), hv, if_neg (by omega), if_neg (by simp only [List.length_append]; omega)]
  have e5 : ((head f ++ f.body ++ r).drop 5).take 4 = num f.stream.toNat 4 := by
    have : head f = (num f.body.length 3 ++ [f.kind.toNat, f.flags.toNat]) ++ num f.stream.toNat 4 := by rw [head, List.append_assoc]
    rw [this, List.append_assoc, List.append_assoc, List.drop_left' (by simp [num_len]), List.take_left' (by rw [num_len])]
  have e3 : (head f ++ f.body ++ r).getD 3 0 = f.kind.toNat := by simp [head, num]
  have e4 : (head f ++ f.body ++ r).getD 4 0 = f.flags.toNat := by simp [head, num]
  have e9 : ((head f ++ f.body ++ r).drop 9).take f.body.length = f.body := by rw [List.append_assoc, List.drop_left' hl, List.take_left' rfl]
  have e10 : (head f ++ f.body ++ r).drop (9 + f.body.length) = r := List.drop_left' (by rw [List.length_append, hl])
  rw [e5, e3, e4, e9, e10, val_num _ _ (by omega), Nat.mod_eq_of_lt (by omega), Int.toNat_of_nonneg k1, Int.toNat_of_nonneg k3, Int.toNat_of_nonneg k5]
/-- Part of a frame that is within the room: it is not whole. -/
theorem next_part {f : Frm} {B : List Nat} (h : put f = (B, 0)) (room : Int) (hr : (f.body.length : Int) ≤ room) (p : List Nat) (hp : p <+: B) (hlt : p.length < B.length) : next room p = (noFrm, 4, p) := by
  obtain ⟨_, hb, rfl⟩ := put_ok h
  have hl := head_len f
  rw [next]
  by_cases h9 : p.length < 9
  · rw [if_pos h9]
  · have hv : val (p.take 3) = f.body.length := by
      obtain ⟨t, ht⟩ := hp
      have e : p.take 3 = (head f ++ f.body).take 3 := by rw [← ht, List.take_append_of_le_length (by omega)]
      rw [e]
      exact head_val f hb _
    rw [List.length_append] at hlt
    rw [if_neg h9, hv, if_neg (by omega), if_pos (by omega)]
/-- A frame that is above the room: as soon as its nine bytes are there. -/
theorem next_long {f : Frm} {B : List Nat} (h : put f = (B, 0)) (room : Int) (hr : room < (f.body.length : Int)) (p r : List Nat) (hp : p <+: B ++ r) (h9 : 9 ≤ p.length) : next room p = (noFrm, 3, p) := by
  obtain ⟨_, hb, rfl⟩ := put_ok h
  have hv : val (p.take 3) = f.body.length := by
    obtain ⟨t, ht⟩ := hp
    have e : p.take 3 = (head f ++ f.body ++ r).take 3 := by rw [← ht, List.take_append_of_le_length (by omega)]
    rw [e, List.append_assoc]
    exact head_val f hb _
  rw [next, if_neg (by omega), hv, if_pos hr]
/-- Alike. -/
def same (a b : Frm) : Bool := decide (a.kind = b.kind) && decide (a.flags = b.flags) && decide (a.stream = b.stream) && decide (a.body = b.body)
theorem same_self (a : Frm) : same a a = true := by simp [same]
/-- What is put differs where the frames differ. -/
theorem put_inj {f g : Frm} {B : List Nat} (h : put f = (B, 0)) (k : put g = (B, 0)) : f = g := by
  have h1 := next_put h (f.body.length : Int) (Int.le_refl _) []
  have h2 := (put_ok h).2.2
  have h3 := (put_ok k).2.2
  have hl : f.body.length = g.body.length := by
    have := congrArg List.length (h2.symm.trans h3)
    simp only [List.length_append, head_len] at this
    omega
  have h4 := next_put k (f.body.length : Int) (by omega) []
  rw [h1] at h4
  exact congrArg Prod.fst h4
end Fr
