/- Chapter 10 over plain values: numbers in bytes. -/
namespace Fr

/-- The lowest n bytes of a number, the greatest first. -/
def num (v : Nat) : Nat → List Nat
  | 0 => []
  | n + 1 => (v / 256 ^ n % 256) :: num v n
/-- The number of bytes. -/
def vals : List Nat → Nat → Nat
  | [], v => v
  | x :: r, v => vals r (v * 256 + x)
def val (l : List Nat) : Nat := vals l 0
theorem num_len (v : Nat) : ∀ n, (num v n).length = n
  | 0 => rfl
  | n + 1 => by rw [num, List.length_cons, num_len v n]
theorem num_byte (v : Nat) : ∀ n, ∀ x ∈ num v n, x < 256
  | 0 => by simp [num]
  | n + 1 => by
    intro x hx
    rw [num] at hx
    rcases List.mem_cons.1 hx with rfl | hx
    · exact Nat.mod_lt _ (by omega)
    · exact num_byte v n x hx
theorem vals_lt : ∀ (l : List Nat) (v k : Nat), (∀ x ∈ l, x < 256) → v < 256 ^ k → vals l v < 256 ^ (k + l.length)
  | [], v, k, _, h => by simpa [vals] using h
  | x :: r, v, k, hl, h => by
    have hx := hl x (by simp)
    have h1 : v * 256 + x < 256 ^ (k + 1) := by rw [Nat.pow_succ]; omega
    have := vals_lt r (v * 256 + x) (k + 1) (fun y hy => hl y (by simp [hy])) h1
    rw [vals, List.length_cons, show k + (r.length + 1) = k + 1 + r.length by omega]
    exact this
theorem val_lt (l : List Nat) (h : ∀ x ∈ l, x < 256) : val l < 256 ^ l.length := by
  have := vals_lt l 0 0 h (by simp)
  simpa [val] using this
theorem vals_num (v : Nat) : ∀ (n u : Nat), vals (num v n) u = u * 256 ^ n + v % 256 ^ n
  | 0, u => by simp [num, vals, Nat.mod_one]
  | n + 1, u => by
    have h1 : v % (256 ^ n * 256) = v % 256 ^ n + 256 ^ n * (v / 256 ^ n % 256) := Nat.mod_mul
    rw [num, vals, vals_num v n, Nat.pow_succ, h1, Nat.add_mul, Nat.mul_assoc u, Nat.mul_comm 256 (256 ^ n), Nat.mul_comm (v / 256 ^ n % 256) (256 ^ n)]
    omega
/-- There and back. -/
theorem val_num (v n : Nat) (h : v < 256 ^ n) : val (num v n) = v := by
  rw [val, vals_num, Nat.zero_mul, Nat.zero_add, Nat.mod_eq_of_lt h]
end Fr
/- Chapter 10 over plain values: a frame's bytes; what comes out of bytes. -/
namespace Fr

/-- A frame. -/
structure Frm where
  kind : Int
  flags : Int
  stream : Int
  body : List Nat
def noFrm : Frm := ⟨0, 0, 0, []⟩
/-- What may be put. -/
def Frm.in_ (f : Frm) : Prop := 0 ≤ f.kind ∧ f.kind ≤ 255 ∧ 0 ≤ f.flags ∧ f.flags ≤ 255 ∧ 0 ≤ f.stream ∧ f.stream ≤ 2147483647
instance (f : Frm) : Decidable f.in_ := by unfold Frm.in_; infer_instance
def head (f : Frm) : List Nat := num f.body.length 3 ++ ([f.kind.toNat, f.flags.toNat] ++ num f.stream.toNat 4)
/-- A frame's bytes, and what went wrong. -/
def put (f : Frm) : List Nat × Nat := if f.in_ then if 16777216 ≤ f.body.length then ([], 3) else (head f ++ f.body, 0) else ([], 1)
/-- The frame at the beginning, what went wrong; what is left. -/
def next (room : Int) (b : List Nat) : Frm × Nat × List Nat :=
  if b.length < 9 then (noFrm, 4, b)
  else if room < (val (b.take 3) : Int) then (noFrm, 3, b)
  else if b.length < 9 + val (b.take 3) then (noFrm, 4, b)
  else (⟨(b.getD 3 0 : Nat), (b.getD 4 0 : Nat), ((val ((b.drop 5).take 4) % 2147483648 : Nat) : Int), (b.drop 9).take (val (b.take 3))⟩, 0, b.drop (9 + val (b.take 3)))
theorem head_len (f : Frm) : (head f).length = 9 := by simp [head, num_len]
theorem put_ok {f : Frm} {B : List Nat} (h : put f = (B, 0)) : f.in_ ∧ f.body.length < 16777216 ∧ B = head f ++ f.body := by
  unfold put at h
  by_cases h1 : f.in_
  · rw [if_pos h1] at h
    by_cases h2 : 16777216 ≤ f.body.length
    · rw [if_pos h2] at h
      simp at h
    · rw [if_neg h2] at h
      simp at h
      exact ⟨h1, by omega, h.symm⟩
  · rw [if_neg h1] at h
    simp at h
theorem head_val (f : Frm) (hb : f.body.length < 16777216) (r : List Nat) : val ((head f ++ r).take 3) = f.body.length := by
  have e : (head f ++ r).take 3 = num f.body.length 3 := by
    rw [head, List.append_assoc, List.take_append_of_le_length (by rw [num_len]; omega), List.take_of_length_le (by rw [num_len]; omega)]
  rw [e, val_num _ _ (by simpa using hb)]
/-- A whole frame at the beginning comes out as it was put. -/
theorem next_put {f : Frm} {B : List Nat} (h : put f = (B, 0)) (room : Int) (hr : (f.body.length : Int) ≤ room) (r : List Nat) : next room (B ++ r) = (f, 0, r) := by
  obtain ⟨⟨k1, k2, k3, k4, k5, k6⟩, hb, rfl⟩ := put_ok h
  have hl := head_len f
  have hv : val ((head f ++ f.body ++ r).take 3) = f.body.length := by rw [List.append_assoc]; exact head_val f hb _
  rw [next, if_neg (by simp only [List.length_append]; omega), hv, if_neg (by omega), if_neg (by simp only [List.length_append]; omega)]
  have e5 : ((head f ++ f.body ++ r).drop 5).take 4 = num f.stream.toNat 4 := by
    have : head f = (num f.body.length 3 ++ [f.kind.toNat, f.flags.toNat]) ++ num f.stream.toNat 4 := by rw [head, List.append_assoc]
    rw [this, List.append_assoc, List.append_assoc, List.drop_left' (by simp [num_len]), List.take_left' (by rw [num_len])]
  have e3 : (head f ++ f.body ++ r).getD 3 0 = f.kind.toNat := by simp [head, num]
  have e4 : (head f ++ f.body ++ r).getD 4 0 = f.flags.toNat := by simp [head, num]
  have e9 : ((head f ++ f.body ++ r).drop 9).take f.body.length = f.body := by rw [List.append_assoc, List.drop_left' hl, List.take_left' rfl]
  have e10 : (head f ++ f.body ++ r).drop (9 + f.body.length) = r := List.drop_left' (by rw [List.length_append, hl])
  rw [e5, e3, e4, e9, e10, val_num _ _ (by omega), Nat.mod_eq_of_lt (by omega), Int.toNat_of_nonneg k1, Int.toNat_of_nonneg k3, Int.toNat_of_nonneg k5]
/-- Part of a frame that is within the room: it is not whole. -/
theorem next_part {f : Frm} {B : List Nat} (h : put f = (B, 0)) (room : Int) (hr : (f.body.length : Int) ≤ room) (p : List Nat) (hp : p <+: B) (hlt : p.length < B.length) : next room p = (noFrm, 4, p) := by
  obtain ⟨_, hb, rfl⟩ := put_ok h
  have hl := head_len f
  rw [next]
  by_cases h9 : p.length < 9
  · rw [if_pos h9]
  · have hv : val (p.take 3) = f.body.length := by
      obtain ⟨t, ht⟩ := hp
      have e : p.take 3 = (head f ++ f.body).take 3 := by rw [← ht, List.take_append_of_le_length (by omega)]
      rw [e]
      exact head_val f hb _
    rw [List.length_append] at hlt
    rw [if_neg h9, hv, if_neg (by omega), if_pos (by omega)]
/-- A frame that is above the room: as soon as its nine bytes are there. -/
theorem next_long {f : Frm} {B : List Nat} (h : put f = (B, 0)) (room : Int) (hr : room < (f.body.length : Int)) (p r : List Nat) (hp : p <+: B ++ r) (h9 : 9 ≤ p.length) : next room p = (noFrm, 3, p) := by
  obtain ⟨_, hb, rfl⟩ := put_ok h
  have hv : val (p.take 3) = f.body.length := by
    obtain ⟨t, ht⟩ := hp
    have e : p.take 3 = (head f ++ f.body ++ r).take 3 := by rw [← ht, List.take_append_of_le_length (by omega)]
    rw [e, List.append_assoc]
    exact head_val f hb _
  rw [next, if_neg (by omega), hv, if_pos hr]
/-- Alike. -/
def same (a b : Frm) : Bool := decide (a.kind = b.kind) && decide (a.flags = b.flags) && decide (a.stream = b.stream) && decide (a.body = b.body)
theorem same_self (a : Frm) : same a a = true := by simp [same]
/-- What is put differs where the frames differ. -/
theorem put_inj {f g : Frm} {B : List Nat} (h : put f = (B, 0)) (k : put g = (B, 0)) : f = g := by
  have h1 := next_put h (f.body.length : Int) (Int.le_refl _) []
  have h2 := (put_ok h).2.2
  have h3 := (put_ok k).2.2
  have hl : f.body.length = g.body.length := by
    have := congrArg List.length (h2.symm.trans h3)
    simp only [List.length_append, head_len] at this
    omega
  have h4 := next_put k (f.body.length : Int) (by omega) []
  rw [h1] at h4
  exact congrArg Prod.fst h4
end Fr
/- Chapter 11 over plain values: what a frame says, or what is wrong with it. -/
namespace Fr

/-- What a frame says. -/
structure Prt where
  data : List Nat
  pad : Nat
  code : Nat
  last : Nat
  step : Nat
  sets : List (Int × Int)
  end' : Bool
  ack : Bool
  whole : Bool
def noPrt : Prt := ⟨[], 0, 0, 0, 0, [], false, false, false⟩
/-- What is wrong: is something, with the connection, its code. -/
structure Flt where
  bad : Bool
  conn : Bool
  code : Nat
def noFlt : Flt := ⟨false, false, 0⟩
def wrong (code : Nat) (conn : Bool) : Prt × Flt := (noPrt, ⟨true, conn, code⟩)
/-- A flag. -/
def bit (F : Int) (j : Nat) : Bool := decide (F / 2 ^ j % 2 = 1)
/-- Settings: two and four bytes each. -/
def sixes : List Nat → List (Int × Int)
  | a :: b :: c :: d :: e :: g :: r => ((val [a, b] : Int), (val [c, d, e, g] : Int)) :: sixes r
  | _ => []
/-- Behind the pad's length: the priority's five bytes, the data, the padding. -/
def padIn (f : Frm) (pad long : Nat) (b : List Nat) : Prt × Flt :=
  if pad > b.length then wrong 1 true
  else (⟨b.take (b.length - pad), pad + long, 0, 0, 0, [], bit f.flags 0, false, decide (f.kind = 1) && bit f.flags 2⟩, noFlt)
def prior (f : Frm) (pad long : Nat) (b : List Nat) : Prt × Flt :=
  if f.kind = 1 ∧ bit f.flags 5 = true then (if b.length < 5 then wrong 6 true else padIn f pad long (b.drop 5)) else padIn f pad long b
def padded (f : Frm) : Prt × Flt :=
  if f.stream = 0 then wrong 1 true
  else if bit f.flags 3 = true then (match f.body with
    | [] => wrong 6 true
    | x :: r => prior f x 1 r)
  else prior f 0 0 f.body
/-- A frame taken apart. -/
def read (f : Frm) : Prt × Flt :=
  if f.kind = 0 ∨ f.kind = 1 then padded f
  else if f.kind = 2 then (if f.stream = 0 then wrong 1 true else if f.body.length ≠ 5 then wrong 6 false else (noPrt, noFlt))
  else if f.kind = 3 then (if f.stream = 0 then wrong 1 true else if f.body.length ≠ 4 then wrong 6 true else ({ noPrt with code := val f.body }, noFlt))
  else if f.kind = 4 then (if f.stream ≠ 0 then wrong 1 true else if (bit f.flags 0 = true ∧ 0 < f.body.length) ∨ f.body.length % 6 ≠ 0 then wrong 6 true else ({ noPrt with sets := sixes f.body, ack := bit f.flags 0 }, noFlt))
  else if f.kind = 5 then wrong 1 true
  else if f.kind = 6 then (if f.stream ≠ 0 then wrong 1 true else if f.body.length ≠ 8 then wrong 6 true else ({ noPrt with data := f.body, ack := bit f.flags 0 }, noFlt))
  else if f.kind = 7 then (if f.stream ≠ 0 then wrong 1 true else if f.body.length < 8 then wrong 6 true else ({ noPrt with last := val (f.body.take 4) % 2147483648, code := val ((f.body.drop 4).take 4) }, noFlt))
  else if f.kind = 8 then (if f.body.length ≠ 4 then wrong 6 true else if val f.body % 2147483648 = 0 then wrong 1 (decide (f.stream = 0)) else ({ noPrt with step := val f.body % 2147483648 }, noFlt))
  else if f.kind = 9 then (if f.stream = 0 then wrong 1 true else ({ noPrt with data := f.body, whole := bit f.flags 2 }, noFlt))
  else (noPrt, noFlt)
theorem sixes_len : ∀ (n : Nat) (l : List Nat), l.length = 6 * n → (sixes l).length = n
  | 0, l, h => by
    have : l = [] := List.eq_nil_of_length_eq_zero (by omega)
    subst this
    rfl
  | n + 1, a :: b :: c :: d :: e :: g :: r, h => by
    rw [sixes, List.length_cons, sixes_len n r (by simp only [List.length_cons] at h; omega)]
  | n + 1, [], h => by simp at h
  | n + 1, [_], h => by simp at h; omega
  | n + 1, [_, _], h => by simp at h; omega
  | n + 1, [_, _, _], h => by simp at h; omega
  | n + 1, [_, _, _, _], h => by simp at h; omega
  | n + 1, [_, _, _, _, _], h => by simp at h; omega
theorem sixes_at : ∀ (n : Nat) (l : List Nat), l.length = 6 * n → ∀ i (h : i < (sixes l).length), (sixes l)[i] = ((val ((l.drop (6 * i)).take 2) : Int), (val ((l.drop (6 * i + 2)).take 4) : Int))
  | 0, l, hl, i, h => by
    rw [sixes_len 0 l hl] at h
    omega
  | n + 1, a :: b :: c :: d :: e :: g :: r, hl, i, h => by
    have hr : r.length = 6 * n := by simp only [List.length_cons] at hl; omega
    cases i with
    | zero => rfl
    | succ i =>
      have hi : i < (sixes r).length := by
        rw [sixes, List.length_cons] at h
        omega
      have e1 : 6 * (i + 1) = 6 * i + 6 := by omega
      have e2 : 6 * (i + 1) + 2 = 6 * i + 2 + 6 := by omega
      rw [e2, e1]
      simp only [sixes, List.getElem_cons_succ, List.drop_succ_cons]
      exact sixes_at n r hr i hi
  | n + 1, [], hl, _, _ => by simp at hl
  | n + 1, [_], hl, _, _ => by simp at hl; omega
  | n + 1, [_, _], hl, _, _ => by simp at hl; omega
  | n + 1, [_, _, _], hl, _, _ => by simp at hl; omega
  | n + 1, [_, _, _, _], hl, _, _ => by simp at hl; omega
  | n + 1, [_, _, _, _, _], hl, _, _ => by simp at hl; omega
end Fr
