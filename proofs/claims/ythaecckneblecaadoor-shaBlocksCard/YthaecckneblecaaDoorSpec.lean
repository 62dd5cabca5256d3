/- SHA-256 over plain numbers: words below 2^32, lists of them. Nothing of the program is named here. -/
namespace Go.Proofs.YthaecckneblecaaDoor.Sh

def rot (x n : Nat) : Nat := (x / 2 ^ n) ||| (x * 2 ^ (32 - n) % 4294967296)
def s0 (x : Nat) : Nat := rot x 7 ^^^ rot x 18 ^^^ (x / 8)
def s1 (x : Nat) : Nat := rot x 17 ^^^ rot x 19 ^^^ (x / 1024)
def t0 (x : Nat) : Nat := rot x 2 ^^^ rot x 13 ^^^ rot x 22
def t1 (x : Nat) : Nat := rot x 6 ^^^ rot x 11 ^^^ rot x 25
def ch (e f g : Nat) : Nat := (e &&& f) ^^^ ((4294967295 - e) &&& g)
def mj (a b c : Nat) : Nat := ((a &&& b) ^^^ (a &&& c)) ^^^ (b &&& c)
def word (m : List Nat) (i : Nat) : Nat := m.getD (4 * i) 0 * 16777216 + m.getD (4 * i + 1) 0 * 65536 + m.getD (4 * i + 2) 0 * 256 + m.getD (4 * i + 3) 0
/-- The first so many words of a block's schedule. -/
def wS (m : List Nat) : Nat → List Nat
  | 0 => []
  | i + 1 => wS m i ++ [if i < 16 then word m i else ((wS m i).getD (i - 16) 0 + s0 ((wS m i).getD (i - 15) 0) + (wS m i).getD (i - 7) 0 + s1 ((wS m i).getD (i - 2) 0)) % 4294967296]
/-- One round. -/
def rd (k w : Nat) (v : List Nat) : List Nat :=
  [((v.getD 7 0 + t1 (v.getD 4 0) + ch (v.getD 4 0) (v.getD 5 0) (v.getD 6 0) + k + w) + (t0 (v.getD 0 0) + mj (v.getD 0 0) (v.getD 1 0) (v.getD 2 0))) % 4294967296,
    v.getD 0 0, v.getD 1 0, v.getD 2 0, (v.getD 3 0 + (v.getD 7 0 + t1 (v.getD 4 0) + ch (v.getD 4 0) (v.getD 5 0) (v.getD 6 0) + k + w)) % 4294967296, v.getD 4 0, v.getD 5 0, v.getD 6 0]
def vS (K W h : List Nat) : Nat → List Nat
  | 0 => h
  | i + 1 => rd (K.getD i 0) (W.getD i 0) (vS K W h i)
theorem vS_succ (K W h : List Nat) (i : Nat) : vS K W h (i + 1) = rd (K.getD i 0) (W.getD i 0) (vS K W h i) := rfl
/-- One block. -/
def blk (K h m : List Nat) : List Nat := List.zipWith (fun a b => (a + b) % 4294967296) h (vS K (wS m 64) h 64)

/-- Each is a word. -/
def Wd (l : List Nat) : Prop := ∀ x ∈ l, x < 4294967296
theorem rot_lt (x n : Nat) (hx : x < 4294967296) : rot x n < 4294967296 := by
  unfold rot
  exact Nat.or_lt_two_pow (n := 32) (Nat.lt_of_le_of_lt (Nat.div_le_self _ _) hx) (Nat.mod_lt _ (by omega))
theorem xor_lt {a b : Nat} (ha : a < 4294967296) (hb : b < 4294967296) : a ^^^ b < 4294967296 := Nat.xor_lt_two_pow (n := 32) ha hb
theorem and_lt {a b : Nat} (hb : b < 4294967296) : a &&& b < 4294967296 := Nat.and_lt_two_pow (n := 32) _ hb
theorem s0_lt {x : Nat} (hx : x < 4294967296) : s0 x < 4294967296 := xor_lt (xor_lt (rot_lt _ _ hx) (rot_lt _ _ hx)) (by omega)
theorem s1_lt {x : Nat} (hx : x < 4294967296) : s1 x < 4294967296 := xor_lt (xor_lt (rot_lt _ _ hx) (rot_lt _ _ hx)) (by omega)
theorem t0_lt {x : Nat} (hx : x < 4294967296) : t0 x < 4294967296 := xor_lt (xor_lt (rot_lt _ _ hx) (rot_lt _ _ hx)) (rot_lt _ _ hx)
theorem t1_lt {x : Nat} (hx : x < 4294967296) : t1 x < 4294967296 := xor_lt (xor_lt (rot_lt _ _ hx) (rot_lt _ _ hx)) (rot_lt _ _ hx)
theorem ch_lt {e f g : Nat} (hf : f < 4294967296) (hg : g < 4294967296) : ch e f g < 4294967296 := xor_lt (and_lt hf) (and_lt hg)
theorem mj_lt {a b c : Nat} (hb : b < 4294967296) (hc : c < 4294967296) : mj a b c < 4294967296 := xor_lt (xor_lt (and_lt hb) (and_lt hc)) (and_lt hc)
theorem getD_lt {l : List Nat} (h : Wd l) (i : Nat) : l.getD i 0 < 4294967296 := by
  rcases Nat.lt_or_ge i l.length with hl | hl
  · rw [List.getD, List.getElem?_eq_getElem hl]
    exact h _ (List.getElem_mem _)
  · rw [List.getD, List.getElem?_eq_none hl]
    simp
theorem wS_len (m : List Nat) : ∀ i, (wS m i).length = i
  | 0 => rfl
  | i + 1 => by rw [wS, List.length_append, wS_len m i]; rfl
theorem wS_wd (m : List Nat) (hm : ∀ x ∈ m, x < 256) : ∀ i, Wd (wS m i)
  | 0 => fun x hx => by simp [wS] at hx
  | i + 1 => by
    intro x hx
    rw [wS, List.mem_append, List.mem_singleton] at hx
    rcases hx with h | h
    · exact wS_wd m hm i x h
    · rw [h]
      split
      · have g : ∀ j, m.getD j 0 < 256 := fun j => by
          rcases Nat.lt_or_ge j m.length with hl | hl
          · rw [List.getD, List.getElem?_eq_getElem hl]
            exact hm _ (List.getElem_mem _)
          · rw [List.getD, List.getElem?_eq_none hl]
            simp
        have a := g (4 * i)
        have b := g (4 * i + 1)
        have c := g (4 * i + 2)
        have d := g (4 * i + 3)
        unfold word
        omega
      · exact Nat.mod_lt _ (by omega)
theorem rd_len (k w : Nat) (v : List Nat) : (rd k w v).length = 8 := rfl
theorem rd_wd {k w : Nat} {v : List Nat} (h : Wd v) : Wd (rd k w v) := by
  intro x hx
  unfold rd at hx
  simp only [List.mem_cons, List.not_mem_nil, or_false] at hx
  rcases hx with rfl | rfl | rfl | rfl | rfl | rfl | rfl | rfl
  · exact Nat.mod_lt _ (by omega)
  · exact getD_lt h _
  · exact getD_lt h _
  · exact getD_lt h _
  · exact Nat.mod_lt _ (by omega)
  · exact getD_lt h _
  · exact getD_lt h _
  · exact getD_lt h _
theorem vS_len (K W h : List Nat) (hl : h.length = 8) : ∀ i, (vS K W h i).length = 8
  | 0 => hl
  | _ + 1 => rfl
theorem vS_wd (K W h : List Nat) (hh : Wd h) : ∀ i, Wd (vS K W h i)
  | 0 => hh
  | i + 1 => rd_wd (vS_wd K W h hh i)
theorem blk_len (K h m : List Nat) (hl : h.length = 8) : (blk K h m).length = 8 := by
  unfold blk
  rw [List.length_zipWith, hl, vS_len _ _ _ hl]
  rfl
theorem blk_wd (K h m : List Nat) : Wd (blk K h m) := by
  intro x hx
  unfold blk at hx
  obtain ⟨i, hi, rfl⟩ := List.getElem_of_mem hx
  rw [List.getElem_zipWith]
  exact Nat.mod_lt _ (by omega)
/-- The eight words, with the first so many of V added. -/
def hS (h V : List Nat) : Nat → List Nat
  | 0 => h
  | i + 1 => (hS h V i).set i (((hS h V i).getD i 0 + V.getD i 0) % 4294967296)
theorem hS_succ (h V : List Nat) (i : Nat) : hS h V (i + 1) = (hS h V i).set i (((hS h V i).getD i 0 + V.getD i 0) % 4294967296) := rfl
theorem hS_len (h V : List Nat) : ∀ i, (hS h V i).length = h.length
  | 0 => rfl
  | i + 1 => by rw [hS_succ, List.length_set, hS_len h V i]
theorem hS_eight (a b : List Nat) (ha : a.length = 8) (hb : b.length = 8) : hS a b 8 = List.zipWith (fun a b => (a + b) % 4294967296) a b := by
  match a, ha, b, hb with
  | [a0, a1, a2, a3, a4, a5, a6, a7], _, [b0, b1, b2, b3, b4, b5, b6, b7], _ => rfl
end Go.Proofs.YthaecckneblecaaDoor.Sh
