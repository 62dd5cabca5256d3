/- SHA-256 of a list of bytes: the padded text, block by block, and the 32 bytes. Nothing of the program is named here. -/
import Derived.Test.YthaecckneblecaaDoorSpec
import Derived.Test.YthaecckneblecaaDoorRoots
namespace Go.Proofs.YthaecckneblecaaDoor.Sh

def zer (n : Nat) : Nat := (119 - n % 64) % 64
def lenBytes (n : Nat) : List Nat := [n * 8 / 72057594037927936 % 256, n * 8 / 281474976710656 % 256, n * 8 / 1099511627776 % 256, n * 8 / 4294967296 % 256, n * 8 / 16777216 % 256, n * 8 / 65536 % 256, n * 8 / 256 % 256, n * 8 % 256]
def msg (l : List Nat) : List Nat := l ++ [128] ++ List.replicate (zer l.length) 0 ++ lenBytes l.length
/-- The eight words behind the first so many blocks. -/
def hB (K h m : List Nat) : Nat → List Nat
  | 0 => h
  | t + 1 => blk K (hB K h m t) ((m.drop (64 * t)).take 64)
def bytes4 (x : Nat) : List Nat := [x / 16777216 % 256, x / 65536 % 256, x / 256 % 256, x % 256]
def outB : List Nat → List Nat
  | [] => []
  | x :: r => bytes4 x ++ outB r
/-- SHA-256. -/
def sum (l : List Nat) : List Nat := outB (hB K64 H8 (msg l) ((msg l).length / 64))

theorem hB_succ (K h m : List Nat) (t : Nat) : hB K h m (t + 1) = blk K (hB K h m t) ((m.drop (64 * t)).take 64) := rfl
theorem msg_len (l : List Nat) : (msg l).length % 64 = 0 := by
  unfold msg lenBytes zer
  simp only [List.length_append, List.length_cons, List.length_nil, List.length_replicate]
  omega
theorem msg_len_le (l : List Nat) : (msg l).length ≤ l.length + 72 := by
  unfold msg lenBytes zer
  simp only [List.length_append, List.length_cons, List.length_nil, List.length_replicate]
  omega
theorem hB_len (K h m : List Nat) (hl : h.length = 8) : ∀ t, (hB K h m t).length = 8
  | 0 => hl
  | t + 1 => blk_len _ _ _ (hB_len K h m hl t)
theorem hB_wd (K h m : List Nat) (hh : Wd h) : ∀ t, Wd (hB K h m t)
  | 0 => hh
  | _ + 1 => blk_wd _ _ _
theorem K64_wd : Wd K64 := by
  intro x hx
  unfold K64 at hx
  obtain ⟨y, _, rfl⟩ := List.mem_map.1 hx
  exact Nat.mod_lt _ (by omega)
theorem H8_wd : Wd H8 := by
  intro x hx
  unfold H8 at hx
  obtain ⟨y, _, rfl⟩ := List.mem_map.1 hx
  exact Nat.mod_lt _ (by omega)
theorem outB_snoc (a : List Nat) (x : Nat) : outB (a ++ [x]) = outB a ++ bytes4 x := by
  induction a with
  | nil => simp [outB]
  | cons y r ih => simp [outB, ih]
theorem outB_len (a : List Nat) : (outB a).length = 4 * a.length := by
  induction a with
  | nil => rfl
  | cons y r ih => simp only [outB, List.length_append, ih, bytes4, List.length_cons, List.length_nil]; omega
theorem sum_len (l : List Nat) : (sum l).length = 32 := by
  unfold sum
  rw [outB_len, hB_len _ _ _ H8_len]
theorem outB_byte (a : List Nat) : ∀ x ∈ outB a, x < 256 := by
  induction a with
  | nil => intro x hx; simp [outB] at hx
  | cons y r ih =>
    intro x hx
    rw [outB, List.mem_append] at hx
    rcases hx with h | h
    · simp only [bytes4, List.mem_cons, List.not_mem_nil, or_false] at h
      rcases h with rfl | rfl | rfl | rfl <;> omega
    · exact ih x h
theorem msg_byte (l : List Nat) (hl : ∀ x ∈ l, x < 256) : ∀ x ∈ msg l, x < 256 := by
  intro x hx
  unfold msg at hx
  rw [List.mem_append, List.mem_append, List.mem_append] at hx
  rcases hx with ((h | h) | h) | h
  · exact hl x h
  · simp at h; omega
  · rw [List.eq_of_mem_replicate h]; omega
  · simp only [lenBytes, List.mem_cons, List.not_mem_nil, or_false] at h
    rcases h with rfl | rfl | rfl | rfl | rfl | rfl | rfl | rfl <;> omega
set_option maxRecDepth 100000 in
/-- The example: the sum of nothing begins with e3b0c442. -/
theorem sum_nil : (sum []).take 4 = [227, 176, 196, 66] := by decide +kernel
end Go.Proofs.YthaecckneblecaaDoor.Sh
