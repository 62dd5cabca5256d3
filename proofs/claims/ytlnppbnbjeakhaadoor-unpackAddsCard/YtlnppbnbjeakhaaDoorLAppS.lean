/- Strings as lists of numbers; a string appended onto a row of bytes of the call's own. From stage 8 on. -/
import Derived.Test.YtlnppbnbjeakhaaDoorLMem
import Derived.Test.YtlnppbnbjeakhaaDoorLStr
namespace Go.Proofs.YtlnppbnbjeakhaaDoor
open Go.RowKit

/-- A string's bytes. -/
def nums (s : ByteArray) : List Nat := s.data.toList.map fun b => b.toNat
theorem nums_len (s : ByteArray) : (nums s).length = s.size := by
  rw [nums, List.length_map, Array.length_toList]
  rfl
theorem nums_lt (s : ByteArray) : ∀ x ∈ nums s, x < 256 := by
  intro x hx
  simp only [nums, List.mem_map] at hx
  obtain ⟨b, _, rfl⟩ := hx
  exact b.toNat_lt
theorem str_nums (s : ByteArray) : str (nums s) = s := by
  obtain ⟨d⟩ := s
  have h : ((fun x => UInt8.ofNat x) ∘ fun b : UInt8 => b.toNat) = id := by funext b; simp
  simp [str, nums, h]
theorem cells_nums (s : ByteArray) : Lib.strCells s = cn .u8 (nums s) := by
  simp [Lib.strCells, cn, nums, Function.comp_def]
/-- A string appended onto a row of the call's own. -/
theorem wpList_append_s {w : World} {ops : Array Oper} {rest : List Oper} {o : Oper} {a : Act} {Q : Exit → Act → World → Prop} (hgd : o.guard = none) (s x : Operand)
    (ho : o.op = .call { callee := .builtin .append, args := #[s, x], argTypes := #[24, 9] }) (base : Nat)
    (v : Value) (n : Nat) (l : List Nat) (hs : a.eval s = v) (hown : w.ownsRow base 5 1 v n (cn .u8 l)) (m : ByteArray) (hx : a.eval x = .string m)
    (hlen : n + m.size ≤ 1000000) (hbase : base ≤ w.heap.size)
    (h : ∀ v' w', w'.ownsRow base 5 1 v' (n + m.size) (cn .u8 (l ++ nums m)) → w.grownBy w' v.ownBlock → wpList Tryd.prog ops Q rest (a.put o.dst v') w') : wpList Tryd.prog ops Q (o :: rest) a w := by
  obtain ⟨i0, hi0, hz0, hz1, hz2⟩ := info_parts infoU8
  refine Lib.wpList_append_own_string w hgd s x 24 9 ho base 5 i0 Tryd.underlying24 Tryd.underlying9 hi0 hz0 hz1 hz2 v n (cn .u8 l) hs hown m hx ?_ ?_ hbase ?_
  · unfold maxLen; omega
  · omega
  · intro v' w' h1 h2 _
    rw [cells_nums, cn_app] at h1
    exact h v' w' h1 h2
end Go.Proofs.YtlnppbnbjeakhaaDoor
