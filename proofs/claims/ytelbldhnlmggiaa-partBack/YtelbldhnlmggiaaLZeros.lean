/- Zeros appended onto a row of bytes of the call's own ('append(s, make([]byte, k)...)'). From stage 11 on. -/
import Derived.Test.YtelbldhnlmggiaaLMem
import Derived.Lib.AppendZerosOnto
namespace Go.Proofs.Ytelbldhnlmggiaa
open Go.RowKit

theorem zeros_cn (k : Nat) : (Builtin.zeroCells (Value.int .u8 0).cells k).toList = cn .u8 (List.replicate k 0) := by
  apply List.ext_getElem
  · simp [Builtin.zeroCells, cn, Value.cells]
  · intro i h1 h2
    simp [Builtin.zeroCells, cn, Value.cells, Nat.mod_one]
theorem run_append_zeros (w : World) (ty : TypeId) (base g n cap k : Nat) (l : List Nat) (hown : w.ownsRow base 5 1 (.slice (some ⟨g, 0, none⟩) n cap) n (cn .u8 l)) (hn : n ≤ 100000) (hk : k ≤ 100000) (hbase : base ≤ w.heap.size) :
    ∃ v' w', (Builtin.append_ #[25, 3] ty #[.slice (some ⟨g, 0, none⟩) n cap, .int .i64 (k : Int)]).run Try.prog w = .ok v' w' ∧ w'.ownsRow base 5 1 v' (n + k) (cn .u8 (l ++ List.replicate k 0)) ∧ w.grownBy w' (some g) := by
  obtain ⟨i0, hi0, hz0, hz1, hz2⟩ := info_parts infoU8
  have hln : l.length = n := by have := hown.1; simpa [cn] using this
  have hlen : (cn .u8 (l ++ List.replicate k 0)).length = (n + k) * 1 := by simp [cn, hln]
  rcases hown.2 with ⟨hv, _⟩ | ⟨g', cap', cur, hv, hbg, hg, hnc, hcm, hcs, htake⟩
  · cases hv
  · injection hv with hv1 _ hv3
    injection hv1 with hv1
    injection hv1 with hv1 _ _
    subst hv1 hv3
    by_cases hroom : n + k ≤ cap
    · have hst := run_storeCells_at Try.prog g n 5 (cn .u8 (List.replicate k 0)) 0 cur w hg (by simp [cn]; omega) (cn_one _ _)
      simp only [Nat.add_zero] at hst
      have hw : IntKind.i64.wrap (k : Int) = k := by rw [IntKind.wrap_i64]; omega
      have hneg : ¬ ((k : Int) < 0) := by omega
      refine ⟨.slice (some ⟨g, 0, none⟩) (n + k) cap, w.setRow g (cur.toList.take n ++ cn .u8 (List.replicate k 0) ++ cur.toList.drop (n + (cn .u8 (List.replicate k 0)).length)).toArray, ?_, ⟨hlen, .inr ⟨g, cap, _, rfl, hbg, setRow_heap w g cur _ 5 _ hg, hroom, hcm, ?_, ?_⟩⟩, ⟨rfl, rfl, rfl, by simp, fun j _ hj => setRow_other w g j _ (fun e => hj (by rw [e]))⟩⟩
      · by_cases h0 : k = 0
        · subst h0
          have hst0 := hst
          simp [cn] at hst0
          simp [Builtin.append_, run_underlying Try.underlying25, run_underlying Try.underlying3, sizeOf, typeInfo, hi0, hz1, asInt, asIntOf, hnc, Addr.add_lit, hst0, cn, IntKind.wrap_i64]
        · have hz := zeros_cn k
          simp [Builtin.append_, run_underlying Try.underlying25, run_underlying Try.underlying3, sizeOf, typeInfo, zeroValue, hi0, hz0, hz1, hz2, asInt, asIntOf, hw, hneg, h0, hroom, Addr.add_lit, hz, hst]
          try omega
      · simp only [List.size_toArray, List.length_append, List.length_take, List.length_drop, Array.length_toList, cn_len, List.length_replicate]
        omega
      · have e1 : cur.toList.take n = cn .u8 l := by simpa using htake
        rw [e1, Nat.mul_one, cn_app]
        have e2 : (cn .u8 (l ++ List.replicate k 0)).length = n + k := by simp [cn, hln]
        rw [← e2]
        exact List.take_left
    · have h0 : 0 < k := by omega
      have hcells : ∀ j u, (cn .u8 l)[j]? = some u → w.drew.cell? ((⟨g, 0, none⟩ : Addr).add j) = some u := hown.cells (g := g) rfl
      have hold := run_firstCells_some (P := Try.prog) w.drew i0.size n ⟨g, 0, none⟩ n cap (cn .u8 l) (by rw [hz1]; simp [cn, hln]) hcells
      have hr := Lib.run_append_grow_zeros (P := Try.prog) w 25 3 ty 5 i0 _ .i64 .i64 Try.underlying25 Try.underlying3 hi0 hz0 (some ⟨g, 0, none⟩) n cap (cn .u8 l) hold k h0 (by omega) (by omega) (by omega) (by rw [hz2]; omega) (growslice_fits (by omega) (by rw [hz2]; omega))
      have hge := grownCap_ge w (n + k) cap 5
      have hcm2 : grownCap w (n + k) cap 5 ≤ maxLen := grownCap_le_maxLen w (n + k) cap 5 (by unfold maxLen; omega)
      refine ⟨_, _, hr, ⟨hlen, .inr ⟨w.heap.size, _, _, rfl, hbase, heap_alloc_new w.drew _, hge, hcm2, ?_, ?_⟩⟩, ⟨rfl, rfl, rfl, by simp, fun j hj _ => heap_alloc_old w.drew _ hj⟩⟩
      · have e1 : (Value.int .u8 0).cells.size = 1 := rfl
        simp only [Array.size_append, List.size_toArray, size_zeroCells, e1, cn_len, hln]
        omega
      · simp only [Array.toList_append, zeros_cn, List.append_assoc]
        rw [← List.append_assoc, cn_app]
        have e2 : (cn .u8 (l ++ List.replicate k 0)).length = (n + k) * 1 := hlen
        rw [← e2]
        exact List.take_left
end Go.Proofs.Ytelbldhnlmggiaa
