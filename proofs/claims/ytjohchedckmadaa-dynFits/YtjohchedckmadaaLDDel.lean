/- slices.Delete over a row of fields of the table's own: the first q go, the rest lies at the row's beginning. -/
import Derived.Test.YtjohchedckmadaaLRowF
import Derived.Test.YtjohchedckmadaaLRdy
import Derived.Deep.RegionLaw
namespace Go.Proofs.Ytjohchedckmadaa
open Go.RowKit

theorem cF_drop : ∀ (l : List Fld) (q : Nat), cF (l.drop q) = (cF l).drop (q * 3)
  | [], q => by simp [cF]
  | f :: r, 0 => rfl
  | f :: r, q + 1 => by
    rw [List.drop_succ_cons, cF_drop r q, cF, show (q + 1) * 3 = q * 3 + 1 + 1 + 1 by omega]
    rfl
/-- An append onto a row of the call's own that has room. -/
theorem step_append_own {P : Program} {ops : Array Oper} {o : Oper} {a : Act} {w : World} {K : Act → World → Prop} {Q : Exit → Act → World → Prop} {E : Prop}
    (hg : o.guard = none) (s x : Operand) (t : TypeId) (hop : o.op = Op.call { callee := Callee.builtin Builtin.append, args := #[s, x], argTypes := #[t, t] })
    (e : TypeId) (i : TypeInfo) (size : Nat) (h1 : P.underlying t = some (.slice e)) (h2 : P.info? e = some i) (h4 : i.size = size)
    (g n cap : Nat) (cur : Array Value) (hs : a.eval s = .slice (some ⟨g, 0, none⟩) n cap) (hh : w.heap[g]? = some (.cells cur e (0, 0)))
    (ad : Addr) (m c : Nat) (news : List Value) (hx : a.eval x = .slice (some ad) m c) (hn : news.length = m * size) (hc : ∀ j u, news[j]? = some u → w.cell? (ad.add j) = some u) (h1c : ∀ u ∈ news, u.oneCell' = true)
    (hroom : n + m ≤ cap) (hfit : n * size + news.length ≤ cur.size)
    (hK : K (a.put o.dst (.slice (some ⟨g, 0, none⟩) (n + m) cap)) (w.setRow g (cur.toList.take (n * size) ++ news ++ cur.toList.drop (n * size + news.length)).toArray)) :
    if Region.wanted o (yielded ops a.tmps) = true then Oper.wp P o a w K Q else E := by
  have hw : Region.wanted o (yielded ops a.tmps) = true := by simp [Region.wanted, hg]
  rw [if_pos hw]
  subst h4
  have hrun := run_append_room (P := P) w t o.type e i h1 h2 g n cap cur hh ad m c news hn hc h1c hroom hfit
  generalize (cur.toList.take (n * i.size) ++ news ++ cur.toList.drop (n * i.size + news.length)).toArray = R at hrun hK
  unfold Oper.wp
  simp [execOp, hop, resolve, invoke, builtin, hs, hx, hrun, Result.andThen]
  exact hK
def zF (n : Nat) : List Value := (Builtin.zeroCells (Value.agg #[.string ⟨#[]⟩, .string ⟨#[]⟩, .bool false]).cells n).toList
theorem zF_len (n : Nat) : (zF n).length = n * 3 := by
  have := size_zeroCells (Value.agg #[.string ⟨#[]⟩, .string ⟨#[]⟩, .bool false]).cells n
  simp only [zF, Array.length_toList]
  rw [this]
  rfl
theorem zF_one (n : Nat) : ∀ u ∈ zF n, u.oneCell' = true := by
  intro u hu
  simp only [zF, Builtin.zeroCells, Value.cells, Array.toList_map, List.mem_map] at hu
  obtain ⟨i, _, rfl⟩ := hu
  have h3 : i % 3 < 3 := Nat.mod_lt _ (by omega)
  show (#[Value.string ⟨#[]⟩, .string ⟨#[]⟩, .bool false][i % 3]!).oneCell' = true
  rcases (show i % 3 = 0 ∨ i % 3 = 1 ∨ i % 3 = 2 by omega) with r | r | r <;> rw [r] <;> rfl
/-- clear over a part of a row of the call's own. -/
theorem run_clear_F (w : World) (ty : TypeId) (g o n c : Nat) (cur : Array Value) (hh : w.heap[g]? = some (.cells cur 33 (0, 0))) (hn : 0 < n) (hfit : o + n * 3 ≤ cur.size) :
    (Builtin.clear_ #[43] ty #[.slice (some ⟨g, o, none⟩) n c]).run Try.prog w = .ok (.tuple #[]) (w.setRow g (cur.toList.take o ++ zF n ++ cur.toList.drop (o + (zF n).length)).toArray) := by
  have hst := run_storeCells_at Try.prog g o 33 (zF n) 0 cur w hh (by rw [zF_len]; omega) (zF_one n)
  simp only [Nat.add_zero] at hst
  obtain ⟨m, rfl⟩ : ∃ m, n = m + 1 := ⟨n - 1, by omega⟩
  unfold zF at hst
  simp [Builtin.clear_, run_underlying Try.underlying43, hst, zF]
/-- What Delete leaves. -/
def DelPost (B : Nat) (v : Value) (n : Nat) (l : List Fld) (w : World) (e : Ending) (w' : World) : Prop :=
  ∃ v', e = .returned v' ∧ w'.ownsRow B 33 3 v' n (cF l) ∧ v'.ownBlock = v.ownBlock ∧ w.grownBy w' v.ownBlock
set_option maxRecDepth 100000 in
set_option maxHeartbeats 4000000 in
theorem del_none (B : Nat) (v : Value) (n : Nat) (l : List Fld) (w : World) (hown : w.ownsRow B 33 3 v n (cF l)) : Calls Try.prog 30 #[v, .int .i64 0, .int .i64 0] w (DelPost B v n l w) := by
  obtain ⟨A, c, hv, hnc, hA⟩ := rowF_shape hown
  subst hv
  have HO := Lib.hid hown
  clear hown
  go_enter Try.func30, Try.ntmps30
  go_wp2
  all_goals
    go_ret
    exact ⟨_, rfl, HO.out, rfl, World.grownBy.refl _ _⟩
set_option maxRecDepth 100000 in
set_option maxHeartbeats 4000000 in
theorem del_some (B g n cap q r : Nat) (l : List Fld) (cur : Array Value) (w : World) (hB : B ≤ g) (hh : w.heap[g]? = some (.cells cur 33 (0, 0))) (hnc : n ≤ cap) (hcm : cap ≤ maxLen) (hcs : cur.size = cap * 3) (htk : cur.toList.take (n * 3) = cF l) (hl : l.length = n) (hq0 : 0 < q) (hqr : q + r = n) :
    Calls Try.prog 30 #[.slice (some ⟨g, 0, none⟩) n cap, .int .i64 0, .int .i64 (q : Int)] w (DelPost B (.slice (some ⟨g, 0, none⟩) n cap) r (l.drop q) w) := by
  obtain ⟨i0, hi0, hz0, hz1, hz2⟩ := info_parts infoFd
  have hcm' : cap ≤ 9223372036854775807 := by unfold maxLen at hcm; omega
  obtain ⟨news, hnews⟩ : ∃ news, news = cF (l.drop q) := ⟨_, rfl⟩
  have hlen : news.length = r * 3 := by rw [hnews, cF_len, List.length_drop]; omega
  have hone : ∀ u ∈ news, u.oneCell' = true := by rw [hnews]; exact cF_one _
  have hget : ∀ t u, news[t]? = some u → w.cell? ⟨g, q * 3 + t, none⟩ = some u := by
    intro t u hu
    rw [cell_of_row w g _ cur 33 _ hh]
    rw [hnews, cF_drop, List.getElem?_drop, ← htk, List.getElem?_take] at hu
    split at hu
    · simpa using hu
    · cases hu
  obtain ⟨A, hA, hsrc⟩ : ∃ A : Addr, (if cap = q then some (⟨g, 0, none⟩ : Addr) else some ⟨g, q * 3, none⟩) = some A ∧ Hid (∀ t u, news[t]? = some u → w.drew.cell? (A.add t) = some u) := by
    by_cases h : cap = q
    · refine ⟨⟨g, 0, none⟩, by simp [h], fun t u hu => ?_⟩
      have h0 : news.length = 0 := by omega
      rw [List.length_eq_zero_iff.1 h0] at hu
      simp at hu
    · refine ⟨⟨g, q * 3, none⟩, by simp [h], fun t u hu => ?_⟩
      rw [Addr.add_lit]
      exact hget t u hu
  obtain ⟨W1, hW1⟩ : ∃ W1, W1 = w.drew.setRow g (cur.toList.take (0 * 3) ++ news ++ cur.toList.drop (0 * 3 + news.length)).toArray := ⟨_, rfl⟩
  obtain ⟨R1, hR1⟩ : ∃ R1, R1 = (cur.toList.take (0 * 3) ++ news ++ cur.toList.drop (0 * 3 + news.length)).toArray := ⟨_, rfl⟩
  have hh1 : W1.heap[g]? = some (.cells R1 33 (0, 0)) := by rw [hW1, hR1]; exact setRow_heap w.drew g cur _ 33 _ hh
  have hs1 : R1.size = cap * 3 := by rw [hR1]; simp; omega
  have hr0 : r < cap := by omega
  have hsp : ∀ ty, (Builtin.clear_ #[43] ty #[.slice (some ⟨g, r * 3, none⟩) (n - r) (cap - r)]).run Try.prog W1 = .ok (.tuple #[]) (W1.setRow g (R1.toList.take (r * 3) ++ zF (n - r) ++ R1.toList.drop (r * 3 + (zF (n - r)).length)).toArray) :=
    fun ty => run_clear_F W1 ty g (r * 3) (n - r) (cap - r) R1 hh1 (by omega) (by omega)
  obtain ⟨R2, hR2⟩ : ∃ R2, R2 = (R1.toList.take (r * 3) ++ zF (n - r) ++ R1.toList.drop (r * 3 + (zF (n - r)).length)).toArray := ⟨_, rfl⟩
  rw [← hR2] at hsp
  have hFIN : (W1.setRow g R2).ownsRow B 33 3 (.slice (some ⟨g, 0, none⟩) r cap) r (cF (l.drop q)) ∧ w.grownBy (W1.setRow g R2) (some g) := by
    refine ⟨⟨by rw [← hnews]; exact hlen, .inr ⟨g, cap, R2, rfl, hB, setRow_heap W1 g R1 _ 33 _ hh1, by omega, hcm, ?_, ?_⟩⟩, ?_⟩
    · rw [hR2]
      simp [zF_len]
      omega
    · rw [hR2, ← hnews]
      have e1 : R1.toList.take (r * 3) = news := by
        rw [hR1]
        simp only [Nat.zero_mul, List.take_zero, List.nil_append, Nat.zero_add]
        rw [List.take_append_of_le_length (by omega), List.take_of_length_le (by omega)]
      rw [e1]
      simp only [List.append_assoc]
      rw [List.take_append_of_le_length (by omega), List.take_of_length_le (by omega)]
    · rw [hW1]
      refine ⟨rfl, rfl, rfl, by simp, fun k hk hne => ?_⟩
      rw [setRow_other _ _ _ _ (fun e => hne (by rw [e])), setRow_other _ _ _ _ (fun e => hne (by rw [e]))]
      rfl
  have HF := Lib.hid hFIN
  have HW : Hid (w.drew.setRow g (cur.toList.take (0 * 3) ++ news ++ cur.toList.drop (0 * 3 + news.length)).toArray = W1) := Lib.hid hW1.symm
  have HL := Lib.hid hlen
  have HO := Lib.hid hone
  have HH : Hid (w.drew.heap[g]? = some (.cells cur 33 (0, 0))) := Lib.hid hh
  have HC : Hid (0 * 3 + news.length ≤ cur.size) := Lib.hid (by omega)
  have e1 : n - q = r := by omega
  have hqn : q ≤ n := by omega
  have hqc : q ≤ cap := by omega
  have hq1 : ¬ (0 : Int) = (q : Int) := by omega
  clear hFIN hW1 hR1 hR2 hh1 hs1 hget hnews hlen hone hh htk hcs hl hcm hqr
  go_enter Try.func30, Try.ntmps30
  go_wp2_with fail
  go_region_law (refine step_append_own rfl (.tmp 22) (.tmp 25) 43 rfl 33 i0 3 Try.underlying43 hi0 hz1 g 0 cap cur (by simp [Act.eval, Act.put]) HH.out A r (cap - q) news (by simp [Act.eval, Act.put, *]) HL.out hsrc.out HO.out (by omega) HC.out ?_; rw [HW.out])
  go_wp2
  go_ret
  exact ⟨_, rfl, HF.out.1, rfl, HF.out.2⟩
theorem del_any (B : Nat) (v : Value) (n q : Nat) (l : List Fld) (w : World) (hown : w.ownsRow B 33 3 v n (cF l)) (hq : q ≤ n) : Calls Try.prog 30 #[v, .int .i64 0, .int .i64 (q : Int)] w (DelPost B v (n - q) (l.drop q) w) := by
  have hl : l.length = n := by have := hown.1; rw [cF_len] at this; omega
  rcases Nat.eq_zero_or_pos q with h0 | h0
  · subst h0
    exact del_none B v n l w hown
  · rcases hown.2 with ⟨_, hn⟩ | ⟨g, cap, cur, rfl, hB, hh, hnc, hcm, hcs, htk⟩
    · omega
    · exact del_some B g n cap q (n - q) l cur w hB hh hnc hcm hcs htk hl h0 (by omega)
end Go.Proofs.Ytjohchedckmadaa
