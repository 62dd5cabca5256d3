/- slices.Delete over a row of fields of the table's own: the first q go, the rest lies at the row's beginning. -/
import Derived.Test.YtiandidencnlcaaDoorLRowF
import Derived.Test.YtiandidencnlcaaDoorPGetD
import Derived.Deep.RegionLaw
import Derived.Test.YtiandidencnlcaaDoorLDFind
namespace Go.Proofs.YtiandidencnlcaaDoor
open Go.RowKit

theorem cF_drop : ∀ (l : List Fld) (q : Nat), cF (l.drop q) = (cF l).drop (q * 3)
  | [], q => by simp [cF]
  | f :: r, 0 => rfl
  | f :: r, q + 1 => by
    rw [List.drop_succ_cons, cF_drop r q, cF, show (q + 1) * 3 = q * 3 + 1 + 1 + 1 by omega]
    rfl
/-- An append onto a row of the call's own that has room. -/
theorem step_append_own {P : Program} {ops : Array Oper} {o : Oper} {a : Act} {w : World} {K : Act → World → Prop} {Q : Exit → Act → World → Prop} {E : Prop}
    (hg : o.guard = none) (s x : Operand) (t : TypeId) (hop : o.op = Op.call { callee := Callee.builtin Builtin.append, args := #[s, x], argTypes := #[t, t] })
    (e : TypeId) (i : TypeInfo) (size : Nat) (h1 : P.underlying t = some (.slice e)) (h2 : P.info? e = some i) (h4 : i.size = size)
    (g n cap : Nat) (cur : Array Value) (hs : a.eval s = .slice (some ⟨g, 0, none⟩) n cap) (hh : w.heap[g]? = some (.cells cur e (0, 0)))
    (ad : Addr) (m c : Nat) (news : List Value) (hx : a.eval x = .slice (some ad) m c) (hn : news.length = m * size) (hc : ∀ j u, news[j]? = some u → w.cell? (ad.add j) = some u) (h1c : ∀ u ∈ news, u.oneCell' = true)
    (hroom : n + m ≤ cap) (hfit : n * size + news.length ≤ cur.size)
    (hK : K (a.put o.dst (.slice (some ⟨g, 0, none⟩) (n + m) cap)) (w.setRow g (cur.toList.take (n * size) ++ news ++ cur.toList.drop (n * size + news.length)).toArray)) :
    if Region.wanted o (yielded ops a.tmps) = true then Oper.wp P o a w K Q else E := by
  have hw : Region.wanted o (yielded ops a.tmps) = true := by simp [Region.wanted, hg]
  rw [if_pos hw]
  subst h4
  have hrun := run_append_room (P := P) w t o.type e i h1 h2 g n cap cur hh ad m c news hn hc h1c hroom hfit
  generalize (cur.toList.take (n * i.size) ++ news ++ cur.toList.drop (n * i.size + news.length)).toArray = R at hrun hK
  unfold Oper.wp
  simp [execOp, hop, resolve, invoke, builtin, hs, hx, hrun, Result.andThen]
  exact hK
def zF (n : Nat) : List Value := (Builtin.zeroCells (Value.agg #[.string ⟨#[]⟩, .string ⟨#[]⟩, .bool false]).cells n).toList
theorem zF_len (n : Nat) : (zF n).length = n * 3 := by
  have := size_zeroCells (Value.agg #[.string ⟨#[]⟩, .string ⟨#[]⟩, .bool false]).cells n
  simp only [zF, Array.length_toList]
  rw [this]
  rfl
theorem zF_one (n : Nat) : ∀ u ∈ zF n, u.oneCell' = true := by
  intro u hu
  simp only [zF, Builtin.zeroCells, Value.cells, Array.toList_map, List.mem_map] at hu
  obtain ⟨i, _, rfl⟩ := hu
  have h3 : i % 3 < 3 := Nat.mod_lt _ (by omega)
  show (#[Value.string ⟨#[]⟩, .string ⟨#[]⟩, .bool false][i % 3]!).oneCell' = true
  rcases (show i % 3 = 0 ∨ i % 3 = 1 ∨ i % 3 = 2 by omega) with r | r | r <;> rw [r] <;> rfl
/-- clear over a part of a row of the call's own. -/
theorem run_clear_F (w : World) (ty : TypeId) (g o n c : Nat) (cur : Array Value) (hh : w.heap[g]? = some (.cells cur 52 (0, 0))) (hn : 0 < n) (hfit : o + n * 3 ≤ cur.size) :
    (Builtin.clear_ #[30] ty #[.slice (some ⟨g, o, none⟩) n c]).run Tryd.prog w = .ok (.tuple #[]) (w.setRow g (cur.toList.take o ++ zF n ++ cur.toList.drop (o + (zF n).length)).toArray) := by
  have hst := run_storeCells_at Tryd.prog g o 52 (zF n) 0 cur w hh (by rw [zF_len]; omega) (zF_one n)
  simp only [Nat.add_zero] at hst
  obtain ⟨m, rfl⟩ : ∃ m, n = m + 1 := ⟨n - 1, by omega⟩
  unfold zF at hst
  simp [Builtin.clear_, run_underlying Tryd.underlying30, hst, zF]
/-- What Delete leaves. -/
def DelPost (B : Nat) (v : Value) (n : Nat) (l : List Fld) (w : World) (e : Ending) (w' : World) : Prop :=
  ∃ v', e = .returned v' ∧ w'.ownsRow B 52 3 v' n (cF l) ∧ v'.ownBlock = v.ownBlock ∧ w.grownBy w' v.ownBlock
set_option maxRecDepth 100000 in
set_option maxHeartbeats 4000000 in
theorem del_none (B : Nat) (v : Value) (n : Nat) (l : List Fld) (w : World) (hown : w.ownsRow B 52 3 v n (cF l)) : Calls Tryd.prog 62 #[v, .int .i64 0, .int .i64 0] w (DelPost B v n l w) := by
  obtain ⟨A, c, hv, hnc, hA⟩ := rowF_shape hown
  subst hv
  have HO := Lib.hid hown
  clear hown
  go_enter Tryd.func62, Tryd.ntmps62
  go_wp2
  all_goals
    go_ret
    exact ⟨_, rfl, HO.out, rfl, World.grownBy.refl _ _⟩
set_option maxRecDepth 100000 in
set_option maxHeartbeats 4000000 in
theorem del_some (B g n cap q r : Nat) (l : List Fld) (cur : Array Value) (w : World) (hB : B ≤ g) (hh : w.heap[g]? = some (.cells cur 52 (0, 0))) (hnc : n ≤ cap) (hcm : cap ≤ maxLen) (hcs : cur.size = cap * 3) (htk : cur.toList.take (n * 3) = cF l) (hl : l.length = n) (hq0 : 0 < q) (hqr : q + r = n) :
    Calls Tryd.prog 62 #[.slice (some ⟨g, 0, none⟩) n cap, .int .i64 0, .int .i64 (q : Int)] w (DelPost B (.slice (some ⟨g, 0, none⟩) n cap) r (l.drop q) w) := by
  obtain ⟨i0, hi0, hz0, hz1, hz2⟩ := info_parts infoFd
  have hcm' : cap ≤ 9223372036854775807 := by unfold maxLen at hcm; omega
  obtain ⟨news, hnews⟩ : ∃ news, news = cF (l.drop q) := ⟨_, rfl⟩
  have hlen : news.length = r * 3 := by rw [hnews, cF_len, List.length_drop]; omega
  have hone : ∀ u ∈ news, u.oneCell' = true := by rw [hnews]; exact cF_one _
  have hget : ∀ t u, news[t]? = some u → w.cell? ⟨g, q * 3 + t, none⟩ = some u := by
    intro t u hu
    rw [cell_of_row w g _ cur 52 _ hh]
    rw [hnews, cF_drop, List.getElem?_drop, ← htk, List.getElem?_take] at hu
    split at hu
    · simpa using hu
    · cases hu
  obtain ⟨A, hA, hsrc⟩ : ∃ A : Addr, (if cap = q then some (⟨g, 0, none⟩ : Addr) else some ⟨g, q * 3, none⟩) = some A ∧ Hid (∀ t u, news[t]? = some u → w.drew.cell? (A.add t) = some u) := by
    by_cases h : cap = q
    · refine ⟨⟨g, 0, none⟩, by simp [h], fun t u hu => ?_⟩
      have h0 : news.length = 0 := by omega
      rw [List.length_eq_zero_iff.1 h0] at hu
      simp at hu
    · refine ⟨⟨g, q * 3, none⟩, by simp [h], fun t u hu => ?_⟩
      rw [Addr.add_lit]
      exact hget t u hu
  obtain ⟨W1, hW1⟩ : ∃ W1, W1 = w.drew.setRow g (cur.toList.take (0 * 3) ++ news ++ cur.toList.drop (0 * 3 + news.length)).toArray := ⟨_, rfl⟩
  obtain ⟨R1, hR1⟩ : ∃ R1, R1 = (cur.toList.take (0 * 3) ++ news ++ cur.toList.drop (0 * 3 + news.length)).toArray := ⟨_, rfl⟩
  have hh1 : W1.heap[g]? = some (.cells R1 52 (0, 0)) := by rw [hW1, hR1]; exact setRow_heap w.drew g cur _ 52 _ hh
  have hs1 : R1.size = cap * 3 := by rw [hR1]; simp; omega
  have hr0 : r < cap := by omega
  have hsp : ∀ ty, (Builtin.clear_ #[30] ty #[.slice (some ⟨g, r * 3, none⟩) (n - r) (cap - r)]).run Tryd.prog W1 = .ok (.tuple #[]) (W1.setRow g (R1.toList.take (r * 3) ++ zF (n - r) ++ R1.toList.drop (r * 3 + (zF (n - r)).length)).toArray) :=
    fun ty => run_clear_F W1 ty g (r * 3) (n - r) (cap - r) R1 hh1 (by omega) (by omega)
  obtain ⟨R2, hR2⟩ : ∃ R2, R2 = (R1.toList.take (r * 3) ++ zF (n - r) ++ R1.toList.drop (r * 3 + (zF (n - r)).length)).toArray := ⟨_, rfl⟩
  rw [← hR2] at hsp
  have hFIN : (W1.setRow g R2).ownsRow B 52 3 (.slice (some ⟨g, 0, none⟩) r cap) r (cF (l.drop q)) ∧ w.grownBy (W1.setRow g R2) (some g) := by
    refine ⟨⟨by rw [← hnews]; exact hlen, .inr ⟨g, cap, R2, rfl, hB, setRow_heap W1 g R1 _ 52 _ hh1, by omega, hcm, ?_, ?_⟩⟩, ?_⟩
    · rw [hR2]
      simp [zF_len]
      omega
    · rw [hR2, ← hnews]
      have e1 : R1.toList.take (r * 3) = news := by
        rw [hR1]
        simp only [Nat.zero_mul, List.take_zero, List.nil_append, Nat.zero_add]
        rw [List.take_append_of_le_length (by omega), List.take_of_length_le (by omega)]
      rw [e1]
      simp only [List.append_assoc]
      rw [List.take_append_of_le_length (by omega), List.take_of_length_le (by omega)]
    · rw [hW1]
      refine ⟨rfl, rfl, rfl, by simp, fun k hk hne => ?_⟩
      rw [setRow_other _ _ _ _ (fun e => hne (by rw [e])), setRow_other _ _ _ _ (fun e => hne (by rw [e]))]
      rfl
  have HF := Lib.hid hFIN
  have HW : Hid (w.drew.setRow g (cur.toList.take (0 * 3) ++ news ++ cur.toList.drop (0 * 3 + news.length)).toArray = W1) := Lib.hid hW1.symm
  have HL := Lib.hid hlen
  have HO := Lib.hid hone
  have HH : Hid (w.drew.heap[g]? = some (.cells cur 52 (0, 0))) := Lib.hid hh
  have HC : Hid (0 * 3 + news.length ≤ cur.size) := Lib.hid (by omega)
  have e1 : n - q = r := by omega
  have hqn : q ≤ n := by omega
  have hqc : q ≤ cap := by omega
  have hq1 : ¬ (0 : Int) = (q : Int) := by omega
  clear hFIN hW1 hR1 hR2 hh1 hs1 hget hnews hlen hone hh htk hcs hl hcm hqr
  go_enter Tryd.func62, Tryd.ntmps62
  go_wp2_with fail
  go_region_law (refine step_append_own rfl (.tmp 22) (.tmp 25) 30 rfl 52 i0 3 Tryd.underlying30 hi0 hz1 g 0 cap cur (by simp [Act.eval, Act.put]) HH.out A r (cap - q) news (by simp [Act.eval, Act.put, *]) HL.out hsrc.out HO.out (by omega) HC.out ?_; rw [HW.out])
  go_wp2
  go_ret
  exact ⟨_, rfl, HF.out.1, rfl, HF.out.2⟩
theorem del_any (B : Nat) (v : Value) (n q : Nat) (l : List Fld) (w : World) (hown : w.ownsRow B 52 3 v n (cF l)) (hq : q ≤ n) : Calls Tryd.prog 62 #[v, .int .i64 0, .int .i64 (q : Int)] w (DelPost B v (n - q) (l.drop q) w) := by
  have hl : l.length = n := by have := hown.1; rw [cF_len] at this; omega
  rcases Nat.eq_zero_or_pos q with h0 | h0
  · subst h0
    exact del_none B v n l w hown
  · rcases hown.2 with ⟨_, hn⟩ | ⟨g, cap, cur, rfl, hB, hh, hnc, hcm, hcs, htk⟩
    · omega
    · exact del_some B g n cap q (n - q) l cur w hB hh hnc hcm hcs htk hl h0 (by omega)
end Go.Proofs.YtiandidencnlcaaDoor
/- The landed table: shrink. -/
namespace Go.Proofs.YtiandidencnlcaaDoor
open Go.RowKit
/-- As many from the beginning on as there is room for: none, where the room is below 0. -/
def fitI (room : Int) (l : List Fld) : List Fld := if room < 0 then [] else fitL room.toNat l
theorem fitI_nil (room : Int) : fitI room [] = [] := by unfold fitI; split <;> rfl
theorem fitI_all (room : Int) (l : List Fld) (h : (tot l : Int) ≤ room) : fitI room l = l := by
  rw [fitI, if_neg (by omega), fit_all _ _ (by omega)]
theorem fitI_less (room : Int) (l : List Fld) (h : room < (tot l : Int)) : fitI room l = fitI room l.dropLast := by
  unfold fitI
  split
  · rfl
  · rw [fit_less _ _ (by omega)]
theorem fitI_tot (room : Int) (l : List Fld) : tot (fitI room l) ≤ tot l := by
  unfold fitI
  split
  · simp [tot]
  · obtain ⟨k, hk⟩ := fit_pre room.toNat l
    rw [hk]
    exact tot_le l k
theorem Keeps.of_grown {w w' : World} {v : Value} (h : w.grownBy w' v.ownBlock) : Keeps (fun x => v.ownBlock = some x) w w' :=
  ⟨h.os, h.tape, h.output, h.size, fun k hk hn => h.block k hk (fun e => hn e.symm)⟩
/-- Behind j that go: what is left counts s. -/
def ShR (w : World) (room : Int) (l : List Fld) (s g : Value) (wr : World) : Prop :=
  ∃ j i : Nat, j + i = l.length ∧ g = .int .i64 (j : Int) ∧ s = .int .i64 ((tot (l.take i) : Nat) : Int) ∧ fitI room (l.take i) = fitI room l ∧ Below w.heap.size w wr
theorem rev_drop (l : List Fld) (j i : Nat) (h : j + i = l.length) : l.reverse.drop j = (l.take i).reverse := by
  rw [List.drop_reverse]
  congr 2
  omega
theorem rev_at2 (l : List Fld) (j i : Nat) (h : j + (i + 1) = l.length) (hj : j < l.reverse.length) (hi : i < l.length) : l.reverse[j] = l[i] := by
  rw [List.getElem_reverse]
  congr 1
  omega
set_option maxRecDepth 100000 in
set_option maxHeartbeats 8000000 in
theorem dshrink_any (w : World) (S : Nat → Prop) (p m : Nat) (l : List Fld) (room : Int) (h : DT0 w S p m l) :
    Calls Tryd.prog 47 #[.pointer (some ⟨p, 0, none⟩), .int .i64 room] w fun e w' => e = .returned (.tuple #[]) ∧ DPost0 S w p m (fitI room l) w' := by
  have HSZ := Lib.hid (dsize0 w S p m l h)
  obtain ⟨v, hh, ho, hvp, hS, ht, hm⟩ := h
  have hpl := lt_of_heap hh
  obtain ⟨n, hn⟩ : ∃ n, n = l.length := ⟨_, rfl⟩
  rw [← hn] at ho
  obtain ⟨A, c, rfl, hnc, hA⟩ := rowF_shape ho
  have hat := AtF.of_own ho
  have hnn : n ≤ 128 := by have := tot_pos l; omega
  have HC : Hid (w.cell? ⟨p, 0, none⟩ = some (.slice A n c)) := Lib.hid (cell_of_row _ p 0 _ 77 _ hh)
  have HFZ : Hid (w.frozen? ⟨p, 0, none⟩ = false) := Lib.hid (frozen_of_row w p 0 _ 77 hh)
  have HPUT := Lib.hid (fun (w1 : World) (v2 : Value) (l2 : List Fld) (hk : Keeps (fun x => (Value.slice A n c).ownBlock = some x) w w1) (ho : w1.ownsRow 0 52 3 v2 l2.length (cF l2.reverse)) (hb : v2.ownBlock = (Value.slice A n c).ownBlock) (ht : tot l2 ≤ 4096) => DT0.put (m2 := m) hh hvp hS hk ho rfl (fun k hk2 => .inl (hb ▸ hk2)) ht hm rfl)
  have HVP := Lib.hid hvp
  have HN := Lib.hid hn
  have HAT := Lib.hid hat
  have HO := Lib.hid ho
  have HP := Lib.hid hpl
  have HT := Lib.hid ht
  clear hn hat hh ho hvp hS ht hpl hm
  go_enter Tryd.func47, Tryd.ntmps47
  go_wp2_with fail
  with_reducible refine (HSZ.out).mono ?_
  rintro e w1 ⟨rfl, hb1⟩
  have HB1 := Lib.hid hb1
  obtain ⟨T0, hT0⟩ : ∃ T, T = tot l := ⟨_, rfl⟩
  rw [← hT0]
  have HT0 := Lib.hid hT0
  clear HSZ hb1 hT0
  go_wp2
  go_loopw [4, 5] (fun s g wr => ShR w room l s g wr) (fun _ g _ => n - (intOf g).toNat)
  case atStart => exact ⟨0, l.length, by omega, rfl, by rw [List.take_length, HT0.out], by rw [List.take_length], HB1.out⟩
  case round =>
    obtain ⟨j, i, hji, rfl, rfl, hfit, hbw⟩ := hrel
    have HF := Lib.hid hfit
    have HJI := Lib.hid hji
    have y1 : wr.cell? ⟨p, 0, none⟩ = some (.slice A n c) := (hbw.cell (p := ⟨p, 0, none⟩) HP.out).trans HC.out
    have HBW := Lib.hid hbw
    have hjn : j ≤ n := by have := HN.out; omega
    obtain ⟨T, hT⟩ : ∃ T, T = tot (l.take i) := ⟨_, rfl⟩
    rw [← hT]
    have hTb : T ≤ 4096 := by rw [hT]; exact Nat.le_trans (tot_le l i) HT.out
    have HTT := Lib.hid hT
    clear hfit hji hbw hT
    by_cases hgo : j < n ∧ room < (T : Int)
    · obtain ⟨hlt, hgt⟩ := hgo
      obtain ⟨i2, rfl⟩ : ∃ i2, i = i2 + 1 := ⟨i - 1, by have := HJI.out; have := HN.out; omega⟩
      have hil : i2 < l.length := by have := HJI.out; omega
      have hjl : j < l.reverse.length := by rw [List.length_reverse]; have := HN.out; omega
      obtain ⟨b, o, rfl, hbl, hc⟩ := HAT.out.pos (by omega)
      obtain ⟨c0, c1, c2⟩ := hc j hjl
      rw [rev_at2 l j i2 HJI.out hjl hil] at c0 c1 c2
      obtain ⟨f, hf⟩ : ∃ f, f = l[i2] := ⟨_, rfl⟩
      rw [← hf] at c0 c1 c2
      have d0 : wr.cell? ⟨b, o + j * 3, none⟩ = some (.string f.name) := (HBW.out.cell (p := ⟨b, o + j * 3, none⟩) hbl).trans c0
      have d1 : wr.cell? ⟨b, o + j * 3 + 1, none⟩ = some (.string f.value) := (HBW.out.cell (p := ⟨b, o + j * 3 + 1, none⟩) hbl).trans c1
      have d2 : wr.cell? ⟨b, o + j * 3 + 2, none⟩ = some (.bool f.never) := (HBW.out.cell (p := ⟨b, o + j * 3 + 2, none⟩) hbl).trans c2
      have HNX : Hid (T = tot (l.take i2) + fsize f) := Lib.hid (by rw [HTT.out, tot_next l i2 hil, hf])
      have HOK : Hid f.ok := Lib.hid (ok_of (by rw [hf]; exact List.getElem_mem _) (by have := HT.out; omega))
      obtain ⟨y, hy⟩ : ∃ y, y = fsize f := ⟨_, rfl⟩
      obtain ⟨T2, hT2⟩ : ∃ T2, T2 = tot (l.take i2) := ⟨_, rfl⟩
      rw [← hy, ← hT2] at HNX
      have eT : (T : Int) - (y : Int) = (T2 : Int) := by have := HNX.out; omega
      have HY := Lib.hid hy
      have HT2 := Lib.hid hT2
      have jn : (j : Int) < (n : Int) := by omega
      clear hc hf c0 c1 c2 hy hT2 hil hjl
      go_wp2_with fail
      with_reducible refine (size_s f _ HOK.out).mono ?_
      rw [← HY.out]
      rintro e w2 ⟨rfl, hb2⟩
      have HB3 := Lib.hid (HBW.out.trans (hb2.mono HBW.out.size))
      clear d0 d1 d2 hb2 y1
      go_wp2
      go_roundw
      case rel =>
        refine ⟨j + 1, i2, by have := HJI.out; omega, by go_num, by rw [← HT2.out], ?_, HB3.out⟩
        rw [← HF.out, fitI_less room (l.take (i2 + 1)) (by rw [← HTT.out]; exact hgt), dropLast_take l i2 (by have := HJI.out; omega)]
      case measure => simp [intOf]; omega
    · have hres : fitI room l = l.take i := by
        rw [← HF.out]
        by_cases h0 : j < n
        · exact fitI_all room _ (by rw [← HTT.out]; omega)
        · have : i = 0 := by have := HJI.out; have := HN.out; omega
          subst this
          exact fitI_nil room
      have HRES := Lib.hid hres
      have HD := Lib.hid (fun (W : World) (hb : Below w.heap.size w W) => del_any 0 (.slice A n c) n j l.reverse W (rowF_keep HO.out hb) hjn)
      have HKEY : Hid (∀ (w2 w3 : World) (v' : Value), Below w.heap.size w w2 → w3.ownsRow 0 52 3 v' (n - j) (cF (l.reverse.drop j)) → v'.ownBlock = (Value.slice A n c).ownBlock → w2.grownBy w3 (Value.slice A n c).ownBlock → DPost0 S w p m (l.take i) (w3.setCell ⟨p, 0, none⟩ v') ∧ w3.cell? ⟨p, 0, none⟩ = some (.slice A n c) ∧ w3.frozen? ⟨p, 0, none⟩ = false) := Lib.hid (fun w2 w3 v' hb2 ho3 hv3 hg3 => by
        have hk3 : Keeps (fun x => (Value.slice A n c).ownBlock = some x) w w3 := (Keeps.of_below hb2).trans (Keeps.of_grown hg3) (fun x hx _ => hx)
        have hnp : ¬ (Value.slice A n c).ownBlock = some p := fun e => HVP.out p e rfl
        refine ⟨?_, (hk3.cell (p := ⟨p, 0, none⟩) HP.out hnp).trans HC.out, (hk3.frozen (p := ⟨p, 0, none⟩) HP.out hnp).trans HFZ.out⟩
        have hil : (l.take i).length = n - j := by rw [List.length_take]; have := HJI.out; have := HN.out; omega
        rw [rev_drop l j i HJI.out, ← hil] at ho3
        exact HPUT.out w3 v' (l.take i) hk3 ho3 hv3 (by rw [← HTT.out]; exact hTb))
      have HDW := Lib.hid (HD.out wr HBW.out)
      have hgo2 : ¬ ((j : Int) < (n : Int) ∧ room < (T : Int)) := by omega
      clear hres HD hgo
      by_cases h0 : (j : Int) < (n : Int)
      · have h1 : ¬ room < (T : Int) := fun h => hgo2 ⟨h0, h⟩
        clear hgo2
        go_wp2_with fail
        with_reducible refine (HDW.out).mono ?_
        rintro e w3 ⟨v', rfl, ho3, hv3, hg3⟩
        obtain ⟨hfin, z1, z2⟩ := HKEY.out wr w3 v' HBW.out ho3 hv3 hg3
        have HFIN := Lib.hid hfin
        obtain ⟨A3, c3, rfl, _⟩ := rowF_shape ho3
        clear hfin y1 ho3 hv3 hg3
        go_wp2
        rw [HRES.out]
        go_end0
        exact ⟨rfl, HFIN.out⟩
      · clear hgo2
        go_wp2_with fail
        with_reducible refine (HDW.out).mono ?_
        rintro e w3 ⟨v', rfl, ho3, hv3, hg3⟩
        obtain ⟨hfin, z1, z2⟩ := HKEY.out wr w3 v' HBW.out ho3 hv3 hg3
        have HFIN := Lib.hid hfin
        obtain ⟨A3, c3, rfl, _⟩ := rowF_shape ho3
        clear hfin y1 ho3 hv3 hg3
        go_wp2
        rw [HRES.out]
        go_end0
        exact ⟨rfl, HFIN.out⟩
end Go.Proofs.YtiandidencnlcaaDoor
