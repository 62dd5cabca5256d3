/- Contracts of first, short, and of the two helpers Bytes and Copy. -/
import Derived.Test.YtidajbmbadgnmaaW3
import Derived.Lib.SlBytesConst
import Derived.Laws.AppendOwnNone
namespace Go.Proofs.Ytidajbmbadgnmaa
open Go.RowKit Bm

theorem short_any (s : ByteArray) (w : World) (hs : s.size ≤ 10000) (h : dec s.data.toList = none) :
    Calls Try.prog 14 #[.string s] w fun e w' => e = .returned (.bool true) ∧ Below w.heap.size w w' := by
  go_enter Try.func14, Try.ntmps14
  go_wp2_with fail
  refine (decode_no s _ hs h).mono ?_
  rintro e w' ⟨rfl, hb⟩
  go_wp2
  go_ret
  exact ⟨rfl, hb⟩

theorem bytes_any (A A' : Option Addr) (l l' : List UInt8) (c c' : Nat) (w : World) (B B' : Nat) (h : Has w B A l) (h' : Has w B' A' l') :
    Calls Try.prog 12 #[.slice A l.length c, .slice A' l'.length c'] w fun e w' => e = .returned (.bool (l == l')) ∧ w = w' := by
  have h1 := run_str w _ A l c h
  have h2 := run_str w _ A' l' c' h'
  go_enter Try.func12, Try.ntmps12
  go_wp2
  go_ret
  refine ⟨?_, rfl⟩
  show Ending.returned (.bool ((str l).toList == (str l').toList)) = _
  rw [toList_data, toList_data, str_list, str_list]

theorem has_new (w : World) (l : List UInt8) (fr : Nat × Nat) : Has (w.alloc (.cells (cel l).toArray 5 fr)) (w.alloc (.cells (cel l).toArray 5 fr)).heap.size (some ⟨w.heap.size, 0, none⟩) l := fun _ => by
  refine ⟨w.heap.size, 0, rfl, by simp, fun i hi => ?_⟩
  rw [cell_of_row _ w.heap.size (0 + i) _ 5 fr (heap_alloc_new w _)]
  simp [cel, hi]

set_option maxHeartbeats 1000000 in
theorem first_any (w : World) : Calls Try.prog 7 #[] w fun e w' => e = .returned (.bool true) ∧ Below w.heap.size w w' := by
  have kc := fun (w : World) (C : Array Value) (n c : Nat) => Lib.run_convert_bytes_const (P := Try.prog) w 22 5 C n c Try.underlying22 Try.underlying5
  go_enter Try.func7, Try.ntmps7
  go_wp2_with fail
  refine (decode_yes ⟨#[89, 84, 112, 105]⟩ [97, 58, 98] _ (by decide) (by decide)).mono ?_
  rintro e w1 ⟨A, c, rfl, hA, hb1⟩
  have hcv : (convert 22 9 (.slice A 3 c)).run Try.prog w1 = .ok (.string ⟨#[97, 58, 98]⟩) w1 := run_str w1 _ A [97, 58, 98] c hA
  go_wp2_with fail
  refine (encode_any (some ⟨w1.heap.size, 0, none⟩) [97, 58, 98] 3 _ (has_new w1 [97, 58, 98] (3, 4)) (by decide)).mono ?_
  rintro e w2 ⟨rfl, hb2⟩
  have he : str (enc [97, 58, 98]) = ⟨#[89, 84, 112, 105]⟩ := by rw [enc, core3, core0]; rfl
  go_wp2_with fail
  go_ret
  exact ⟨rfl, (hb1.alloc hb1.size _).trans (hb2.mono (by have := hb1.size; simp; omega))⟩

def CopyPost (w : World) (l : List UInt8) (e : Ending) (w' : World) : Prop := ∃ A c, e = .returned (.slice A l.length c) ∧ Has w' w'.heap.size A l ∧ Below w.heap.size w w'
theorem own_empty (w : World) (B : Nat) (hB : B ≤ w.heap.size) : (w.alloc (.cells #[] 5)).ownsRow B 5 1 (.slice (some ⟨w.heap.size, 0, none⟩) 0 0) 0 [] :=
  ⟨rfl, .inr ⟨w.heap.size, 0, #[], rfl, hB, heap_alloc_new w _, Nat.le_refl _, Nat.zero_le _, rfl, rfl⟩⟩
set_option maxHeartbeats 1000000 in
theorem copy_any (A : Option Addr) (l : List UInt8) (c : Nat) (w : World) (h : Has w w.heap.size A l) (hn : l.length ≤ 10000) :
    Calls Try.prog 13 #[.slice A l.length c] w (CopyPost w l) := by
  obtain ⟨i0, hi0, hz0, hz1, hz2⟩ := info_parts info5
  have hown := own_empty w w.heap.size (Nat.le_refl _)
  cases A with
  | none =>
    obtain rfl : l = [] := by
      rcases l with _ | ⟨x, r⟩
      · rfl
      · obtain ⟨b, o, e, _⟩ := h (by simp)
        cases e
    go_enter Try.func13, Try.ntmps13
    go_wp2
    go_ret
    exact ⟨some ⟨w.heap.size, 0, none⟩, 0, rfl, Has.nil _ _ _, (Below.refl _ _).alloc (Nat.le_refl _) _⟩
  | some ad =>
    have hcel : ∀ j u, (cel l)[j]? = some u → (w.alloc (.cells #[] 5)).cell? (ad.add j) = some u := by
      intro j u hj
      have hjl : j < l.length := by
        rcases Nat.lt_or_ge j l.length with h | h
        · exact h
        · rw [List.getElem?_eq_none (by rw [cel_len]; exact h)] at hj; cases hj
      obtain ⟨b, o, e, hB, hc⟩ := h (by rintro rfl; simp at hjl)
      injection e with e
      subst e
      have hplain : (⟨b, o, none⟩ : Addr).add j = ⟨b, o + j, none⟩ := by unfold Addr.add; split <;> simp_all
      rw [hplain, World.cell?_alloc_lt w _ ⟨b, o + j, none⟩ hB, hc j hjl]
      simp [cel, hjl] at hj
      rw [hj]
    have HC := Lib.hid hcel
    clear hcel
    go_enter Try.func13, Try.ntmps13
    go_wp2_with (at_builtin; refine wpList_append_own _ rfl _ _ 22 rfl w.heap.size 5 i0 _ 1 1 Try.underlying22 hi0 hz0 hz1 hz2 rfl (by decide) _ _ _ rfl hown ad l.length c (cel l) rfl (by simp [cel]) HC.out ?c2 ?c3 ?c4 ?c5 ?_)
    case c2 => intro u hu; simp [cel] at hu; obtain ⟨x, _, rfl⟩ := hu; rfl
    case c3 => unfold maxLen; omega
    case c4 => omega
    case c5 => simp
    · intro v' w2 hown3 hg3 _
      have hbelF : Below w.heap.size w w2 := ((Below.refl _ _).alloc (Nat.le_refl _) _).grown hg3 (by simp) (own_block hown)
      obtain ⟨A4, cap4, rfl⟩ := own_shape hown3
      have hF := Has.of_own hown3
      clear hown3 hg3
      go_wp2
      go_ret
      exact ⟨A4, cap4, rfl, hF, hbelF⟩
end Go.Proofs.Ytidajbmbadgnmaa
