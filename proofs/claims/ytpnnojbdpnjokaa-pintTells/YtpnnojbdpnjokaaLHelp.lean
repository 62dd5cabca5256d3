/- Contracts of the statements' helpers Bytes and Copy (package wlvref), of every stage. -/
import Derived.Test.YtpnnojbdpnjokaaLMem
import Derived.Lib.AppendStr
import Derived.Lib.SlBytesConst
namespace Go.Proofs.Ytpnnojbdpnjokaa
open Go.RowKit

def str (l : List Nat) : ByteArray := ⟨(l.map fun x => UInt8.ofNat x).toArray⟩
theorem str_list (l : List Nat) : (str l).toList = l.map fun x => UInt8.ofNat x := by rw [str, ByteArray.toList_mk]
theorem map_inj : ∀ (l l' : List Nat), (∀ x ∈ l, x < 256) → (∀ x ∈ l', x < 256) → (l.map fun x => UInt8.ofNat x) = (l'.map fun x => UInt8.ofNat x) → l = l'
  | [], [], _, _, _ => rfl
  | [], _ :: _, _, _, h => by simp at h
  | _ :: _, [], _, _, h => by simp at h
  | a :: r, b :: r', ha, hb, h => by
    simp only [List.map_cons, List.cons.injEq] at h
    have e1 := congrArg UInt8.toNat h.1
    have a1 := ha a (by simp)
    have b1 := hb b (by simp)
    simp only [UInt8.toNat_ofNat'] at e1
    rw [show a = b by omega, map_inj r r' (fun x hx => ha x (by simp [hx])) (fun x hx => hb x (by simp [hx])) h.2]
theorem str_eq (l l' : List Nat) (h : ∀ x ∈ l, x < 256) (h' : ∀ x ∈ l', x < 256) : ((str l).toList == (str l').toList) = decide (l = l') := by
  rw [str_list, str_list, Bool.eq_iff_iff]
  simp only [beq_iff_eq, decide_eq_true_eq]
  exact ⟨map_inj l l' h h', fun e => by rw [e]⟩
/-- The string that a slice of bytes makes. -/
theorem run_str (w : World) (B : Nat) (A : Option Addr) (l : List Nat) (c : Nat) (h : At .u8 w B A l) : (convert 22 9 (.slice A l.length c)).run Try.prog w = .ok (.string (str l)) w := by
  by_cases hl : l = []
  · subst hl
    cases A with
    | none => exact run_convert_bytes_nil w 22 5 Try.underlying22 Try.underlying5 0 c 9 Try.underlying9
    | some a =>
      rw [run_convert_bytes_string w 22 9 5 _ _ c Try.underlying22 Try.underlying5 Try.underlying9]
      have := run_bytesToString (P := Try.prog) w a 0 c [] (by rfl)
      exact this
  · obtain ⟨b, o, rfl, hB, hc⟩ := h hl
    rw [run_convert_bytes_arg w 22 5 Try.underlying22 Try.underlying5 b o l.length c (l.map fun (x : Nat) => (x : Int)) (by simp) (fun i hi => by rw [hc i hi]; simp [List.getD, hi]) 9 Try.underlying9]
    simp [strOfNums, str, Function.comp_def]
theorem bytes_any (A A' : Option Addr) (l l' : List Nat) (n n' c c' : Nat) (w : World) (B B' : Nat) (h : At .u8 w B A l) (h' : At .u8 w B' A' l') (hb : ∀ x ∈ l, x < 256) (hb' : ∀ x ∈ l', x < 256) (hn : l.length = n) (hn' : l'.length = n') :
    Calls Try.prog 12 #[.slice A n c, .slice A' n' c'] w fun e w' => e = .returned (.bool (decide (l = l'))) ∧ w = w' := by
  subst hn hn'
  have h1 := run_str w _ A l c h
  have h2 := run_str w _ A' l' c' h'
  rw [← str_eq l l' hb hb']
  clear h h' hb hb'
  go_enter Try.func12, Try.ntmps12
  go_wp2
  go_ret
  exact ⟨rfl, rfl⟩
set_option maxHeartbeats 1000000 in
theorem copy_any (A : Option Addr) (l : List Nat) (n c : Nat) (w : World) (hA : At .u8 w w.heap.size A l) (hn : l.length = n) (hc : A = none → c = 0) (hm : n ≤ 100000) :
    Calls Try.prog 13 #[.slice A n c] w (RowPost w.heap.size w l) := by
  have HC := Lib.hid hc
  have HN := Lib.hid hn
  clear hc hn
  have hown0 := Lib.hid (own_empty w w.heap.size (Nat.le_refl _))
  have hA0 : At .u8 (w.alloc (.cells #[] 5)) w.heap.size A l := hA.below ((Below.refl _ _).alloc (Nat.le_refl _) _) (Nat.le_refl _)
  go_enter Try.func13, Try.ntmps13
  go_wp2_with (at_builtin; refine wpList_append_at rfl (.tmp 3) (.tmp 4) rfl w.heap.size _ [] rfl hown0.out A l _ c HN.out rfl HC.out _ hA0 ?_ ?_ ?_; (rotate_right; intro v4 w4 hown4 hg4))
  · have hb4 : Below w.heap.size w w4 := ((Below.refl _ _).alloc (Nat.le_refl _) _).grown hg4 (by simp) (own_block hown0.out)
    clear hg4
    go_wp2
    go_ret
    exact ⟨v4, rfl, hown4, hb4⟩
  all_goals (have := HN.out; first | (simp; omega) | simp)
end Go.Proofs.Ytpnnojbdpnjokaa
