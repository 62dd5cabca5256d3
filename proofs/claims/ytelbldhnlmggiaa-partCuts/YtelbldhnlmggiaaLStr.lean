/- Bytes as a string. -/
import Derived.Test.YtelbldhnlmggiaaLMem
import Derived.Lib.AppendStr
import Derived.Lib.SlBytesConst
namespace Go.Proofs.Ytelbldhnlmggiaa
open Go.RowKit

def str (l : List Nat) : ByteArray := ⟨(l.map fun x => UInt8.ofNat x).toArray⟩
theorem str_list (l : List Nat) : (str l).toList = l.map fun x => UInt8.ofNat x := by rw [str, ByteArray.toList_mk]
theorem map_inj : ∀ (l l' : List Nat), (∀ x ∈ l, x < 256) → (∀ x ∈ l', x < 256) → (l.map fun x => UInt8.ofNat x) = (l'.map fun x => UInt8.ofNat x) → l = l'
  | [], [], _, _, _ => rfl
  | [], _ :: _, _, _, h => by simp at h
  | _ :: _, [], _, _, h => by simp at h
  | a :: r, b :: r', ha, hb, h => by
    simp only [List.map_cons, List.cons.injEq] at h
    have e1 := congrArg UInt8.toNat h.1
    have a1 := ha a (by simp)
    have b1 := hb b (by simp)
    simp only [UInt8.toNat_ofNat'] at e1
    rw [show a = b by omega, map_inj r r' (fun x hx => ha x (by simp [hx])) (fun x hx => hb x (by simp [hx])) h.2]
theorem str_eq (l l' : List Nat) (h : ∀ x ∈ l, x < 256) (h' : ∀ x ∈ l', x < 256) : ((str l).toList == (str l').toList) = decide (l = l') := by
  rw [str_list, str_list, Bool.eq_iff_iff]
  simp only [beq_iff_eq, decide_eq_true_eq]
  exact ⟨map_inj l l' h h', fun e => by rw [e]⟩
/-- The string that a slice of bytes makes. -/
theorem run_str (w : World) (B : Nat) (A : Option Addr) (l : List Nat) (c : Nat) (h : At .u8 w B A l) : (convert 25 9 (.slice A l.length c)).run Try.prog w = .ok (.string (str l)) w := by
  by_cases hl : l = []
  · subst hl
    cases A with
    | none => exact run_convert_bytes_nil w 25 5 Try.underlying25 Try.underlying5 0 c 9 Try.underlying9
    | some a =>
      rw [run_convert_bytes_string w 25 9 5 _ _ c Try.underlying25 Try.underlying5 Try.underlying9]
      have := run_bytesToString (P := Try.prog) w a 0 c [] (by rfl)
      exact this
  · obtain ⟨b, o, rfl, hB, hc⟩ := h hl
    rw [run_convert_bytes_arg w 25 5 Try.underlying25 Try.underlying5 b o l.length c (l.map fun (x : Nat) => (x : Int)) (by simp) (fun i hi => by rw [hc i hi]; simp [List.getD, hi]) 9 Try.underlying9]
    simp [strOfNums, str, Function.comp_def]
end Go.Proofs.Ytelbldhnlmggiaa
