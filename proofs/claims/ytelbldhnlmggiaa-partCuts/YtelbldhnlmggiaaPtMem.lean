/- What a frame says, in memory. -/
import Derived.Test.YtelbldhnlmggiaaPtBits
import Derived.Test.YtelbldhnlmggiaaFFrm
import Derived.Test.YtelbldhnlmggiaaLMem
import Derived.Test.YtelbldhnlmggiaaLPost
namespace Go.Proofs.Ytelbldhnlmggiaa
open Go.RowKit Fr

/-- The settings l lie at A, below block B, two cells each. -/
def AtS (w : World) (B : Nat) (A : Option Addr) (l : List (Int × Int)) : Prop :=
  l ≠ [] → ∃ b o, A = some ⟨b, o, none⟩ ∧ b < B ∧ ∀ i (h : i < l.length), w.cell? ⟨b, o + i * 2, none⟩ = some (.int .i64 l[i].1) ∧ w.cell? ⟨b, o + i * 2 + 1, none⟩ = some (.int .i64 l[i].2)
theorem AtS.up {w w' : World} {A : Option Addr} {l : List (Int × Int)} (h : AtS w w.heap.size A l) (hb : Below w.heap.size w w') : AtS w' w'.heap.size A l := fun hne => by
  obtain ⟨b, o, e, hB, hc⟩ := h hne
  exact ⟨b, o, e, Nat.lt_of_lt_of_le hB hb.size, fun i hi => ⟨(hb.cell (p := ⟨b, o + i * 2, none⟩) hB).trans (hc i hi).1, (hb.cell (p := ⟨b, o + i * 2 + 1, none⟩) hB).trans (hc i hi).2⟩⟩
theorem atS_nil (w : World) (B : Nat) (A : Option Addr) : AtS w B A [] := fun h => absurd rfl h
theorem AtS.pos {w : World} {B : Nat} {A : Option Addr} {l : List (Int × Int)} (h : AtS w B A l) (hl : 0 < l.length) : ∃ b o, A = some ⟨b, o, none⟩ ∧ b < B ∧ ∀ i (h : i < l.length), w.cell? ⟨b, o + i * 2, none⟩ = some (.int .i64 l[i].1) ∧ w.cell? ⟨b, o + i * 2 + 1, none⟩ = some (.int .i64 l[i].2) := h (List.length_pos_iff.1 hl)
/-- As values. -/
def prt (P : Prt) (A : Option Addr) (c : Nat) (B : Option Addr) (d : Nat) : Value := .agg #[.slice A P.data.length c, .int .i64 (P.pad : Int), .int .i64 (P.code : Int), .int .i64 (P.last : Int), .int .i64 (P.step : Int), .slice B P.sets.length d, .bool P.end', .bool P.ack, .bool P.whole]
def flt (F : Flt) : Value := .agg #[.bool F.bad, .bool F.conn, .int .i64 (F.code : Int)]
/-- What Read hands back: what the frame says, in new memory; what is wrong. -/
def PtPost (w : World) (r : Prt × Flt) (e : Ending) (w' : World) : Prop :=
  ∃ A c B d, e = .returned (.tuple #[prt r.1 A c B d, flt r.2]) ∧ At .u8 w' w'.heap.size A r.1.data ∧ (A = none → c = 0) ∧ r.1.data.length ≤ c ∧ AtS w' w'.heap.size B r.1.sets ∧ (B = none → d = 0) ∧ r.1.sets.length ≤ d ∧ (∀ b o s, A = some ⟨b, o, s⟩ → w.heap.size ≤ b) ∧ (∀ b o s, B = some ⟨b, o, s⟩ → w.heap.size ≤ b) ∧ Below w.heap.size w w'
/-- With nothing in memory. -/
theorem pt_bare {w w' : World} {P : Prt} {F : Flt} (hd : P.data = []) (hs : P.sets = []) (hb : Below w.heap.size w w') : PtPost w (P, F) (.returned (.tuple #[prt P none 0 none 0, flt F])) w' :=
  ⟨none, 0, none, 0, rfl, by simp only [hd]; exact at_nil _ _ _ _, fun _ => rfl, by simp only [hd]; exact Nat.le_refl _, by simp only [hs]; exact atS_nil _ _ _, fun _ => rfl, by simp only [hs]; exact Nat.le_refl _, (fun b o s e => by cases e), (fun b o s e => by cases e), hb⟩
set_option maxRecDepth 100000 in
theorem rfault_any (code : Int) (conn : Bool) (w : World) : Calls Try.prog 23 #[.int .i64 code, .bool conn] w fun e w' => e = .returned (.agg #[.bool true, .bool conn, .int .i64 code]) ∧ Below w.heap.size w w' := by
  go_enter Try.func23, Try.ntmps23
  go_wp2
  refine bodyPost_ret (v := .agg #[.bool true, .bool conn, .int .i64 code]) (by simp [results, Try.results23, go_sem]) rfl ?_
  exact ⟨rfl, (Below.refl _ _).alloc (Nat.le_refl _) _⟩
end Go.Proofs.Ytelbldhnlmggiaa
