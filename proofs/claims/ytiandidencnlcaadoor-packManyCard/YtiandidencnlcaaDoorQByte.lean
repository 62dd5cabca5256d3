/- An encoder of the program and the document's own, side by side. -/
import Derived.Test.YtiandidencnlcaaDoorQRef
import Derived.Test.YtiandidencnlcaaDoorQRef4
import Derived.Test.YtiandidencnlcaaDoorHAux
namespace Go.Proofs.YtiandidencnlcaaDoor
open Go.RowKit

/-- Since w the program's encoder was made at pa and the document's at pb, out of new blocks; Y: blocks that are neither's. -/
def EE (w : World) (pa ta : Nat) (sa : EncS) (pb qb : Nat) (sb : EncS) (Y : Nat → Prop) (wr : World) : Prop :=
  ∃ Sa Sb, QE wr Sa pa ta sa ∧ RE wr Sb pb qb sb ∧ (∀ x, Sa x → w.heap.size ≤ x) ∧ (∀ x, Sb x → w.heap.size ≤ x) ∧ (∀ x, Sa x → ¬ Sb x) ∧ (∀ x, Y x → x < wr.heap.size ∧ ¬ Sa x ∧ ¬ Sb x) ∧ Below w.heap.size w wr
section
variable {w wr w' : World} {pa ta pb qb : Nat} {sa sb : EncS} {Y Y' : Nat → Prop}
theorem EE.below (h : EE w pa ta sa pb qb sb Y wr) : Below w.heap.size w wr := by
  obtain ⟨_, _, _, _, _, _, _, _, h⟩ := h
  exact h
theorem EE.quiet (h : EE w pa ta sa pb qb sb Y wr) (hb : Below wr.heap.size wr w') : EE w pa ta sa pb qb sb Y w' := by
  obtain ⟨Sa, Sb, h1, h2, h3, h4, h5, h6, h7⟩ := h
  exact ⟨Sa, Sb, h1.quiet hb, h2.quiet hb, h3, h4, h5, fun x hx => ⟨Nat.lt_of_lt_of_le (h6 x hx).1 hb.size, (h6 x hx).2⟩, h7.trans (hb.mono h7.size)⟩
theorem EE.less (h : EE w pa ta sa pb qb sb Y wr) (hY : ∀ x, Y' x → Y x) : EE w pa ta sa pb qb sb Y' wr := by
  obtain ⟨Sa, Sb, h1, h2, h3, h4, h5, h6, h7⟩ := h
  exact ⟨Sa, Sb, h1, h2, h3, h4, h5, fun x hx => h6 x (hY x hx), h7⟩
/-- Behind a call that turns the program's encoder alone. -/
theorem EE.stepA {S' Sa Sb : Nat → Prop} {sa2 : EncS} (_ : QE wr Sa pa ta sa) (h2 : RE wr Sb pb qb sb) (h3 : ∀ x, Sa x → w.heap.size ≤ x) (h4 : ∀ x, Sb x → w.heap.size ≤ x) (h5 : ∀ x, Sa x → ¬ Sb x) (h6 : ∀ x, Y x → x < wr.heap.size ∧ ¬ Sa x ∧ ¬ Sb x) (h7 : Below w.heap.size w wr)
    (hU : QE w' S' pa ta sa2) (hS' : ∀ x, S' x → Sa x ∨ wr.heap.size ≤ x) (hK : Keeps Sa wr w') (A2 : Option Addr) (hnew : ∀ b o s, A2 = some ⟨b, o, s⟩ → wr.heap.size ≤ b ∧ ¬ S' b) : EE w pa ta sa2 pb qb sb (fun x => Y x ∨ (x < w'.heap.size ∧ ∃ o s, A2 = some ⟨x, o, s⟩)) w' ∧ Keeps (fun x => ¬ Y x) wr w' := by
  refine ⟨⟨S', Sb, hU, h2.keep hK (fun x hx hs => h5 x hs hx), fun x hx => ?_, h4, fun x hx hd => ?_, fun x hx => ?_, h7.trans (hK.below h3 h7.size)⟩, hK.mono (fun x _ hx hy => (h6 x hy).2.1 hx)⟩
  · rcases hS' x hx with h | h
    · exact h3 x h
    · exact Nat.le_trans h7.size h
  · rcases hS' x hx with h | h
    · exact h5 x h hd
    · have := h2.low x hd
      omega
  · rcases hx with hx | ⟨hlt, o, s, rfl⟩
    · refine ⟨Nat.lt_of_lt_of_le (h6 x hx).1 hK.size, fun hs => ?_, (h6 x hx).2.2⟩
      rcases hS' x hs with h | h
      · exact (h6 x hx).2.1 h
      · have := (h6 x hx).1
        omega
    · refine ⟨hlt, (hnew x o s rfl).2, fun hd => ?_⟩
      have := (hnew x o s rfl).1
      have := h2.low x hd
      omega
theorem EE.stepB {S' Sa Sb : Nat → Prop} {sb2 : EncS} (h1 : QE wr Sa pa ta sa) (h3 : ∀ x, Sa x → w.heap.size ≤ x) (h4 : ∀ x, Sb x → w.heap.size ≤ x) (h5 : ∀ x, Sa x → ¬ Sb x) (h6 : ∀ x, Y x → x < wr.heap.size ∧ ¬ Sa x ∧ ¬ Sb x) (h7 : Below w.heap.size w wr)
    (hU : RE w' S' pb qb sb2) (hS' : ∀ x, S' x → Sb x ∨ wr.heap.size ≤ x) (hK : Keeps Sb wr w') (A2 : Option Addr) (hnew : ∀ b o s, A2 = some ⟨b, o, s⟩ → wr.heap.size ≤ b ∧ ¬ S' b) : EE w pa ta sa pb qb sb2 (fun x => Y x ∨ (x < w'.heap.size ∧ ∃ o s, A2 = some ⟨x, o, s⟩)) w' ∧ Keeps (fun x => ¬ Y x) wr w' := by
  refine ⟨⟨Sa, S', h1.keep hK (fun x hx hs => h5 x hx hs), hU, h3, fun x hx => ?_, fun x ha hx => ?_, fun x hx => ?_, h7.trans (hK.below h4 h7.size)⟩, hK.mono (fun x _ hx hy => (h6 x hy).2.2 hx)⟩
  · rcases hS' x hx with h | h
    · exact h4 x h
    · exact Nat.le_trans h7.size h
  · rcases hS' x hx with h | h
    · exact h5 x ha h
    · have := h1.low x ha
      omega
  · rcases hx with hx | ⟨hlt, o, s, rfl⟩
    · refine ⟨Nat.lt_of_lt_of_le (h6 x hx).1 hK.size, (h6 x hx).2.1, fun hs => ?_⟩
      rcases hS' x hs with h | h
      · exact (h6 x hx).2.2 h
      · have := (h6 x hx).1
        omega
    · refine ⟨hlt, fun hs => ?_, (hnew x o s rfl).2⟩
      have := (hnew x o s rfl).1
      have := h1.low x hs
      omega
theorem EE.peerA (h : EE w pa ta sa pb qb sb Y wr) (hR : Rdy wr) (n : Int) (hn : Rng n) : Calls Tryd.prog 12 #[.pointer (some ⟨pa, 0, none⟩), .int .i64 n] wr fun e w' => e = .returned (.tuple #[]) ∧ EE w pa ta (sa.peer n) pb qb sb Y w' := by
  obtain ⟨Sa, Sb, h1, h2, h3, h4, h5, h6, h7⟩ := h
  refine (qpeer_f n wr hR Sa pa ta sa h1 hn).mono ?_
  rintro e w1 ⟨rfl, S', hU, hS', hK⟩
  exact ⟨rfl, (EE.stepA h1 h2 h3 h4 h5 h6 h7 hU hS' hK none (fun b o s e => by cases e)).1.less (fun x hx => .inl hx)⟩
theorem EE.peerB (h : EE w pa ta sa pb qb sb Y wr) (n : Int) : Calls Tryd.prog 13 #[.pointer (some ⟨pb, 0, none⟩), .int .i64 n] wr fun e w' => e = .returned (.tuple #[]) ∧ EE w pa ta sa pb qb (sb.peer n) Y w' := by
  obtain ⟨Sa, Sb, h1, h2, h3, h4, h5, h6, h7⟩ := h
  refine (rqpeer_any n wr Sb pb qb sb h2).mono ?_
  rintro e w1 ⟨rfl, S', hU, hS', hK⟩
  exact ⟨rfl, (EE.stepB h1 h3 h4 h5 h6 h7 hU hS' hK none (fun b o s e => by cases e)).1.less (fun x hx => .inl hx)⟩
theorem EE.encA (h : EE w pa ta sa pb qb sb Y wr) (hR : Rdy wr) (A : Option Addr) (l : List Fld) (n c : Nat) (hA : AtF wr wr.heap.size A l) (hl : l.length = n) (hA0 : A = none → c = 0) (hnc : n ≤ c) (hAY : l ≠ [] → ∀ a, A = some a → a.block < w.heap.size) (ht : tot l ≤ 100000) :
    Calls Tryd.prog 14 #[.pointer (some ⟨pa, 0, none⟩), .slice A n c] wr fun e w' => ∃ A2 c2, e = .returned (.tuple #[.slice A2 (sa.enc l).1.length c2, .int .i64 (((sa.enc l).2.1 : Nat) : Int)]) ∧ EE w pa ta (sa.enc l).2.2 pb qb sb (fun x => Y x ∨ (x < w'.heap.size ∧ ∃ o s, A2 = some ⟨x, o, s⟩)) w' ∧ At .u8 w' w'.heap.size A2 (sa.enc l).1 ∧ (sa.enc l).1.length ≤ c2 := by
  obtain ⟨Sa, Sb, h1, h2, h3, h4, h5, h6, h7⟩ := h
  refine (qenc_f A l n c wr hR Sa pa ta sa h1 hA hl hA0 hnc (fun hne a ha hs => by have := h3 _ hs; have := hAY hne a ha; omega) ht).mono ?_
  rintro e w1 ⟨S', A2, c2, rfl, hU, hS', hK, hat, hA2, hlc, hnew⟩
  exact ⟨A2, c2, rfl, (EE.stepA h1 h2 h3 h4 h5 h6 h7 hU hS' hK A2 hnew).1, hat, hlc⟩
theorem EE.encB (h : EE w pa ta sa pb qb sb Y wr) (A : Option Addr) (l : List Fld) (n c : Nat) (hA : AtF wr wr.heap.size A l) (hl : l.length = n) (hAY : l ≠ [] → ∀ a, A = some a → a.block < w.heap.size) (ht : tot l ≤ 100000) :
    Calls Tryd.prog 15 #[.pointer (some ⟨pb, 0, none⟩), .slice A n c] wr fun e w' => ∃ A2 c2, e = .returned (.tuple #[.slice A2 (sb.enc l).1.length c2, .int .i64 (((sb.enc l).2.1 : Nat) : Int)]) ∧ EE w pa ta sa pb qb (sb.enc l).2.2 (fun x => Y x ∨ (x < w'.heap.size ∧ ∃ o s, A2 = some ⟨x, o, s⟩)) w' ∧ Keeps (fun x => ¬ Y x) wr w' ∧ At .u8 w' w'.heap.size A2 (sb.enc l).1 ∧ (sb.enc l).1.length ≤ c2 := by
  obtain ⟨Sa, Sb, h1, h2, h3, h4, h5, h6, h7⟩ := h
  refine (rqenc_any A l n c wr Sb pb qb sb h2 hA hl (fun hne a ha hs => by have := h4 _ hs; have := hAY hne a ha; omega) ht).mono ?_
  rintro e w1 ⟨S', A2, c2, rfl, hU, hS', hK, hat, hA2, hlc, hnew⟩
  obtain ⟨k1, k2⟩ := EE.stepB h1 h3 h4 h5 h6 h7 hU hS' hK A2 hnew
  exact ⟨A2, c2, rfl, k1, k2, hat, hlc⟩
theorem EE.tabA (h : EE w pa ta sa pb qb sb Y wr) (hR : Rdy wr) : Calls Tryd.prog 18 #[.pointer (some ⟨pa, 0, none⟩)] wr fun e w' => e = .returned (.pointer (some ⟨ta, 0, none⟩)) ∧ Below wr.heap.size wr w' := by
  obtain ⟨Sa, Sb, h1, _⟩ := h
  exact qtab_f wr hR Sa pa ta sa h1
theorem EE.dtA (h : EE w pa ta sa pb qb sb Y wr) : ∃ S, DT wr S ta sa.most sa.tab := by
  obtain ⟨Sa, Sb, h1, _⟩ := h
  exact h1.dt
theorem EE.rtB (h : EE w pa ta sa pb qb sb Y wr) : (∃ S, RT wr S qb sb.most sb.tab) ∧ wr.cell? ⟨pb, 0, none⟩ = some (.pointer (some ⟨qb, 0, none⟩)) ∧ tot sb.tab ≤ 4096 := by
  obtain ⟨Sa, Sb, _, h2, _⟩ := h
  have hb := h2.bounds
  exact ⟨by obtain ⟨S1, _, hT, _⟩ := h2; exact ⟨S1, hT⟩, h2.c0, by omega⟩
end
end Go.Proofs.YtiandidencnlcaaDoor
/- Chapter 9 over plain values: what is written are bytes; what the decoder makes of it. -/
namespace Go.Proofs.YtiandidencnlcaaDoor
open Go.RowKit

theorem pstr_byte (s : List Nat) (hs : ∀ x ∈ s, x < 256) : ∀ x ∈ pstr s, x < 256 := by
  intro x hx
  unfold pstr at hx
  split at hx
  · rcases List.mem_append.1 hx with h | h
    · exact Pn.put_byte 128 7 _ (by omega) (by omega) x h
    · exact Hf.pack_byte (Hf.eBits_bt s) x h
  · rcases List.mem_append.1 hx with h | h
    · exact Pn.put_byte 0 7 _ (by omega) (by omega) x h
    · exact hs x h
theorem plit_byte (L : List Fld) (f : Fld) : ∀ x ∈ plit L f, x < 256 := by
  intro x hx
  unfold plit at hx
  rcases List.mem_append.1 hx with h | h
  · exact Pn.put_byte _ _ _ (by split <;> omega) (by split <;> omega) x h
  · rcases List.mem_append.1 h with h | h
    · split at h
      · exact pstr_byte _ (nums_lt _) x h
      · simp at h
    · exact pstr_byte _ (nums_lt _) x h
theorem pfld_byte (m : Nat) (L : List Fld) (f : Fld) : ∀ x ∈ (pfld m L f).1, x < 256 := by
  unfold pfld
  split
  · exact Pn.put_byte 128 7 _ (by omega) (by omega)
  · exact plit_byte L f
theorem pall_byte (m : Nat) : ∀ (l L : List Fld), ∀ x ∈ (pall m L l).1, x < 256
  | [], L => fun x hx => by simp [pall] at hx
  | f :: r, L => fun x hx => by
    rw [pall] at hx
    rcases List.mem_append.1 hx with h | h
    · exact pfld_byte m L f x h
    · exact pall_byte m r _ x h
theorem lims_byte (s : EncS) : ∀ x ∈ s.lims, x < 256 := by
  intro x hx
  unfold EncS.lims at hx
  split at hx
  · split at hx
    · rcases List.mem_append.1 hx with h | h <;> exact Pn.put_byte 32 5 _ (by omega) (by omega) x h
    · split at hx
      · exact Pn.put_byte 32 5 _ (by omega) (by omega) x hx
      · simp at hx
  · simp at hx
theorem enc_byte (s : EncS) (l : List Fld) : ∀ x ∈ (s.enc l).1, x < 256 := by
  unfold EncS.enc
  split
  · intro x hx
    rcases List.mem_append.1 hx with h | h
    · exact lims_byte s x h
    · exact pall_byte _ _ _ x h
  · intro x hx
    simp at hx
theorem Sync.lims_len {s : EncS} {md : Nat} {Ld : List Fld} (h : Sync s md Ld) : s.lims.length ≤ 12 := by
  cases hs : s.set with
  | false => rw [EncS.lims, hs]; simp
  | true =>
    obtain ⟨h1, h2, _⟩ := h.moved hs
    exact Go.Proofs.YtiandidencnlcaaDoor.lims_len s (by omega) h2
theorem Sync.enc_len {s : EncS} {md : Nat} {Ld : List Fld} (h : Sync s md Ld) (l : List Fld) (hl : tot l ≤ 46400) : (s.enc l).1.length ≤ 50000 := by
  unfold EncS.enc
  split
  · rename_i hf
    have h1 := h.lims_len
    obtain ⟨t1, t2, _⟩ := h.tab
    have h2 := pall_len s.most l s.tab t1 t2 (allFit_iff.1 hf)
    simp only [List.length_append]
    omega
  · simp
/-- Where all fields may be written: the decoder reads them. -/
theorem Sync.reads {s : EncS} {md : Nat} {Ld : List Fld} (h : Sync s md Ld) (l : List Fld) (hl : allFit l = true) (ht : tot l ≤ 46400) : ∃ B T, s.enc l = (B, 0, ⟨s.most, T, s.most, s.least, false⟩) ∧ udec B 2147483647 false md Ld = ⟨l, 0, false, s.most, T⟩ ∧ Sync ⟨s.most, T, s.most, s.least, false⟩ s.most T := by
  refine ⟨s.lims ++ (pall s.most s.tab l).1, (pall s.most s.tab l).2, by rw [EncS.enc, if_pos hl], ?_, h.next l s.least⟩
  rw [h.dec l (allFit_iff.1 hl), if_neg (by omega)]
theorem enc_none_fit (s : EncS) (l : List Fld) (hl : ¬ allFit l = true) : s.enc l = ([], 3, s) := by rw [EncS.enc, if_neg hl]
theorem udec_empty (md : Nat) (Ld : List Fld) : udec [] 2147483647 false md Ld = ⟨[], 0, false, md, Ld⟩ := by
  rw [udec, if_neg (by simp), ugo, if_neg (by simp), if_neg (by simp [tot])]
/-- What a block is, written and read: the fields, or none of them. -/
theorem Sync.step {s : EncS} {md : Nat} {Ld : List Fld} (h : Sync s md Ld) (l : List Fld) (ht : tot l ≤ 46400) : ∃ (B : List Nat) (er : Nat) (s2 : EncS) (D : Blk), s.enc l = (B, er, s2) ∧ udec B 2147483647 false md Ld = D ∧ D.dead = false ∧ Sync s2 D.most D.tab ∧ s2.most = s.most ∧ (∀ x ∈ B, x < 256) ∧ B.length ≤ 50000 ∧ (er = 0 ∧ D.out = l ∧ D.err = 0 ∧ s2.set = false ∨ er = 3) := by
  have hb := enc_byte s l
  have hl := h.enc_len l ht
  by_cases hf : allFit l = true
  · obtain ⟨B, T, h1, h2, h3⟩ := h.reads l hf ht
    rw [h1] at hb hl
    exact ⟨B, 0, _, _, h1, h2, rfl, h3, rfl, hb, hl, .inl ⟨rfl, rfl, rfl, rfl⟩⟩
  · have h1 := enc_none_fit s l hf
    rw [h1] at hb hl
    exact ⟨[], 3, s, _, h1, udec_empty md Ld, rfl, h, rfl, hb, hl, .inr rfl⟩
theorem tot_flat : ∀ (l : List (List Fld)) (q : List Fld), q ∈ l → tot q ≤ tot l.flatten
  | [], _, h => by simp at h
  | x :: r, q, h => by
    rw [List.flatten_cons, tot_app]
    rcases List.mem_cons.1 h with rfl | h
    · omega
    · have := tot_flat r q h
      omega
end Go.Proofs.YtiandidencnlcaaDoor
