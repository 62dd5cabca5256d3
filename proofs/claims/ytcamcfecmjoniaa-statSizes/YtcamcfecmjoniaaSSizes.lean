/- The walk of StatSizes. -/
import Derived.Test.YtcamcfecmjoniaaSFirst
import Derived.Test.YtcamcfecmjoniaaLRowF
import Derived.Deep.RegionHeld3
namespace Go.Proofs.Ytcamcfecmjoniaa
open Go.RowKit St

def flip (f : Fld) : Fld := ⟨f.name, f.value, !f.never⟩
/-- The first k turned. -/
def flp : List Fld → Nat → List Fld
  | [], _ => []
  | f :: r, 0 => f :: r
  | f :: r, k + 1 => flip f :: flp r k
theorem flp_zero : ∀ l, flp l 0 = l
  | [] => rfl
  | _ :: _ => rfl
theorem flp_len : ∀ l k, (flp l k).length = l.length
  | [], _ => rfl
  | _ :: _, 0 => rfl
  | f :: r, k + 1 => by rw [flp, List.length_cons, List.length_cons, flp_len r k]
theorem flp_at : ∀ (l : List Fld) (k : Nat) (h : k < l.length), (flp l k)[k]? = some l[k]
  | [], k, h => by simp at h
  | f :: r, 0, h => rfl
  | f :: r, k + 1, h => by
    have := flp_at r k (by simpa using h)
    rw [flp]
    simpa using this
theorem flp_set : ∀ (l : List Fld) (k : Nat) (h : k < l.length), (flp l k).set k (flip l[k]) = flp l (k + 1)
  | [], k, h => by simp at h
  | f :: r, 0, h => by rw [flp, flp, flp_zero]; rfl
  | f :: r, k + 1, h => by
    have := flp_set r k (by simpa using h)
    rw [flp, flp]
    simpa using this
theorem sames_flp : ∀ (l : List Fld) (k : Nat), sames l (flp l k) = true
  | [], _ => rfl
  | f :: r, 0 => by
    rw [flp]
    have := sames_flp r 0
    rw [flp_zero] at this
    rw [sames, this]
    simp [alike]
  | f :: r, k + 1 => by
    rw [flp, sames, sames_flp r k]
    simp [alike, flip]
theorem sames_refl (l : List Fld) : sames l l = true := by have := sames_flp l 0; rwa [flp_zero] at this
theorem sames_take (l : List Fld) (q : Nat) (h : q ≤ l.length) : sames l (l.take q) = decide (q = l.length) := by
  by_cases hq : q = l.length
  · rw [hq, List.take_length, sames_refl, decide_eq_true rfl]
  · rw [decide_eq_false hq]
    cases hs : sames l (l.take q) with
    | false => rfl
    | true =>
      have := sames_len hs
      rw [List.length_take] at this
      omega
theorem tot_cut (l : List Fld) (q : Nat) : tot (l.take q) + tot (l.drop q) = tot l := by rw [← tot_app, List.take_append_drop]
namespace statSizes
set_option maxRecDepth 100000 in
set_option maxHeartbeats 4000000 in
theorem walk_not (A : Option Addr) (l : List Fld) (n c : Nat) (q : Int) (w : World) (hR : Rdy w) (hA : AtF w w.heap.size A l) (hn : l.length = n) (hao : ∀ f ∈ l, f.fit) (hf : few l = false ∨ few l = true ∧ q < 0 ∨ few l = true ∧ 0 ≤ q ∧ (n : Int) < q) :
    Calls Try.prog 5 #[.slice A n c, .int .i64 q] w (Yes w) := by
  have HR := Lib.hid hR
  have HA := Lib.hid fun (w' : World) (hb : Below w.heap.size w w') => hA.up hb
  have HN := Lib.hid hn
  have HAO := Lib.hid hao
  have HF := Lib.hid hf
  clear hR hA hn hao hf
  go_enter Try.func5, Try.ntmps5
  go_wp2_with fail
  with_reducible refine (first_any w HR.out).mono ?_
  rintro e w1 ⟨rfl, hb1⟩
  go_wp2_with fail
  with_reducible refine (few_any A l n c w1 (HA.out _ hb1) HN.out HAO.out).mono ?_
  rintro e w2 ⟨rfl, hbn⟩
  have hb2 := hb1.trans (hbn.mono hb1.size)
  clear hb1 hbn
  rcases HF.out with h1 | ⟨h1, h2⟩ | ⟨h1, h2, h3⟩
  · rw [h1]
    go_wp2_with fail
    with_reducible refine (first_any w2 (HR.out.below hb2)).mono ?_
    rintro e w3 ⟨rfl, hbn⟩
    have hb3 := hb2.trans (hbn.mono hb2.size)
    clear hb2 hbn
    go_wp2_with fail
    go_ret
    exact ⟨rfl, hb3⟩
  · rw [h1]
    go_wp2_with fail
    with_reducible refine (first_any w2 (HR.out.below hb2)).mono ?_
    rintro e w3 ⟨rfl, hbn⟩
    have hb3 := hb2.trans (hbn.mono hb2.size)
    clear hb2 hbn
    go_wp2_with fail
    go_ret
    exact ⟨rfl, hb3⟩
  · rw [h1]
    have h2' : ¬ q < 0 := by omega
    go_wp2_with fail
    with_reducible refine (first_any w2 (HR.out.below hb2)).mono ?_
    rintro e w3 ⟨rfl, hbn⟩
    have hb3 := hb2.trans (hbn.mono hb2.size)
    clear hb2 hbn
    go_wp2_with fail
    go_ret
    exact ⟨rfl, hb3⟩
def SzR (w : World) (l : List Fld) (n : Nat) (v s i : Value) (wr : World) : Prop := ∃ k : Nat, k ≤ n ∧ i = .int .i64 (k : Int) ∧ s = .int .i64 ((tot (l.take k) : Nat) : Int) ∧ wr.ownsRow w.heap.size 26 3 v n (cF (flp l k)) ∧ Below w.heap.size w wr
set_option maxRecDepth 100000 in
set_option maxHeartbeats 8000000 in
theorem walk_few (A : Option Addr) (l : List Fld) (n c q : Nat) (w : World) (hR : Rdy w) (hA : AtF w w.heap.size A l) (hn : l.length = n) (hA0 : A = none → c = 0) (hnc : n ≤ c) (hfa : few l = true) (hq : q ≤ n) :
    Calls Try.prog 5 #[.slice A n c, .int .i64 (q : Int)] w (Yes w) := by
  have HR := Lib.hid hR
  have HA := Lib.hid fun (w' : World) (hb : Below w.heap.size w w') => hA.up hb
  have HN := Lib.hid hn
  have HA0 := Lib.hid hA0
  have HFA := Lib.hid hfa
  obtain ⟨hn200, hta⟩ := few_tot hfa
  have HTA : Hid (tot l ≤ 46400) := Lib.hid hta
  have hn2 : n ≤ 200 := by omega
  have HAO : Hid (∀ f ∈ l, f.ok) := Lib.hid (fun f hf => ok_of hf (by omega))
  have HFIT : Hid (∀ f ∈ l, f.fit) := Lib.hid (fun f hf => (ok_of hf (by omega)).fit)
  clear hR hA hn hA0 hfa hta hn200
  have q0 : ¬ (q : Int) < 0 := by omega
  have q1 : ¬ (n : Int) < (q : Int) := by omega
  go_enter Try.func5, Try.ntmps5
  go_wp2_with fail
  with_reducible refine (first_any w HR.out).mono ?_
  rintro e w1 ⟨rfl, hb1⟩
  go_wp2_with fail
  with_reducible refine (few_any A l n c w1 (HA.out _ hb1) HN.out HFIT.out).mono ?_
  rw [HFA.out]
  rintro e w2 ⟨rfl, hbn⟩
  have hb2 := hb1.trans (hbn.mono hb1.size)
  clear hb1 hbn
  have hb3 := hb2.alloc hb2.size (.cells #[] 26)
  have hat := HA.out _ hb3
  go_wp2_with (at_builtin; refine wpList_append_F rfl (.tmp 24) (.tmp 25) rfl w.heap.size _ [] rfl (rowF_empty w2 _ hb2.size) A l n c HN.out rfl HA0.out _ hat ?_ ?_ ?_; (rotate_right; intro v9 w9 hown9 hg9))
  · have hb9 := hb3.grown hg9 (by have := hb2.size; simp; omega) (rowF_block (rowF_empty w2 _ hb2.size))
    clear hg9 hb2 hb3 hat
    rw [List.nil_append, HN.out] at hown9
    obtain ⟨A5, c5, hv5, hc5, hA5⟩ := rowF_shape hown9
    subst hv5
    have HC5 := Lib.hid hc5
    have HA5 := Lib.hid hA5
    have hr0 : SzR w l n (.slice A5 n c5) (.int .i64 0) (.int .i64 0) w9 := ⟨0, Nat.zero_le _, rfl, rfl, by rw [flp_zero]; exact hown9, hb9⟩
    clear hown9 hb9 hc5 hA5
    go_wp2
    go_loopw [6, 7] (fun s i wr => SzR w l n (.slice A5 n c5) s i wr) (fun _ i _ => n - (intOf i).toNat)
    case atStart => exact hr0
    case round =>
      clear hr0
      obtain ⟨k, hk, rfl, rfl, hown, hbw⟩ := hrel
      by_cases hlt : k < n
      · have hkl : k < l.length := by have := HN.out; omega
        have ki : (k : Int) < (n : Int) := by omega
        obtain ⟨g, c6, hv, hgB, hc6, hgl⟩ := rowF_form hown (by omega)
        injection hv with hv1 hv2 hv3
        subst hv1 hv3
        obtain ⟨f, hf⟩ : ∃ f, f = l[k] := ⟨_, rfl⟩
        have hfm : f ∈ l := by rw [hf]; exact List.getElem_mem _
        have hok : f.ok := HAO.out f hfm
        have hfz : fsize f ≤ 46400 := Nat.le_trans (fsize_le hfm) HTA.out
        have hlen : (flp l k).length = l.length := flp_len l k
        have hfk : (flp l k)[k]'(by omega) = f := by
          have := flp_at l k hkl
          rw [List.getElem?_eq_getElem (by omega)] at this
          injection this with this
          rw [this, hf]
        have hat := cF_at (flp l k) k (by omega)
        rw [hfk] at hat
        have hnl := HN.out
        have d2 : wr.cell? ⟨g, k * 3 + 2, none⟩ = some (.bool f.never) := (hown.cellAt (k * 3 + 2) (by omega)).trans hat.2.2
        have hfr : wr.frozen? ⟨g, k * 3 + 2, none⟩ = false := hown.frozenAt (k * 3 + 2)
        have hst := (hown.stored (k * 3 + 2) (.bool (!f.never))).1
        rw [cF_set (flp l k) k (by omega), hfk] at hst
        have hfs := flp_set l k hkl
        rw [← hf] at hfs
        rw [show (⟨f.name, f.value, !f.never⟩ : Fld) = flip f from rfl, hfs] at hst
        have hbs : Below w.heap.size w (wr.setCell ⟨g, k * 3 + 2, none⟩ (.bool (!f.never))) := hbw.setCell hgB _
        obtain ⟨W1, hW1⟩ : ∃ W, W = wr.setCell ⟨g, k * 3 + 2, none⟩ (.bool (!f.never)) := ⟨_, rfl⟩
        have hat2 := cF_at (flp l (k + 1)) k (by rw [flp_len]; exact hkl)
        have hfk2 : (flp l (k + 1))[k]'(by rw [flp_len]; exact hkl) = flip f := by
          have : (flp l (k + 1))[k]? = some (flip f) := by rw [← hfs, List.getElem?_set_self (by omega)]
          rw [List.getElem?_eq_getElem (by rw [flp_len]; exact hkl)] at this
          injection this
        rw [hfk2] at hat2
        have HNX : Hid (tot (l.take (k + 1)) = tot (l.take k) + fsize f) := Lib.hid (by rw [tot_next l k hkl, hf])
        have hle := tot_le l (k + 1)
        rw [HNX.out] at hle
        have hle2 : tot (l.take k) + fsize f ≤ 1000000 := by have := HTA.out; omega
        have hz32 : 32 ≤ fsize f := by unfold fsize; omega
        generalize tot (l.take k) = s at hle2 HNX
        have HZE : Hid (fsize ⟨f.name, f.value, !f.never⟩ = fsize f) := Lib.hid rfl
        have HOK : Hid (Fld.ok ⟨f.name, f.value, !f.never⟩) := Lib.hid hok
        generalize fsize f = z at hle2 HNX hz32 HZE hfz
        have z32 : ¬ (z : Int) < 32 := by omega
        have HCE : Hid (∀ W : World, W.ownsRow w.heap.size 26 3 (.slice (some ⟨g, 0, none⟩) n c5) n (cF (flp l (k + 1))) → W.cell? ⟨g, k * 3, none⟩ = some (.string f.name) ∧ W.cell? ⟨g, k * 3 + 1, none⟩ = some (.string f.value) ∧ W.cell? ⟨g, k * 3 + 2, none⟩ = some (.bool (!f.never))) := Lib.hid (fun W hW => by
          exact ⟨(hW.cellAt (k * 3) (by omega)).trans hat2.1, (hW.cellAt (k * 3 + 1) (by omega)).trans hat2.2.1, (hW.cellAt (k * 3 + 2) (by omega)).trans hat2.2.2⟩)
        have hSZ := fun (W : World) (hb : Below w.heap.size w W) => ssize_f ⟨f.name, f.value, !f.never⟩ W (HR.out.below hb) HOK.out
        rw [HZE.out] at hSZ
        have HSZ := Lib.hid hSZ
        obtain ⟨e0, e1, e2⟩ := HCE.out _ hst
        have HST := Lib.hid hst
        obtain ⟨f1, f2, f3⟩ := f
        simp only [] at d2 hst hbs e0 e1 e2 HSZ hW1 HST HCE
        clear hat hat2 hfk hfk2 hfs hf hfm hok hlen hle hown hnl hst hSZ hW1 HZE HOK hfz
        go_wp2_with fail
        with_reducible refine (HSZ.out _ hbs).mono ?_
        rintro e w4 ⟨rfl, hb4⟩
        have hown4 := rowF_keep HST.out hb4
        have hb5 := hbs.trans (hb4.mono hbs.size)
        clear d2 hfr e0 e1 e2 hbs hb4 hbw
        obtain ⟨e0, e1, e2⟩ := HCE.out _ hown4
        go_wp2_with fail
        with_reducible refine (HSZ.out _ hb5).mono ?_
        rintro e w6 ⟨rfl, hb6⟩
        have hown6 := rowF_keep hown4 hb6
        have hb7 := hb5.trans (hb6.mono hb5.size)
        have HO6 := Lib.hid hown6
        clear e0 e1 e2 hb5 hb6 hown4 hown6
        go_wp2
        go_roundw
        case rel => exact ⟨k + 1, by omega, by go_num, by rw [HNX.out]; go_num, HO6.out, hb7⟩
        case measure => simp [intOf]; omega
      · obtain rfl : k = n := by have := HN.out; omega
        have hnl := HN.out
        have e : l.take k = l := List.take_of_length_le (by omega)
        rw [e]
        have hm : AtF wr wr.heap.size A5 (flp l k) := AtF.of_own hown
        obtain ⟨T, hT⟩ : ∃ T, T = tot l := ⟨_, rfl⟩
        obtain ⟨T1, hT1⟩ : ∃ T, T = tot (l.take q) := ⟨_, rfl⟩
        obtain ⟨T2, hT2⟩ : ∃ T, T = tot (l.drop q) := ⟨_, rfl⟩
        have hcut : T1 + T2 = T := by rw [hT1, hT2, hT]; exact tot_cut l q
        have hTb : T ≤ 46400 := by rw [hT]; exact HTA.out
        obtain ⟨A1, hA1⟩ : ∃ X, X = cutF A c 0 := ⟨_, rfl⟩
        obtain ⟨A2, hA2⟩ : ∃ X, X = cutF A c q := ⟨_, rfl⟩
        obtain ⟨r, hr⟩ : ∃ r, r = k - q := ⟨_, rfl⟩
        obtain ⟨c2, hc2⟩ : ∃ x, x = c - q := ⟨_, rfl⟩
        have hs1 := fun w => sliceF_h A k c q w (by omega)
        have hs2 := fun w => sliceF_l A k c q r w hq hr.symm
        rw [← hA1] at hs1
        rw [← hA2, ← hc2] at hs2
        have up : ∀ W : World, Below wr.heap.size wr W → Below w.heap.size w W := fun W hb => hbw.trans (hb.mono hbw.size)
        have hat := fun (W : World) (hb : Below wr.heap.size wr W) => HA.out W (up W hb)
        have hrd := fun (W : World) (hb : Below wr.heap.size wr W) => HR.out.below (up W hb)
        have hl1 : (l.take q).length = q := by rw [List.length_take]; omega
        have hl2 : (l.drop q).length = r := by rw [List.length_drop]; omega
        have hn1 : A1 = none → c = 0 := by rw [hA1]; exact fun h => by have := cutF_none HA0.out h; omega
        have hn2 : A2 = none → c2 = 0 := by rw [hA2, hc2]; exact cutF_none HA0.out
        have h0 := fun (W : World) (hb : Below wr.heap.size wr W) => stotal_f A l k c W (hrd W hb) (hat W hb) hnl HA0.out hnc (by omega)
        have h1 := fun (W : World) (hb : Below wr.heap.size wr W) => stotal_f A1 (l.take q) q c W (hrd W hb) (by rw [hA1]; exact (hat W hb).take (by omega)) hl1 hn1 (by omega) (by omega)
        have h2 := fun (W : World) (hb : Below wr.heap.size wr W) => stotal_f A2 (l.drop q) r c2 W (hrd W hb) (by rw [hA2]; exact (hat W hb).drop (by omega)) hl2 hn2 (by omega) (by omega)
        have htf : tot (flp l k) ≤ 1000000 := by
          have : ∀ (l : List Fld) (k : Nat), tot (flp l k) = tot l := fun l => by
            induction l with
            | nil => intro k; rfl
            | cons f r ih =>
              intro k
              cases k with
              | zero => rfl
              | succ k => rw [flp, tot, tot, ih]; rfl
          rw [this]
          omega
        have h3 := fun (W : World) (hb : Below wr.heap.size wr W) => ssame_f A A5 l (flp l k) k k c c5 W (hrd W hb) (hat W hb) (hm.up hb) hnl (by rw [flp_len]; exact hnl) HA0.out HA5.out hnc HC5.out (by omega) htf (by omega) (by omega)
        have h4 := fun (W : World) (hb : Below wr.heap.size wr W) => ssame_f A A1 l (l.take q) k q c c W (hrd W hb) (hat W hb) (by rw [hA1]; exact (hat W hb).take (by omega)) hnl hl1 HA0.out hn1 hnc (by omega) (by omega) (by omega) (by omega) (by omega)
        have hfi := fun (W : World) (hb : Below wr.heap.size wr W) => first_any W (hrd W hb)
        rw [← hT] at h0 ⊢
        rw [← hT1] at h1
        rw [← hT2] at h2
        rw [sames_flp] at h3
        rw [sames_take l q (by omega), hnl] at h4
        have H0 := Lib.hid h0
        have H1 := Lib.hid h1
        have H2 := Lib.hid h2
        have H3 := Lib.hid h3
        have H4 := Lib.hid h4
        have HFI := Lib.hid hfi
        have HUP := Lib.hid up
        have eT : (T1 : Int) + (T2 : Int) = (T : Int) := by omega
        have eTw : IntKind.i64.wrap (T : Int) = (T : Int) := IntWalk.i64_in _ (by omega)
        have eTs : IntKind.i64.wrap ((T1 : Int) + (T2 : Int)) = (T : Int) := by rw [eT]; exact eTw
        have qT : ((T : Int) == (T : Int)) = true := by simp
        have hd : Below wr.heap.size wr wr.drew := (Below.refl _ _).drew
        have eqq : ((q : Int) == (k : Int)) = decide (q = k) := by
          by_cases h : q = k
          · rw [decide_eq_true h, h]; simp
          · rw [decide_eq_false h]; exact beq_eq_false_iff_ne.2 (by omega)
        generalize decide (q = k) = U at H4 eqq
        clear h0 h1 h2 h3 h4 hfi up hat hrd hm hown htf hT hT1 hT2 hA1 hA2 hl1 hl2 hn1 hn2 e hcut hnl hbw hr hc2
        go_wp2
        go_region_held3 (fun _ => True) (trivial)
          (first
            | ((with_reducible refine (HFI.out _ hd).mono ?_); rintro e v1 ⟨rfl, hx1'⟩; have hx1 := hd.trans (hx1'.mono hd.size))
            | ((with_reducible refine (H0.out _ hx1).mono ?_); rintro e v2 ⟨rfl, hx2'⟩; have hx2 := hx1.trans (hx2'.mono hx1.size))
            | ((with_reducible refine (H1.out _ hx2).mono ?_); rintro e v3 ⟨rfl, hx3'⟩; have hx3 := hx2.trans (hx3'.mono hx2.size))
            | ((with_reducible refine (H2.out _ hx3).mono ?_); rintro e v4 ⟨rfl, hx4'⟩; have hx4 := hx3.trans (hx4'.mono hx3.size))
            | ((with_reducible refine (H3.out _ hx4).mono ?_); rintro e v5 ⟨rfl, hx5'⟩; have hx5 := hx4.trans (hx5'.mono hx4.size))
            | ((with_reducible refine (H4.out _ hx5).mono ?_); rintro e v6 ⟨rfl, hx6'⟩; have hx6 := hx5.trans (hx6'.mono hx5.size)))
        go_wp2
        have hZ := HUP.out _ hx6
        go_ret
        exact ⟨by cases U <;> rfl, hZ⟩
  all_goals first | (have := HN.out; simp; omega) | (have := hb2.size; simp; omega) | simp
theorem walk (A : Option Addr) (l : List Fld) (c : Nat) (q : Int) (w : World) (hR : Rdy w) (hA : AtF w w.heap.size A l) (hA0 : A = none → c = 0) (hnc : l.length ≤ c) (hao : ∀ f ∈ l, f.name.size ≤ maxLen ∧ f.value.size ≤ maxLen) :
    Calls Try.prog 5 #[.slice A l.length c, .int .i64 q] w (Yes w) := by
  have ok : ∀ f ∈ l, f.fit := fun f hf => by
    have := hao f hf
    unfold maxLen at this
    exact ⟨by omega, by omega⟩
  cases ha : few l with
  | false => exact walk_not A l _ c q w hR hA rfl ok (.inl ha)
  | true =>
    by_cases h0 : q < 0
    · exact walk_not A l _ c q w hR hA rfl ok (.inr (.inl ⟨ha, h0⟩))
    · by_cases h1 : (l.length : Int) < q
      · exact walk_not A l _ c q w hR hA rfl ok (.inr (.inr ⟨ha, by omega, h1⟩))
      · obtain ⟨k, rfl⟩ : ∃ k : Nat, q = (k : Int) := ⟨q.toNat, by omega⟩
        exact walk_few A l _ c k w hR hA rfl hA0 hnc ha (by omega)
end statSizes
end Go.Proofs.Ytcamcfecmjoniaa
