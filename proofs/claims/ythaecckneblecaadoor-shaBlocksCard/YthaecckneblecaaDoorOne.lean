/- Contract of the reference's One: SHA-256 of the bytes. -/
import Derived.Test.YthaecckneblecaaDoorBlock
import Derived.Test.YthaecckneblecaaDoorRoot
import Derived.Test.YthaecckneblecaaDoorPrimes
import Derived.Test.YthaecckneblecaaDoorSpecOne
import Derived.Test.YthaecckneblecaaDoorApp
import Derived.Deep.RegionHeld3
namespace Go.Proofs.YthaecckneblecaaDoor
open Go.RowKit Sh

theorem Bk.below {w w' : World} {g B : Nat} {T : TypeId} {l : List Nat} (h : Bk w g T l) (hb : Below B w w') (hg : g < B) : Bk w' g T l := (hb.block g hg).trans h
/-- The two arrays, the primes beside them. -/
structure Two (w : World) (gk : Nat) (K H : List Nat) (wr : World) : Prop where
  bk : Bk wr gk 38 K
  bh : Bk wr (gk + 1) 31 H
  sz : gk + 1 < wr.heap.size
  bl : Below w.heap.size w wr
  hg : w.heap.size ≤ gk
theorem Two.call {w wr w' : World} {gk : Nat} {K H : List Nat} (f : Two w gk K H wr) (hb : Below wr.heap.size wr w') : Two w gk K H w' :=
  ⟨f.bk.below hb (by have := f.sz; omega), f.bh.below hb f.sz, Nat.lt_of_lt_of_le f.sz hb.size, f.bl.trans (hb.mono f.bl.size), f.hg⟩
theorem Two.putk {w wr : World} {gk : Nat} {K H : List Nat} (f : Two w gk K H wr) (n x : Nat) : Two w gk (K.set n x) H (wr.setCell ⟨gk, n, none⟩ (.int .u32 (x : Int))) :=
  ⟨f.bk.set n x, f.bh.far (by show gk + 1 ≠ gk; omega) _, by have := f.sz; simpa [World.setCell] using this, f.bl.setCell f.hg _, f.hg⟩
theorem Two.puth {w wr : World} {gk : Nat} {K H : List Nat} (f : Two w gk K H wr) (n x : Nat) : Two w gk K (H.set n x) (wr.setCell ⟨gk + 1, n, none⟩ (.int .u32 (x : Int))) :=
  ⟨f.bk.far (by show gk ≠ gk + 1; omega) _, f.bh.set n x, by have := f.sz; simpa [World.setCell] using this, f.bl.setCell (by show w.heap.size ≤ gk + 1; have := f.hg; omega) _, f.hg⟩
def KR (w : World) (gk : Nat) (Ap : Option Addr) (i : Value) (wr : World) : Prop := ∃ n : Nat, n ≤ 64 ∧ i = .int .i64 n ∧ Two w gk (K64.take n ++ List.replicate (64 - n) 0) (List.replicate 8 0) wr ∧ At .i64 wr gk Ap primes64
def HR (w : World) (gk : Nat) (Ap : Option Addr) (i : Value) (wr : World) : Prop := ∃ n : Nat, n ≤ 8 ∧ i = .int .i64 n ∧ Two w gk K64 (H8.take n ++ List.replicate (8 - n) 0) wr ∧ At .i64 wr gk Ap primes64
theorem root_at (p k : Nat) (i : Int) (w : World) (hi : i = (k : Int)) (hk0 : 2 ≤ k) (hk : k ≤ 3) (hp : p ≤ 1000) : Calls Tryd.prog 19 #[.int .i64 p, .int .i64 i] w (RtPost w p k) := by
  subst hi
  exact root_any p k w hk0 hk hp
theorem set_take (a : List Nat) (N n x : Nat) (hn : n < N) (ha : a.length = N) (hx : x = a.getD n 0) : (a.take n ++ List.replicate (N - n) 0).set n x = a.take (n + 1) ++ List.replicate (N - (n + 1)) 0 := by
  have hl : (a.take n).length = n := by simp; omega
  have hna : n < a.length := by omega
  have e : a.take (n + 1) = a.take n ++ [a[n]] := List.take_succ_eq_append_getElem hna
  have ex : x = a[n] := by rw [hx, List.getD, List.getElem?_eq_getElem hna]; rfl
  rw [show N - n = (N - (n + 1)) + 1 by omega, List.replicate_succ, List.set_append_right _ _ (by omega), hl, Nat.sub_self, e, List.append_assoc, ex]
  rfl
theorem At.far {k : IntKind} {w : World} {B : Nat} {A : Option Addr} {l : List Nat} (h : At k w B A l) {p : Addr} (hp : B ≤ p.block) (u : Value) : At k (w.setCell p u) B A l := fun hl => by
  obtain ⟨b, o, e, hB, hc⟩ := h hl
  exact ⟨b, o, e, hB, fun i hi => (World.cell?_setCell_other w p ⟨b, o + i, none⟩ u (by rintro rfl; simp at hp; omega)).trans (hc i hi)⟩
def mLen : Value → Nat
  | .slice _ n _ => n
  | _ => 0
def ZR (w5 : World) (l : List Nat) (v : Value) (w' : World) : Prop :=
  ∃ j : Nat, j ≤ zer l.length ∧ w'.ownsRow w5.heap.size 5 1 v (l ++ [128] ++ List.replicate j 0).length (cn .u8 (l ++ [128] ++ List.replicate j 0)) ∧ Below w5.heap.size w5 w'
def LR (w5 : World) (l : List Nat) (v i : Value) (w' : World) : Prop :=
  ∃ t : Nat, t ≤ 8 ∧ i = .int .i64 (7 - (t : Int)) ∧ w'.ownsRow w5.heap.size 5 1 v (l ++ [128] ++ List.replicate (zer l.length) 0 ++ (lenBytes l.length).take t).length (cn .u8 (l ++ [128] ++ List.replicate (zer l.length) 0 ++ (lenBytes l.length).take t)) ∧ Below w5.heap.size w5 w'
theorem size8 : (Tryd.prog.info? 31).map (·.size) = some 8 := by kernel_rfl
theorem size64 : (Tryd.prog.info? 38).map (·.size) = some 64 := by kernel_rfl
theorem load8 {w : World} {g : Nat} {H : List Nat} (h : Bk w g 31 H) (hl : H.length = 8) : (loadVar 31 ⟨g, 0, none⟩).run Tryd.prog w = .ok (.agg (cn .u32 H).toArray) w :=
  run_loadVar_row w g 31 31 _ (0, 0) _ h Tryd.underlying31 rfl (by rw [size8]; simp [cn, hl])
theorem load64 {w : World} {g : Nat} {K : List Nat} (h : Bk w g 38 K) (hl : K.length = 64) : (loadVar 38 ⟨g, 0, none⟩).run Tryd.prog w = .ok (.agg (cn .u32 K).toArray) w :=
  run_loadVar_row w g 38 38 _ (0, 0) _ h Tryd.underlying38 rfl (by rw [size64]; simp [cn, hl])
theorem own_form {w : World} {B T N : Nat} {v : Value} {xs : List Value} (h : w.ownsRow B T 1 v N xs) (hl : 0 < N) : ∃ g c, v = .slice (some ⟨g, 0, none⟩) N c ∧ B ≤ g ∧ w.ownsRow B T 1 (.slice (some ⟨g, 0, none⟩) N c) N xs := by
  rcases h.2 with ⟨_, hn⟩ | ⟨g, cap, _, hv, hB, _⟩
  · omega
  · subst hv
    exact ⟨g, cap, rfl, hB, h⟩
def MAt (wr : World) (gm : Nat) (m : List Nat) : Prop := ∀ i (h : i < m.length), wr.cell? ⟨gm, i, none⟩ = some (.int .u8 (m[i] : Int))
def BR (w : World) (gk gm : Nat) (m : List Nat) (i : Value) (wr : World) : Prop :=
  ∃ t q : Nat, q = 64 * t ∧ q ≤ m.length ∧ i = .int .i64 q ∧ Two w gk K64 (hB K64 H8 m t) wr ∧ MAt wr gm m ∧ gm < wr.heap.size
theorem MAt.call {wr w' : World} {gm : Nat} {m : List Nat} (h : MAt wr gm m) (hb : Below wr.heap.size wr w') (hg : gm < wr.heap.size) : MAt w' gm m := fun i hi => (hb.cell (p := ⟨gm, i, none⟩) hg).trans (h i hi)
theorem MAt.far {wr : World} {gm : Nat} {m : List Nat} (h : MAt wr gm m) {p : Addr} (hp : p.block ≠ gm) (u : Value) : MAt (wr.setCell p u) gm m := fun i hi =>
  (World.cell?_setCell_other wr p ⟨gm, i, none⟩ u (by rintro rfl; exact hp rfl)).trans (h i hi)
theorem MAt.part {wr : World} {gm q : Nat} {m : List Nat} (h : MAt wr gm m) (hg : gm < wr.heap.size) : At .u8 wr wr.heap.size (some ⟨gm, q, none⟩) ((m.drop q).take 64) := fun _ => by
  refine ⟨gm, q, rfl, hg, fun i hi => ?_⟩
  have hi' : q + i < m.length := by simp at hi; omega
  rw [h (q + i) hi']
  simp
theorem step_app4 {ops : Array Oper} {o : Oper} {a : Act} {w : World} {K : Act → World → Prop} {Q : Exit → Act → World → Prop} {E : Prop} (hgd : o.guard = none) (s x : Operand)
    (ho : o.op = .call { callee := .builtin .append, args := #[s, x], argTypes := #[22, 22] }) (base : Nat)
    (v : Value) (n : Nat) (l : List Nat) (hs : a.eval s = v) (hown : w.ownsRow base 5 1 v n (cn .u8 l))
    (ad : Addr) (m : List Nat) (c : Nat) (hx : a.eval x = .slice (some ad) m.length c) (hm : ∀ j u, (cn .u8 m)[j]? = some u → w.cell? (ad.add j) = some u) (hlen : n + m.length ≤ 1000000) (hbase : base ≤ w.heap.size)
    (h : ∀ v' w', w'.ownsRow base 5 1 v' (n + m.length) (cn .u8 (l ++ m)) → w.grownBy w' v.ownBlock → K (a.put o.dst v') w') :
    if Region.wanted o (yielded ops a.tmps) = true then Oper.wp Tryd.prog o a w K Q else E := by
  obtain ⟨i0, hi0, hz0, hz1, hz2⟩ := info_parts infoU8
  have hw : Region.wanted o (yielded ops a.tmps) = true := by simp [Region.wanted, hgd]
  rw [if_pos hw]
  refine wp_append_own w s x 22 ho base 5 i0 _ 1 1 Tryd.underlying22 hi0 hz0 hz1 hz2 rfl (by decide) v n (cn .u8 l) hs hown ad m.length c (cn .u8 m) hx (by simp [cn]) hm (cn_one _ _) ?_ ?_ hbase ?_
  · unfold maxLen; omega
  · omega
  · intro v' w' h1 h2 _
    rw [cn_app] at h1
    exact h v' w' h1 h2
def OR (wy : World) (H : List Nat) (v i : Value) (wr : World) : Prop :=
  ∃ n : Nat, n ≤ 8 ∧ i = .int .i64 n ∧ wr.ownsRow wy.heap.size 5 1 v (4 * n) (cn .u8 (outB (H.take n))) ∧ Below wy.heap.size wy wr
def OnePost (w : World) (s : List Nat) (e : Ending) (w' : World) : Prop := ∃ A c, e = .returned (.slice A 32 c) ∧ At .u8 w' w'.heap.size A s ∧ Below w.heap.size w w'

set_option maxRecDepth 100000 in
set_option maxHeartbeats 16000000 in
theorem one_any (A : Option Addr) (l : List Nat) (c : Nat) (w : World) (hA : At .u8 w w.heap.size A l) (hb : ∀ x ∈ l, x < 256) (hc : A = none → c = 0) (hn : l.length ≤ 5000) :
    Calls Tryd.prog 10 #[.slice A l.length c] w (OnePost w (sum l)) := by
  have HCN := Lib.hid hc
  have HBY := Lib.hid hb
  clear hc hb
  go_enter Tryd.func10, Tryd.ntmps10
  go_wp2_with fail
  with_reducible refine (primes_any w).mono ?_
  rintro e w1 ⟨Ap, cp, rfl, hp1, hb1⟩
  go_wp2
  have hT : Two w w1.heap.size (List.replicate 64 0) (List.replicate 8 0) ((w1.alloc (.cells (cn .u32 (List.replicate 64 0)).toArray 38)).alloc (.cells (cn .u32 (List.replicate 8 0)).toArray 31)) := by
    refine ⟨(Bk.new w1 _ _).alloc _ (by simp), ?_, by simp, (hb1.alloc hb1.size _).alloc (by have := hb1.size; simp; omega) _, hb1.size⟩
    have := Bk.new (w1.alloc (.cells (cn .u32 (List.replicate 64 0)).toArray 38)) 31 (List.replicate 8 0)
    simpa using this
  have hP : At .i64 ((w1.alloc (.cells (cn .u32 (List.replicate 64 0)).toArray 38)).alloc (.cells (cn .u32 (List.replicate 8 0)).toArray 31)) w1.heap.size Ap primes64 :=
    hp1.below (((Below.refl _ _).alloc (Nat.le_refl _) _).alloc (by simp) _) (Nat.le_refl _)
  change Code.wp _ _ _ _ ((w1.alloc (.cells (cn .u32 (List.replicate 64 0)).toArray 38)).alloc (.cells (cn .u32 (List.replicate 8 0)).toArray 31))
  generalize (w1.alloc (.cells (cn .u32 (List.replicate 64 0)).toArray 38)).alloc (.cells (cn .u32 (List.replicate 8 0)).toArray 31) = w3 at hT hP ⊢
  generalize w1.heap.size = gk at hT hP ⊢
  clear hp1 hb1
  go_loopw [6] (fun i wr => KR w gk Ap i wr) (fun i _ => 64 - (intOf i).toNat)
  case atStart => exact ⟨0, by omega, rfl, hT, hP⟩
  case round =>
    clear hT hP
    obtain ⟨n, hn, rfl, hT, hP⟩ := hrel
    by_cases hlt : n < 64
    · obtain ⟨pb, po, rfl, hpb, hpc⟩ := hP.pos (by decide)
      have hcp := hpc n hlt
      obtain ⟨p, hp⟩ : ∃ p, p = primes64.getD n 0 := ⟨_, rfl⟩
      have hcp' : wr.cell? ⟨pb, po + n, none⟩ = some (.int .i64 (p : Int)) := by
        rw [hcp, hp, List.getD, List.getElem?_eq_getElem (show n < primes64.length from hlt)]
        rfl
      have hp1 : p ≤ 1000 := by rw [hp]; exact primes_le ⟨n, hlt⟩
      have HPP := Lib.hid hp
      have HP := Lib.hid hP
      have HT := Lib.hid hT
      clear hcp hpc hp hP hT
      go_wp2_with fail
      with_reducible refine (root_at p 3 3 wr rfl (by omega) (by omega) hp1).mono ?_
      rintro e w2 ⟨R, hR, rfl, hb2⟩
      have HK : Hid (R % 4294967296 = K64.getD n 0) := by apply Lib.hid; rw [HPP.out] at hR; exact cube_root hlt hR.1 hR.2
      obtain ⟨x, hx⟩ : ∃ x, x = R % 4294967296 := ⟨_, rfl⟩
      rw [← hx]
      have HX := Lib.hid hx
      have hT2 := HT.out.call hb2
      have hP2 := HP.out.below hb2 (by have := HT.out.sz; omega)
      have hf := hT2.bk.free n
      obtain ⟨u, hu⟩ : ∃ u, w2.cell? ⟨gk, n, none⟩ = some u := ⟨_, hT2.bk.cell n (by rw [List.length_append, List.length_take, List.length_replicate, K64_len]; omega)⟩
      have HT2 := Lib.hid hT2
      have HP2 := Lib.hid hP2
      have i4 : (n : Int) < 64 := by omega
      clear hx hT2 hP2 hR
      go_wp2
      go_roundw
      case rel =>
        refine ⟨n + 1, by omega, by go_num, ?_, HP2.out.far (Nat.le_refl _) _⟩
        have := HT2.out.putk n x
        rw [set_take K64 64 n x hlt K64_len (by rw [HX.out, HK.out])] at this
        exact this
      case measure => simp [intOf]; omega
    · have hn64 : n = 64 := by omega
      rw [show ((n : Nat) : Int) = 64 by omega]
      subst hn64
      have hT2 : Two w gk K64 (List.replicate 8 0) wr := by
        have e : K64.take 64 ++ List.replicate (64 - 64) 0 = K64 := by rw [List.take_of_length_le (by rw [K64_len]; omega)]; simp
        rw [e] at hT
        exact hT
      clear hT
      go_wp2
      go_loopw [7] (fun i wr => HR w gk Ap i wr) (fun i _ => 8 - (intOf i).toNat)
      case atStart => exact ⟨0, by omega, rfl, hT2, hP⟩
      case round =>
        clear hT2 hP
        obtain ⟨n, hn8, rfl, hT, hP⟩ := hrel
        by_cases hlt8 : n < 8
        · obtain ⟨pb, po, rfl, hpb, hpc⟩ := hP.pos (by decide)
          have hlt64 : n < 64 := by omega
          have hcp := hpc n hlt64
          obtain ⟨p, hp⟩ : ∃ p, p = primes64.getD n 0 := ⟨_, rfl⟩
          have hcp' : wr.cell? ⟨pb, po + n, none⟩ = some (.int .i64 (p : Int)) := by
            rw [hcp, hp, List.getD, List.getElem?_eq_getElem (show n < primes64.length from hlt64)]
            rfl
          have hp1 : p ≤ 1000 := by rw [hp]; exact primes_le ⟨n, hlt64⟩
          have HPP := Lib.hid hp
          have HP := Lib.hid hP
          have HT := Lib.hid hT
          clear hcp hpc hp hP hT
          go_wp2_with fail
          with_reducible refine (root_at p 2 2 wr rfl (by omega) (by omega) hp1).mono ?_
          rintro e w2 ⟨R, hR, rfl, hb2⟩
          have HK : Hid (R % 4294967296 = H8.getD n 0) := by apply Lib.hid; rw [HPP.out] at hR; exact square_root hlt8 hR.1 hR.2
          obtain ⟨x, hx⟩ : ∃ x, x = R % 4294967296 := ⟨_, rfl⟩
          rw [← hx]
          have HX := Lib.hid hx
          have hT2 := HT.out.call hb2
          have hP2 := HP.out.below hb2 (by have := HT.out.sz; omega)
          have hf := hT2.bh.free n
          obtain ⟨u, hu⟩ : ∃ u, w2.cell? ⟨gk + 1, n, none⟩ = some u := ⟨_, hT2.bh.cell n (by rw [List.length_append, List.length_take, List.length_replicate, H8_len]; omega)⟩
          have HT2 := Lib.hid hT2
          have HP2 := Lib.hid hP2
          have i4 : (n : Int) < 8 := by omega
          clear hx hT2 hP2 hR
          go_wp2
          go_roundw
          case rel =>
            refine ⟨n + 1, by omega, by go_num, ?_, HP2.out.far (by show gk ≤ gk + 1; omega) _⟩
            have := HT2.out.puth n x
            rw [set_take H8 8 n x hlt8 H8_len (by rw [HX.out, HK.out])] at this
            exact this
          case measure => simp [intOf]; omega
        · have hn8' : n = 8 := by omega
          rw [show ((n : Nat) : Int) = 8 by omega]
          subst hn8'
          obtain ⟨wz, hwz⟩ : ∃ wz, wz = wr := ⟨_, rfl⟩
          subst hwz
          have hT3 : Two w gk K64 H8 wz := by
            have e : H8.take 8 ++ List.replicate (8 - 8) 0 = H8 := by rw [List.take_of_length_le (by rw [H8_len]; omega)]; simp
            rw [e] at hT
            exact hT
          have HT3 := Lib.hid hT3
          have hA3 := hA.below hT3.bl (Nat.le_refl _)
          have hszw := hT3.bl.size
          clear hT hT3 hP hA
          have hown0 := own_empty wz wz.heap.size (Nat.le_refl _)
          have hA4 : At .u8 (wz.alloc (.cells #[] 5)) w.heap.size A l := hA3.below ((Below.refl _ _).alloc (Nat.le_refl _) _) hszw
          go_wp2_with (first | (at_builtin; refine wpList_append_at rfl (.tmp 36) (.tmp 37) rfl wz.heap.size _ [] rfl hown0 A l _ c rfl rfl HCN.out _ hA4 ?_ ?_ ?_; (rotate_right; intro v4 w4 hown4 hg4; have hb4 : Below wz.heap.size wz w4 := ((Below.refl _ _).alloc (Nat.le_refl _) _).grown hg4 (by simp) (own_block hown0))) | (at_builtin; refine wpList_append_at rfl (.tmp 38) (.tmp 39) rfl wz.heap.size _ l rfl (hown4.alloc _) (some ⟨w4.heap.size, 0, none⟩) [128] _ 1 rfl rfl (fun h => by cases h) _ (At.new w4 [128] 5 (0, 0)) ?_ ?_ ?_; (rotate_right; intro v5 w5 hown5 hg5)))
          · have hb5 : Below wz.heap.size wz w5 := (hb4.alloc hb4.size _).grown hg5 (by have := hb4.size; simp; omega) (own_block hown4)
            clear hown0 hown4 hg4 hg5 hb4 hA4
            go_wp2
            go_loopw [8] (fun v w' => ZR wz l v w') (fun v _ => l.length + 1 + zer l.length - mLen v)
            case atStart => exact ⟨0, Nat.zero_le _, by simpa using hown5, hb5⟩
            case round =>
              clear hown5 hb5
              obtain ⟨j, hj, hown, hbel⟩ := hrel
              obtain ⟨N, hN⟩ : ∃ N, N = (l ++ [128] ++ List.replicate j 0).length := ⟨_, rfl⟩
              rw [← hN] at hown
              have hN1 : N = l.length + 1 + j := by rw [hN]; simp; omega
              obtain ⟨A6, c6, rfl⟩ := own_shape hown
              have HN := Lib.hid hN
              have HN1 := Lib.hid hN1
              have hN5 : N ≤ 5100 := by have : zer l.length < 64 := Nat.mod_lt _ (by omega); omega
              obtain ⟨i0, hi0, hz0, hz1, hz2⟩ := info_parts infoU8
              by_cases hjz : j < zer l.length
              · have hq : ((N : Int) % 64 != 56) = true := by
                  have : (l.length + 1 + j) % 64 ≠ 56 := by unfold zer at hjz; omega
                  simp
                  omega
                clear hN hN1
                go_wp2_with (at_builtin; refine wpList_append_own _ rfl _ _ 22 rfl wz.heap.size 5 i0 _ 1 1 Tryd.underlying22 hi0 hz0 hz1 hz2 rfl (by decide) _ _ _ rfl (hown.alloc _) ⟨wr.heap.size, 0, none⟩ 1 1 _ rfl rfl (cell_one_new _ _ _) ?c2 ?c3 ?c4 ?c5 ?_)
                case c2 => first | rfl | (intro u hu; simp at hu; subst hu; rfl)
                case c3 => unfold maxLen; omega
                case c4 => omega
                case c5 => have := hbel.size; simp; omega
                intro v' w2 hown3 hg3 _
                have hbelF := below_app hbel hown hg3
                obtain ⟨A7, c7, rfl⟩ := own_shape hown3
                clear hg3 hown hbel
                go_wp2
                go_roundw
                case rel =>
                  refine ⟨j + 1, by omega, ?_, hbelF⟩
                  have e : l ++ [128] ++ List.replicate (j + 1) 0 = (l ++ [128] ++ List.replicate j 0) ++ [0] := by rw [List.replicate_succ', ← List.append_assoc]
                  rw [e, ← cn_snoc, List.length_append, ← HN.out]
                  simpa using hown3
                case measure => simp [mLen]; have := HN1.out; omega
              · have hjz' : j = zer l.length := by omega
                have hq : ((N : Int) % 64 != 56) = false := by
                  have : (l.length + 1 + j) % 64 = 56 := by rw [hjz']; unfold zer; omega
                  simp
                  omega
                clear hN hN1
                subst hjz'
                obtain ⟨M0, hM0⟩ : ∃ M, M = l ++ [128] ++ List.replicate (zer l.length) 0 := ⟨_, rfl⟩
                rw [HN.out, ← hM0] at hown
                have HM0 := Lib.hid hM0
                have hML : M0.length ≤ 5100 := by rw [hM0, ← HN.out]; exact hN5
                have hq' : ((M0.length : Int) % 64 != 56) = false := by rw [hM0, ← HN.out]; exact hq
                rw [HN.out, ← hM0]
                have hL0 : LR wz l (.slice A6 M0.length c6) (.int .i64 7) wr := ⟨0, by omega, rfl, by rw [← hM0]; simpa using hown, hbel⟩
                clear hM0 hown hbel HN HN1 hN5 hq
                go_wp2
                go_loopw [8, 9] (fun v i w' => LR wz l v i w') (fun _ i _ => (intOf i + 1).toNat)
                case atStart => exact hL0
                case round =>
                  clear hL0
                  obtain ⟨t, ht, rfl, hown, hbel⟩ := hrel
                  rw [← HM0.out] at hown
                  obtain ⟨N, hN⟩ : ∃ N, N = (M0 ++ (lenBytes l.length).take t).length := ⟨_, rfl⟩
                  rw [← hN] at hown
                  have hN5 : N ≤ 5200 := by rw [hN, List.length_append, List.length_take]; omega
                  obtain ⟨A6, c6, rfl⟩ := own_shape hown
                  have HN := Lib.hid hN
                  clear hN
                  rcases (show t = 0 ∨ t = 1 ∨ t = 2 ∨ t = 3 ∨ t = 4 ∨ t = 5 ∨ t = 6 ∨ t = 7 ∨ t = 8 by omega) with rfl | rfl | rfl | rfl | rfl | rfl | rfl | rfl | rfl
                  · obtain ⟨y, hy⟩ : ∃ y, y = l.length * 8 / 72057594037927936 % 256 := ⟨_, rfl⟩
                    have ey : (l.length : Int) * 8 / 72057594037927936 = (y : Int) := by rw [hy]; omega
                    have HY := Lib.hid hy
                    clear hy
                    go_wp2_with (at_builtin; refine wpList_append_own _ rfl _ _ 22 rfl wz.heap.size 5 i0 _ 1 1 Tryd.underlying22 hi0 hz0 hz1 hz2 rfl (by decide) _ _ _ rfl (hown.alloc _) ⟨wr.heap.size, 0, none⟩ 1 1 [.int .u8 (y : Int)] rfl rfl (cell_one_new _ _ _) ?d02 ?d03 ?d04 ?d05 ?_)
                    case d02 => first | rfl | (intro u hu; simp at hu; subst hu; rfl)
                    case d03 => unfold maxLen; omega
                    case d04 => omega
                    case d05 => have := hbel.size; simp; omega
                    intro v' w2 hown3 hg3 _
                    have hbelF := below_app hbel hown hg3
                    clear hg3 hown hbel
                    go_wp2
                    go_roundw
                    case rel =>
                      refine ⟨1, by omega, by go_num, ?_, hbelF⟩
                      have e : M0 ++ (lenBytes l.length).take 1 = (M0 ++ (lenBytes l.length).take 0) ++ [y] := by rw [HY.out]; simp [lenBytes]
                      rw [← HM0.out, e, ← cn_snoc, List.length_append, ← HN.out]
                      first | exact hown3 | simpa using hown3
                    case measure => simp [intOf]
                  · obtain ⟨y, hy⟩ : ∃ y, y = l.length * 8 / 281474976710656 % 256 := ⟨_, rfl⟩
                    have ey : (l.length : Int) * 8 / 281474976710656 = (y : Int) := by rw [hy]; omega
                    have HY := Lib.hid hy
                    clear hy
                    go_wp2_with (at_builtin; refine wpList_append_own _ rfl _ _ 22 rfl wz.heap.size 5 i0 _ 1 1 Tryd.underlying22 hi0 hz0 hz1 hz2 rfl (by decide) _ _ _ rfl (hown.alloc _) ⟨wr.heap.size, 0, none⟩ 1 1 [.int .u8 (y : Int)] rfl rfl (cell_one_new _ _ _) ?d12 ?d13 ?d14 ?d15 ?_)
                    case d12 => first | rfl | (intro u hu; simp at hu; subst hu; rfl)
                    case d13 => unfold maxLen; omega
                    case d14 => omega
                    case d15 => have := hbel.size; simp; omega
                    intro v' w2 hown3 hg3 _
                    have hbelF := below_app hbel hown hg3
                    clear hg3 hown hbel
                    go_wp2
                    go_roundw
                    case rel =>
                      refine ⟨2, by omega, by go_num, ?_, hbelF⟩
                      have e : M0 ++ (lenBytes l.length).take 2 = (M0 ++ (lenBytes l.length).take 1) ++ [y] := by rw [HY.out]; simp [lenBytes]
                      rw [← HM0.out, e, ← cn_snoc, List.length_append, ← HN.out]
                      first | exact hown3 | simpa using hown3
                    case measure => simp [intOf]
                  · obtain ⟨y, hy⟩ : ∃ y, y = l.length * 8 / 1099511627776 % 256 := ⟨_, rfl⟩
                    have ey : (l.length : Int) * 8 / 1099511627776 = (y : Int) := by rw [hy]; omega
                    have HY := Lib.hid hy
                    clear hy
                    go_wp2_with (at_builtin; refine wpList_append_own _ rfl _ _ 22 rfl wz.heap.size 5 i0 _ 1 1 Tryd.underlying22 hi0 hz0 hz1 hz2 rfl (by decide) _ _ _ rfl (hown.alloc _) ⟨wr.heap.size, 0, none⟩ 1 1 [.int .u8 (y : Int)] rfl rfl (cell_one_new _ _ _) ?d22 ?d23 ?d24 ?d25 ?_)
                    case d22 => first | rfl | (intro u hu; simp at hu; subst hu; rfl)
                    case d23 => unfold maxLen; omega
                    case d24 => omega
                    case d25 => have := hbel.size; simp; omega
                    intro v' w2 hown3 hg3 _
                    have hbelF := below_app hbel hown hg3
                    clear hg3 hown hbel
                    go_wp2
                    go_roundw
                    case rel =>
                      refine ⟨3, by omega, by go_num, ?_, hbelF⟩
                      have e : M0 ++ (lenBytes l.length).take 3 = (M0 ++ (lenBytes l.length).take 2) ++ [y] := by rw [HY.out]; simp [lenBytes]
                      rw [← HM0.out, e, ← cn_snoc, List.length_append, ← HN.out]
                      first | exact hown3 | simpa using hown3
                    case measure => simp [intOf]
                  · obtain ⟨y, hy⟩ : ∃ y, y = l.length * 8 / 4294967296 % 256 := ⟨_, rfl⟩
                    have ey : (l.length : Int) * 8 / 4294967296 = (y : Int) := by rw [hy]; omega
                    have HY := Lib.hid hy
                    clear hy
                    go_wp2_with (at_builtin; refine wpList_append_own _ rfl _ _ 22 rfl wz.heap.size 5 i0 _ 1 1 Tryd.underlying22 hi0 hz0 hz1 hz2 rfl (by decide) _ _ _ rfl (hown.alloc _) ⟨wr.heap.size, 0, none⟩ 1 1 [.int .u8 (y : Int)] rfl rfl (cell_one_new _ _ _) ?d32 ?d33 ?d34 ?d35 ?_)
                    case d32 => first | rfl | (intro u hu; simp at hu; subst hu; rfl)
                    case d33 => unfold maxLen; omega
                    case d34 => omega
                    case d35 => have := hbel.size; simp; omega
                    intro v' w2 hown3 hg3 _
                    have hbelF := below_app hbel hown hg3
                    clear hg3 hown hbel
                    go_wp2
                    go_roundw
                    case rel =>
                      refine ⟨4, by omega, by go_num, ?_, hbelF⟩
                      have e : M0 ++ (lenBytes l.length).take 4 = (M0 ++ (lenBytes l.length).take 3) ++ [y] := by rw [HY.out]; simp [lenBytes]
                      rw [← HM0.out, e, ← cn_snoc, List.length_append, ← HN.out]
                      first | exact hown3 | simpa using hown3
                    case measure => simp [intOf]
                  · obtain ⟨y, hy⟩ : ∃ y, y = l.length * 8 / 16777216 % 256 := ⟨_, rfl⟩
                    have ey : (l.length : Int) * 8 / 16777216 = (y : Int) := by rw [hy]; omega
                    have HY := Lib.hid hy
                    clear hy
                    go_wp2_with (at_builtin; refine wpList_append_own _ rfl _ _ 22 rfl wz.heap.size 5 i0 _ 1 1 Tryd.underlying22 hi0 hz0 hz1 hz2 rfl (by decide) _ _ _ rfl (hown.alloc _) ⟨wr.heap.size, 0, none⟩ 1 1 [.int .u8 (y : Int)] rfl rfl (cell_one_new _ _ _) ?d42 ?d43 ?d44 ?d45 ?_)
                    case d42 => first | rfl | (intro u hu; simp at hu; subst hu; rfl)
                    case d43 => unfold maxLen; omega
                    case d44 => omega
                    case d45 => have := hbel.size; simp; omega
                    intro v' w2 hown3 hg3 _
                    have hbelF := below_app hbel hown hg3
                    clear hg3 hown hbel
                    go_wp2
                    go_roundw
                    case rel =>
                      refine ⟨5, by omega, by go_num, ?_, hbelF⟩
                      have e : M0 ++ (lenBytes l.length).take 5 = (M0 ++ (lenBytes l.length).take 4) ++ [y] := by rw [HY.out]; simp [lenBytes]
                      rw [← HM0.out, e, ← cn_snoc, List.length_append, ← HN.out]
                      first | exact hown3 | simpa using hown3
                    case measure => simp [intOf]
                  · obtain ⟨y, hy⟩ : ∃ y, y = l.length * 8 / 65536 % 256 := ⟨_, rfl⟩
                    have ey : (l.length : Int) * 8 / 65536 = (y : Int) := by rw [hy]; omega
                    have HY := Lib.hid hy
                    clear hy
                    go_wp2_with (at_builtin; refine wpList_append_own _ rfl _ _ 22 rfl wz.heap.size 5 i0 _ 1 1 Tryd.underlying22 hi0 hz0 hz1 hz2 rfl (by decide) _ _ _ rfl (hown.alloc _) ⟨wr.heap.size, 0, none⟩ 1 1 [.int .u8 (y : Int)] rfl rfl (cell_one_new _ _ _) ?d52 ?d53 ?d54 ?d55 ?_)
                    case d52 => first | rfl | (intro u hu; simp at hu; subst hu; rfl)
                    case d53 => unfold maxLen; omega
                    case d54 => omega
                    case d55 => have := hbel.size; simp; omega
                    intro v' w2 hown3 hg3 _
                    have hbelF := below_app hbel hown hg3
                    clear hg3 hown hbel
                    go_wp2
                    go_roundw
                    case rel =>
                      refine ⟨6, by omega, by go_num, ?_, hbelF⟩
                      have e : M0 ++ (lenBytes l.length).take 6 = (M0 ++ (lenBytes l.length).take 5) ++ [y] := by rw [HY.out]; simp [lenBytes]
                      rw [← HM0.out, e, ← cn_snoc, List.length_append, ← HN.out]
                      first | exact hown3 | simpa using hown3
                    case measure => simp [intOf]
                  · obtain ⟨y, hy⟩ : ∃ y, y = l.length * 8 / 256 % 256 := ⟨_, rfl⟩
                    have ey : (l.length : Int) * 8 / 256 = (y : Int) := by rw [hy]; omega
                    have HY := Lib.hid hy
                    clear hy
                    go_wp2_with (at_builtin; refine wpList_append_own _ rfl _ _ 22 rfl wz.heap.size 5 i0 _ 1 1 Tryd.underlying22 hi0 hz0 hz1 hz2 rfl (by decide) _ _ _ rfl (hown.alloc _) ⟨wr.heap.size, 0, none⟩ 1 1 [.int .u8 (y : Int)] rfl rfl (cell_one_new _ _ _) ?d62 ?d63 ?d64 ?d65 ?_)
                    case d62 => first | rfl | (intro u hu; simp at hu; subst hu; rfl)
                    case d63 => unfold maxLen; omega
                    case d64 => omega
                    case d65 => have := hbel.size; simp; omega
                    intro v' w2 hown3 hg3 _
                    have hbelF := below_app hbel hown hg3
                    clear hg3 hown hbel
                    go_wp2
                    go_roundw
                    case rel =>
                      refine ⟨7, by omega, by go_num, ?_, hbelF⟩
                      have e : M0 ++ (lenBytes l.length).take 7 = (M0 ++ (lenBytes l.length).take 6) ++ [y] := by rw [HY.out]; simp [lenBytes]
                      rw [← HM0.out, e, ← cn_snoc, List.length_append, ← HN.out]
                      first | exact hown3 | simpa using hown3
                    case measure => simp [intOf]
                  · obtain ⟨y, hy⟩ : ∃ y, y = l.length * 8 % 256 := ⟨_, rfl⟩
                    have ey : (l.length : Int) * 8 % 256 = (y : Int) := by rw [hy]; omega
                    have HY := Lib.hid hy
                    clear hy
                    go_wp2_with (at_builtin; refine wpList_append_own _ rfl _ _ 22 rfl wz.heap.size 5 i0 _ 1 1 Tryd.underlying22 hi0 hz0 hz1 hz2 rfl (by decide) _ _ _ rfl (hown.alloc _) ⟨wr.heap.size, 0, none⟩ 1 1 [.int .u8 (y : Int)] rfl rfl (cell_one_new _ _ _) ?d72 ?d73 ?d74 ?d75 ?_)
                    case d72 => first | rfl | (intro u hu; simp at hu; subst hu; rfl)
                    case d73 => unfold maxLen; omega
                    case d74 => omega
                    case d75 => have := hbel.size; simp; omega
                    intro v' w2 hown3 hg3 _
                    have hbelF := below_app hbel hown hg3
                    clear hg3 hown hbel
                    go_wp2
                    go_roundw
                    case rel =>
                      refine ⟨8, by omega, by go_num, ?_, hbelF⟩
                      have e : M0 ++ (lenBytes l.length).take 8 = (M0 ++ (lenBytes l.length).take 7) ++ [y] := by rw [HY.out]; simp [lenBytes]
                      rw [← HM0.out, e, ← cn_snoc, List.length_append, ← HN.out]
                      first | exact hown3 | simpa using hown3
                    case measure => simp [intOf]
                  · obtain ⟨m, hm⟩ : ∃ m, m = msg l := ⟨_, rfl⟩
                    have hmm : m = M0 ++ (lenBytes l.length).take 8 := by
                      rw [hm, HM0.out]
                      rfl
                    have hmN : m.length = N := by rw [hmm, HN.out]
                    rw [← hmm] at hown
                    have hm64 := msg_len l
                    have hmle := msg_len_le l
                    have hmby := msg_byte l HBY.out
                    rw [← hm] at hm64 hmle hmby
                    have hNpos : 0 < N := by rw [HN.out, List.length_append, HM0.out]; simp; omega
                    have hcap := own_cap hown
                    obtain ⟨gm, cm', hve, hgm, hown2⟩ := own_form hown hNpos
                    injection hve with hA6 _ hc6
                    subst hA6
                    subst hc6
                    have hTy : Two w gk K64 H8 wr := HT3.out.call hbel
                    have hMy : MAt wr gm m := fun i hi => by
                      rw [hown2.cellAt i (by omega)]
                      simp [cn, hi]
                    have hgk : gk + 1 < gm := by have := HT3.out.sz; omega
                    have hgl : gm < wr.heap.size := block_lt_of_cell (hMy 0 (by omega))
                    have HMM := Lib.hid hm
                    have HMN := Lib.hid hmN
                    have H64 := Lib.hid hm64
                    have HBYM := Lib.hid hmby
                    have hN5 : N ≤ 5200 := by omega
                    have hB0 : BR w gk gm m (.int .i64 0) wr := ⟨0, 0, rfl, Nat.zero_le _, rfl, hTy, hMy, hgl⟩
                    clear hm hmm hmN hm64 hmby hown hown2 hTy hMy hgl
                    go_wp2
                    go_loopw [10] (fun i w' => BR w gk gm m i w') (fun i _ => N - (intOf i).toNat)
                    case atStart => exact hB0
                    case round =>
                      clear hB0
                      obtain ⟨t, q, hq, hqm, rfl, hT, hM, hgl⟩ := hrel
                      have hqN : q ≤ N := by have := HMN.out; omega
                      by_cases hqlt : q < N
                      · have hq64 : q + 64 ≤ N := by have := HMN.out; have := H64.out; omega
                        have hl8 : (hB K64 H8 m t).length = 8 := hB_len _ _ _ H8_len t
                        obtain ⟨b0, b1, b2, b3, b4, b5, b6, b7, hbk⟩ := list8 _ (blk_len K64 (hB K64 H8 m t) ((m.drop q).take 64) hl8)
                        have HBK := Lib.hid hbk
                        have hW5 : Two w gk K64 (hB K64 H8 m t) wr.drew := ⟨hT.bk, hT.bh, hT.sz, hT.bl.drew, hT.hg⟩
                        have hM5 : MAt wr.drew gm m := hM
                        have hC : Calls Tryd.prog 20 #[.agg (cn .u32 (hB K64 H8 m t)).toArray, .agg (cn .u32 K64).toArray, .slice (some ⟨gm, q, none⟩) 64 (c6 - q)] wr.drew fun e w' => e = .returned (.agg #[.int .u32 (b0 : Int), .int .u32 (b1 : Int), .int .u32 (b2 : Int), .int .u32 (b3 : Int), .int .u32 (b4 : Int), .int .u32 (b5 : Int), .int .u32 (b6 : Int), .int .u32 (b7 : Int)]) ∧ Below wr.drew.heap.size wr.drew w' := by
                          have := block_any (hB K64 H8 m t) K64 ((m.drop q).take 64) (some ⟨gm, q, none⟩) (c6 - q) wr.drew (hM5.part hgl) (fun x hx => HBYM.out x (List.mem_of_mem_drop (List.mem_of_mem_take hx))) (by simp; have := HMN.out; omega) hl8 K64_len (hB_wd _ _ _ H8_wd t) K64_wd
                          rw [hbk] at this
                          exact this
                        have HCC := Lib.hid hC
                        have HQ := Lib.hid hq
                        have ld8 := load8 hW5.bh hl8
                        have ld64 := load64 hW5.bk K64_len
                        have LD8 := Lib.hid ld8
                        have LD64 := Lib.hid ld64
                        have HW5 := Lib.hid hW5
                        have HM5 := Lib.hid hM5
                        obtain ⟨q2, hq2⟩ : ∃ q2, q2 = q + 64 := ⟨_, rfl⟩
                        have w64 : IntKind.i64.wrap ((q : Int) + 64) = (q2 : Int) := by rw [IntWalk.i64_in _ (by omega)]; omega
                        have l1 : q ≤ q2 := by omega
                        have l2 : q2 ≤ c6 := by omega
                        have e64 : q2 - q = 64 := by omega
                        have l4 : (q : Int) ≤ (q2 : Int) := by omega
                        have l5 : (q2 : Int) ≤ (c6 : Int) := by omega
                        clear hq2
                        have l3 : ¬ c6 = q := by omega
                        clear hq hbk hC hT hM hW5 hM5 ld8 ld64 hl8
                        go_wp2
                        refine wp_region_still_tail 7 (by kernel_rfl) (by kernel_rfl) ?_
                        simp only [List.take_succ_cons, List.take_zero, List.drop_succ_cons, List.drop_zero]
                        refine wpStill_load rfl 31 _ rfl (gk + 1) rfl _ LD8.out ?_
                        refine wpStill_load rfl 38 _ rfl gk rfl _ LD64.out ?_
                        repeat still_step
                        refine wpStill_nil ?_
                        change wpList _ _ _ _ _ wr.drew
                        go_wp2_with fail
                        with_reducible refine (HCC.out).mono ?_
                        rintro e w6 ⟨rfl, hb6⟩
                        have hT6 := HW5.out.call hb6
                        have HM6 := Lib.hid (HM5.out.call hb6 hgl)
                        have hgl6 : gm < w6.heap.size := Nat.lt_of_lt_of_le hgl hb6.size
                        obtain ⟨u0, hu0⟩ : ∃ u, w6.cell? ⟨gk + 1, 0, none⟩ = some u := ⟨_, hT6.bh.cell 0 (by rw [hB_len _ _ _ H8_len]; omega)⟩
                        have hf0 := hT6.bh.free 0
                        obtain ⟨u1, hu1⟩ : ∃ u, w6.cell? ⟨gk + 1, 1, none⟩ = some u := ⟨_, hT6.bh.cell 1 (by rw [hB_len _ _ _ H8_len]; omega)⟩
                        have hf1 := hT6.bh.free 1
                        obtain ⟨u2, hu2⟩ : ∃ u, w6.cell? ⟨gk + 1, 2, none⟩ = some u := ⟨_, hT6.bh.cell 2 (by rw [hB_len _ _ _ H8_len]; omega)⟩
                        have hf2 := hT6.bh.free 2
                        obtain ⟨u3, hu3⟩ : ∃ u, w6.cell? ⟨gk + 1, 3, none⟩ = some u := ⟨_, hT6.bh.cell 3 (by rw [hB_len _ _ _ H8_len]; omega)⟩
                        have hf3 := hT6.bh.free 3
                        obtain ⟨u4, hu4⟩ : ∃ u, w6.cell? ⟨gk + 1, 4, none⟩ = some u := ⟨_, hT6.bh.cell 4 (by rw [hB_len _ _ _ H8_len]; omega)⟩
                        have hf4 := hT6.bh.free 4
                        obtain ⟨u5, hu5⟩ : ∃ u, w6.cell? ⟨gk + 1, 5, none⟩ = some u := ⟨_, hT6.bh.cell 5 (by rw [hB_len _ _ _ H8_len]; omega)⟩
                        have hf5 := hT6.bh.free 5
                        obtain ⟨u6, hu6⟩ : ∃ u, w6.cell? ⟨gk + 1, 6, none⟩ = some u := ⟨_, hT6.bh.cell 6 (by rw [hB_len _ _ _ H8_len]; omega)⟩
                        have hf6 := hT6.bh.free 6
                        obtain ⟨u7, hu7⟩ : ∃ u, w6.cell? ⟨gk + 1, 7, none⟩ = some u := ⟨_, hT6.bh.cell 7 (by rw [hB_len _ _ _ H8_len]; omega)⟩
                        have hf7 := hT6.bh.free 7
                        have HT6 := Lib.hid hT6
                        clear hT6
                        go_wp2
                        go_roundw
                        case rel =>
                          refine ⟨t + 1, q + 64, by have := HQ.out; omega, by have := HMN.out; omega, by go_num, ?_, ((((((((HM6.out.far (p := ⟨gk + 1, 0, none⟩) (show gk + 1 ≠ gm by omega) _).far (p := ⟨gk + 1, 1, none⟩) (show gk + 1 ≠ gm by omega) _).far (p := ⟨gk + 1, 2, none⟩) (show gk + 1 ≠ gm by omega) _).far (p := ⟨gk + 1, 3, none⟩) (show gk + 1 ≠ gm by omega) _).far (p := ⟨gk + 1, 4, none⟩) (show gk + 1 ≠ gm by omega) _).far (p := ⟨gk + 1, 5, none⟩) (show gk + 1 ≠ gm by omega) _).far (p := ⟨gk + 1, 6, none⟩) (show gk + 1 ≠ gm by omega) _).far (p := ⟨gk + 1, 7, none⟩) (show gk + 1 ≠ gm by omega) _), by simpa [World.setCell] using hgl6⟩
                          have hp := ((((((((HT6.out.puth 0 b0).puth 1 b1).puth 2 b2).puth 3 b3).puth 4 b4).puth 5 b5).puth 6 b6).puth 7 b7)
                          obtain ⟨z0, z1, z2, z3, z4, z5, z6, z7, hz⟩ := list8 _ (hB_len K64 H8 m H8_len t)
                          rw [hz] at hp
                          rw [hB_succ, ← HQ.out, HBK.out]
                          exact hp
                        case measure => simp [intOf]; omega
                      · obtain rfl : q = N := by omega
                        obtain ⟨H, hH⟩ : ∃ H, H = hB K64 H8 m t := ⟨_, rfl⟩
                        have hHl : H.length = 8 := by rw [hH]; exact hB_len _ _ _ H8_len t
                        have hHw : Wd H := by rw [hH]; exact hB_wd _ _ _ H8_wd t
                        rw [← hH] at hT
                        have HSUM : Hid (sum l = outB H) := by
                          apply Lib.hid
                          have e : (msg l).length / 64 = t := by rw [← HMM.out]; have := HMN.out; omega
                          rw [sum, e, hH, ← HMM.out]
                        obtain ⟨wy, hwy⟩ : ∃ wy, wy = wr := ⟨_, rfl⟩
                        subst hwy
                        have HHL := Lib.hid hHl
                        have HTF := Lib.hid hT
                        have hby := hT.bl
                        have hgy := hT.sz
                        clear hH hHl hT hM hq
                        go_wp2
                        go_loopw [11, 12] (fun v i w' => OR wy H v i w') (fun _ i _ => 8 - (intOf i).toNat)
                        case atStart => exact ⟨0, by omega, rfl, World.ownsRow_nil _ _ _ _, Below.refl _ _⟩
                        case round =>
                          obtain ⟨n, hn8, rfl, hown, hbel⟩ := hrel
                          obtain ⟨A8, c8, rfl⟩ := own_shape hown
                          by_cases hlt8 : n < 8
                          · have hnl : n < H.length := by rw [HHL.out]; exact hlt8
                            obtain ⟨x, hx⟩ : ∃ x, x = H[n] := ⟨_, rfl⟩
                            have hxw : x < 4294967296 := by rw [hx]; exact hHw _ (List.getElem_mem _)
                            have hcx : wr.drew.cell? ⟨gk + 1, n, none⟩ = some (.int .u32 (x : Int)) := by
                              rw [hx]
                              exact (hbel.cell (p := ⟨gk + 1, n, none⟩) hgy).trans (HTF.out.bh.cell n hnl)
                            have HTK : Hid (outB (H.take (n + 1)) = outB (H.take n) ++ bytes4 x) := by
                              apply Lib.hid
                              rw [List.take_succ_eq_append_getElem hnl, outB_snoc, hx]
                            obtain ⟨y0, hy0⟩ : ∃ y, y = x / 16777216 % 256 := ⟨_, rfl⟩
                            obtain ⟨y1, hy1⟩ : ∃ y, y = x / 65536 % 256 := ⟨_, rfl⟩
                            obtain ⟨y2, hy2⟩ : ∃ y, y = x / 256 % 256 := ⟨_, rfl⟩
                            obtain ⟨y3, hy3⟩ : ∃ y, y = x % 256 := ⟨_, rfl⟩
                            have r0 : IntKind.u8.wrap ((x : Int) / 16777216) = (y0 : Int) := by rw [IntKind.wrap_u8']; omega
                            have r1 : IntKind.u8.wrap ((x : Int) / 65536) = (y1 : Int) := by rw [IntKind.wrap_u8']; omega
                            have r2 : IntKind.u8.wrap ((x : Int) / 256) = (y2 : Int) := by rw [IntKind.wrap_u8']; omega
                            have r3 : IntKind.u8.wrap (x : Int) = (y3 : Int) := by rw [IntKind.wrap_u8']; omega
                            have HY4 : Hid (bytes4 x = [y0, y1, y2, y3]) := by apply Lib.hid; rw [bytes4, hy0, hy1, hy2, hy3]
                            have hown9 : wr.drew.ownsRow wy.heap.size 5 1 (.slice A8 (4 * n) c8) (4 * n) (cn .u8 (outB (H.take n))) := hown
                            have hbel9 : Below wy.heap.size wy wr.drew := hbel.drew
                            have i8 : (n : Int) < 8 := by omega
                            clear hy0 hy1 hy2 hy3 hx hown hbel
                            have hnew : ∀ j u, (cn .u8 [y0, y1, y2, y3])[j]? = some u → (wr.alloc (.cells #[.int .u8 (y0 : Int), .int .u8 (y1 : Int), .int .u8 (y2 : Int), .int .u8 (y3 : Int)] 5)).drew.cell? ((⟨wr.heap.size, 0, none⟩ : Addr).add j) = some u := new_cells wr (cn .u8 [y0, y1, y2, y3]) 5
                            have HNEW := Lib.hid hnew
                            have hownA : (wr.alloc (.cells #[.int .u8 (y0 : Int), .int .u8 (y1 : Int), .int .u8 (y2 : Int), .int .u8 (y3 : Int)] 5)).drew.ownsRow wy.heap.size 5 1 (.slice A8 (4 * n) c8) (4 * n) (cn .u8 (outB (H.take n))) := World.ownsRow.alloc (w := wr) hown9 _
                            have HOWNA := Lib.hid hownA
                            have HSZ : Hid (wy.heap.size ≤ (wr.alloc (.cells #[.int .u8 (y0 : Int), .int .u8 (y1 : Int), .int .u8 (y2 : Int), .int .u8 (y3 : Int)] 5)).drew.heap.size) := by
                              apply Lib.hid
                              have := hbel9.size
                              show wy.heap.size ≤ (wr.alloc _).heap.size
                              have e : wr.drew.heap.size = wr.heap.size := rfl
                              simp
                              omega
                            have hl4 : 4 * n + 4 ≤ 1000000 := by omega
                            have HCX := hcx
                            have hcx' : wr.cell? ⟨gk + 1, n, none⟩ = some (.int .u32 (x : Int)) := hcx
                            have hne8 : some (gk + 1) ≠ Value.ownBlock (.slice A8 (4 * n) c8) := by
                              intro e
                              have := own_block hown9 (gk + 1) e.symm
                              omega
                            have hgw : gk + 1 < wr.heap.size := Nat.lt_of_lt_of_le hgy hbel9.size
                            have HKA : Hid (∀ w9, (wr.alloc (.cells #[.int .u8 (y0 : Int), .int .u8 (y1 : Int), .int .u8 (y2 : Int), .int .u8 (y3 : Int)] 5)).drew.grownBy w9 (Value.ownBlock (.slice A8 (4 * n) c8)) → w9.cell? ⟨gk + 1, n, none⟩ = some (.int .u32 (x : Int))) := by
                              apply Lib.hid
                              intro w9 hg
                              have h1 : gk + 1 < (wr.alloc (.cells #[.int .u8 (y0 : Int), .int .u8 (y1 : Int), .int .u8 (y2 : Int), .int .u8 (y3 : Int)] 5)).drew.heap.size := by show gk + 1 < (wr.alloc (.cells #[.int .u8 (y0 : Int), .int .u8 (y1 : Int), .int .u8 (y2 : Int), .int .u8 (y3 : Int)] 5)).heap.size; simp; omega
                              rw [World.cell?_of_block (a := ⟨gk + 1, n, none⟩) (hg.block (gk + 1) h1 hne8)]
                              show (wr.alloc (.cells #[.int .u8 (y0 : Int), .int .u8 (y1 : Int), .int .u8 (y2 : Int), .int .u8 (y3 : Int)] 5)).cell? _ = _
                              rw [World.cell?_alloc_lt wr _ ⟨gk + 1, n, none⟩ hgw]
                              exact hcx'
                            clear hnew hownA hcx HCX
                            go_wp2
                            go_region_held3 (fun w' => w'.cell? ⟨gk + 1, n, none⟩ = some (.int .u32 (x : Int)))
                              (first
                                | go_keep
                                | exact hk9)
                              ((refine step_app4 (by rfl) (.tmp 82) (.tmp 102) (by rfl) wy.heap.size (.slice A8 (4 * n) c8) (4 * n) (outB (H.take n)) (by rfl) HOWNA.out ⟨wr.heap.size, 0, none⟩ [y0, y1, y2, y3] 4 (by rfl) HNEW.out hl4 HSZ.out ?_; intro v5 w9 hown5 hg5; have hk9 := HKA.out w9 hg5))
                            have hbA : Below wy.heap.size wy (wr.alloc (.cells #[.int .u8 (y0 : Int), .int .u8 (y1 : Int), .int .u8 (y2 : Int), .int .u8 (y3 : Int)] 5)).drew := hbel9.alloc hbel9.size _
                            have hb9 : Below wy.heap.size wy w9 := hbA.grown hg5 HSZ.out (own_block hown9)
                            clear hg5 hown9 hbel9 hbA
                            go_wp2
                            go_roundw
                            case rel =>
                              refine ⟨n + 1, by omega, by go_num, ?_, hb9⟩
                              rw [HTK.out, HY4.out, show 4 * (n + 1) = 4 * n + 4 by omega]
                              exact hown5
                            case measure => simp [intOf]; omega
                          · obtain rfl : n = 8 := by omega
                            go_wp2
                            go_ret
                            refine ⟨A8, c8, rfl, ?_, hby.trans (hbel.mono hby.size)⟩
                            have hF := At.of_own hown
                            rw [List.take_of_length_le (by rw [HHL.out]; omega), ← HSUM.out] at hF
                            exact hF
          all_goals first | (simp; omega) | (have := hb4.size; simp; omega) | simp
end Go.Proofs.YthaecckneblecaaDoor
