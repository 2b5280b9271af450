/- NamesBack: a walk. -/
import Derived.Test.YtljkncgbabiojaaDoorNX23
import Derived.Test.YtljkncgbabiojaaDoorConvApp
import Derived.Test.YtljkncgbabiojaaDoorArgs
namespace Go.Proofs.YtljkncgbabiojaaDoor.C23
open Go.ChangeShapes Go.WideShapes Go.ChangeAt Go.RowKit Go.Proofs.YtljkncgbabiojaaDoor.Mem Go.Proofs.YtljkncgbabiojaaDoor.El Go.Proofs.YtljkncgbabiojaaDoor.St Go.Proofs.YtljkncgbabiojaaDoor.Ri Go.Proofs.YtljkncgbabiojaaDoor.Sx Go.Proofs.YtljkncgbabiojaaDoor.Cb Go.Proofs.YtljkncgbabiojaaDoor.Ar
set_option linter.unusedVariables false
set_option linter.unusedSimpArgs false

/-- Rows of bools. -/
def BoE : Elem Bool where
  ty := 4
  size := 1
  enc z := [.bool z]
  len _ := rfl
  one := by intro a u hu; simp at hu; rw [hu]; rfl
theorem bocell {w : World} {ao : Option Addr} {L : List Bool} (h : BoE.Rd w ao L) {i : Nat} (hi : i < L.length) : ∃ b o, ao = some ⟨b, o, none⟩ ∧ b < w.heap.size ∧ w.cell? ⟨b, o + i, none⟩ = some (.bool L[i]) := by
  obtain ⟨b, o, rfl, hb, hc⟩ := h.at (List.ne_nil_of_length_pos (by omega)) (by decide)
  refine ⟨b, o, rfl, hb, ?_⟩
  have := hc i hi 0 (.bool L[i]) rfl
  have e : i * BoE.size + 0 = i := Nat.mul_one i
  rwa [e] at this
theorem OwnE_free {w : World} {g cap : Nat} {L : List UInt8} (h : OwnE w g cap L) {j : Nat} (hj : j < L.length) : w.frozen? ⟨g, j, none⟩ = false := by
  obtain ⟨cur, fz, hh, hz, hc, _, hs, ht⟩ := h
  obtain ⟨lo, hi'⟩ := fz
  simp only [World.frozen?, hh, Bool.and_eq_false_iff, decide_eq_false_iff_not]
  left
  simp only at hz
  omega
theorem OwnE_set {w : World} {g cap : Nat} {L : List UInt8} (h : OwnE w g cap L) {j : Nat} (hj : j < L.length) (d : UInt8) : OwnE (w.setCell ⟨g, j, none⟩ (.int .u8 (d.toNat : Int))) g cap (L.set j d) := by
  obtain ⟨cur, fz, hh, hz, hc, hm, hs, ht⟩ := h
  refine ⟨cur.setIfInBounds j (.int .u8 (d.toNat : Int)), fz, block_set hh _ _, by simpa using hz, by simpa using hc, hm, by simpa using hs, ?_⟩
  simp only [Array.toList_setIfInBounds, List.length_set]
  rw [List.take_set, ht]
  simp [bcells, List.map_set]
theorem OwnE_kept {w w' : World} {g cap : Nat} {L : List UInt8} (h : OwnE w g cap L) (hg : w.grownBy w' none) : OwnE w' g cap L := by
  obtain ⟨cur, fz, hh, r⟩ := h
  exact ⟨cur, fz, by rw [hg.block g (lt_of_block hh) (by simp)]; exact hh, r⟩
theorem OwnE_lt {w : World} {g cap : Nat} {L : List UInt8} (h : OwnE w g cap L) : g < w.heap.size := by
  obtain ⟨cur, fz, hh, r⟩ := h
  exact lt_of_block hh
theorem OwnE_cap {w : World} {g cap : Nat} {L : List UInt8} (h : OwnE w g cap L) : L.length ≤ cap ∧ cap ≤ 9223372036854775807 := by
  obtain ⟨cur, fz, hh, hz, hc, hm, r⟩ := h
  exact ⟨hc, by simpa [maxLen] using hm⟩
theorem bytes_at {w : World} {ao : Option Addr} {L : List UInt8} (h : Bytes w ao L) {j : Nat} (hj : j < L.length) : ∃ b o, ao = some ⟨b, o, none⟩ ∧ w.cell? ⟨b, o + j, none⟩ = some (.int .u8 (L[j].toNat : Int)) := by
  rcases h with ⟨_, h⟩ | ⟨a, rfl, hc⟩
  · subst h; simp at hj
  · obtain ⟨b, o, sp⟩ := a
    have h0 := hc 0 (by omega)
    have hs : sp = none := by simpa [Addr.add] using World.cell?_spot h0
    subst hs
    have h1 := hc j hj
    rw [addr_add] at h1
    exact ⟨b, o, rfl, h1⟩
theorem head_at (X : List (List UInt8)) (h : 0 < X.length) : X[0] = X.headD [] := by
  cases X with
  | nil => simp at h
  | cons a b => rfl
theorem large_set {Y x : List UInt8} (h : large Y = x) {j : Nat} (hj : j < Y.length) {d : UInt8} (hd : lg d = lg Y[j]) : large (Y.set j d) = x := by
  rw [← h]
  unfold large
  rw [List.map_set, hd]
  have e : lg Y[j] = (Y.map lg)[j]'(by rw [List.length_map]; exact hj) := (List.getElem_map _).symm
  rw [e, List.set_getElem_self]
theorem lg_up {c d : UInt8} (h1 : 65 ≤ c.toNat) (h2 : c.toNat ≤ 90) (hd : d.toNat = c.toNat + 32) : lg d = lg c := by
  unfold lg
  rw [if_pos (by omega), if_neg (by omega), hd, Nat.add_sub_cancel]
  exact UInt8.ofNat_toNat
set_option maxRecDepth 100000 in
set_option maxHeartbeats 8000000 in
theorem back_walk {P : World → Prop} (C : ConD P) (k0 : Int) (hk0 : I64 k0) (t i : Bool) (tso : Option Addr) (tc : Nat) (TS : List Bool) (w : World) (hw : P w) (hT : BoE.Rd w tso TS) (hT1 : TS.length ≤ tc) (hT2 : tc ≤ 9223372036854775807) : Calls Tryd.prog 4 #[.int .i64 k0, .bool t, .bool i, .slice tso TS.length tc] w fun e w' => e = .returned (.bool true) ∧ w.grownBy w' none := by
  obtain ⟨r, hr, hrl⟩ := mod_fit k0 56 (by omega) (by omega)
  replace hr : wrap64 ((IntKind.u64.wrap k0).tmod 56) = (r : Int) := hr
  have hrT : r < alT.length := by rw [alT_len]; exact hrl
  obtain ⟨z, hz⟩ : ∃ z, Hid (((alT[r]).1 : Int) = z) := ⟨_, Hid.mk' rfl⟩
  obtain ⟨X, hX⟩ : ∃ X, Hid ((alT[r]).2 = X) := ⟨_, Hid.mk' rfl⟩
  have hpT := Hid.mk' (List.getElem_mem hrT)
  have hat := Hid.mk' (al_at _ hpT.out)
  have hz64 : I64 z := by rw [← hz.out]; have := hat.out.2.2.1; unfold I64; omega
  have hXz : Hid (al z = X) := Hid.mk' (by rw [← hz.out, ← hX.out]; exact hat.out.1)
  have hXl : X.length ≤ 5 := by rw [← hXz.out]; exact (al_short z).1
  have hXn : Hid (X ≠ []) := Hid.mk' (by rw [← hX.out]; exact hat.out.2.1)
  have a0 := Hid.mk' (fun w hw => works_any C w hw)
  have a1 := Hid.mk' (fun w hw => C.kinds w hw)
  obtain ⟨ps, hps⟩ : ∃ s, Hid (str (prt z t i) = s) := ⟨_, Hid.mk' rfl⟩
  have a2 : Hid (∀ w, P w → Calls Tryd.prog 8 #[.agg (wC z t i)] w fun e w' => e = .returned (.string ps) ∧ w.grownBy w' none) := Hid.mk' (fun w hw => by have h := C.print z hz64 t i w hw; rwa [hps.out] at h)
  have a3 : Hid (∀ w, P w → Calls Tryd.prog 6 #[.string ps] w fun e w' => e = .returned (.tuple #[.agg (wC z t i), .int .i64 0]) ∧ w.grownBy w' none) := Hid.mk' (fun w hw => by
    have hpl : (prt z t i).length ≤ 100 := by
      unfold prt
      have := nm_len z
      split
      · simp
      · cases t <;> cases i <;> simp <;> omega
    have h := C.parse (prt z t i) (by omega) w hw
    rw [hps.out] at h
    have e : prs (prt z t i) = (z, t, i, 0) := by rw [← hz.out]; exact prt_back _ hpT.out t i
    rw [e] at h
    exact h)
  have a4 : Hid (∀ w, P w → Calls Tryd.prog 12 #[.int .i64 z] w fun e w' => STold w X e w') := Hid.mk' (fun w hw => by have h := C.alias z hz64 w hw; rwa [hXz.out] at h)
  obtain ⟨sx0, hsx0⟩ : ∃ s, Hid (str (nm z) = s) := ⟨_, Hid.mk' rfl⟩
  have a5 : Hid (∀ w, P w → Calls Tryd.prog 14 #[.int .i64 z] w fun e w' => e = .returned (.string sx0) ∧ w.grownBy w' none) := Hid.mk' (fun w hw => by have h := C.name z hz64 w hw; rwa [hsx0.out] at h)
  have a6 : Hid (∀ y, large y ∈ X → ∀ w, P w → Calls Tryd.prog 13 #[.iface 9 (.string (str y))] w fun e w' => e = .returned (.tuple #[.int .i64 z, .int .i64 0]) ∧ w.grownBy w' none) := Hid.mk' (fun y hy w hw => by
    obtain ⟨h1, h2, h3⟩ := any_letters hpT.out (x := large y) (by rw [hX.out]; exact hy) rfl
    have h := C.looks y (by omega) w hw
    have h5 := hat.out.2.2.2.1
    rw [h1, hz.out] at h
    unfold lkE at h
    rw [if_neg (by omega)] at h
    exact h)
  have a7 : Hid (∀ y, large y ∈ X → ∀ w, P w → Calls Tryd.prog 6 #[.string (str y)] w fun e w' => e = .returned (.tuple #[.agg (wC z false false), .int .i64 0]) ∧ w.grownBy w' none) := Hid.mk' (fun y hy w hw => by
    obtain ⟨h1, h2, h3⟩ := any_letters hpT.out (x := large y) (by rw [hX.out]; exact hy) rfl
    have h := C.parse y (by omega) w hw
    rw [h2, hz.out] at h
    exact h)
  have hup : Hid (∀ x ∈ X, large x = x ∧ x.length ≤ 20) := Hid.mk' (fun x hx => by
    rw [← hX.out] at hx
    exact ⟨(al_upper _ hpT.out x hx).1, (hat.out.2.2.2.2.1 x hx).2⟩)
  have hKI : Hid (kdI[r]'(by rw [kdI_len]; exact hrl) = z) := Hid.mk' (by rw [← hz.out]; exact kdI_at hrT)
  have K := Hid.mk' (fun (a b : World) (h : P a) (g : a.grownBy b none) => C.keep h g)
  have hq := Hid.mk' hw
  have hTS := Hid.mk' hT
  obtain ⟨tl, htl⟩ : ∃ n, Hid (TS.length = n) := ⟨_, Hid.mk' rfl⟩
  have hT1' : tl ≤ tc := by rw [← htl.out]; exact hT1
  rw [htl.out]
  clear C hw hT hpT hat hX hT1
  go_enter Tryd.func4, Tryd.ntmps4
  go_upto_region 3 with (go_at_call 10; refine (a0.out _ hq.out).mono ?_; rintro e w1 ⟨rfl, hg1⟩; have hP1 := Hid.mk' (K.out _ _ hq.out hg1))
  go_upto_region 4 with (go_at_call 11; refine (a1.out _ hP1.out).mono ?_; rintro e w2 ⟨ko, kc, rfl, oK, hg2, fK⟩)
  have hG2 := Hid.mk' (gt hg1 hg2)
  obtain ⟨kb, kof, rfl, hkb, x0⟩ := icell oK.rd (i := r) (by rw [kdI_len]; exact hrl)
  rw [hKI.out] at x0
  have hr1 : (r : Int) < 56 := by omega
  have hr2 : (0 : Int) ≤ (r : Int) := by omega
  have q0 : 56 ≤ kc := by have := oK.cap_le; rw [kdI_len] at this; exact this
  have q00 := oK.cap_max
  clear oK hg1 hg2 fK hKI hz hrT a0 a1
  go_upto_region 7 with fail
  clear x0
  go_upto_region 8 with (first
    | (refine wpList_allocC _ rfl 24 rfl (wC 0 false false) (zeroWp _) ?_; intro w3 va3 hg3)
    | (refine wpList_storeC _ rfl 24 _ _ rfl w2.heap.size (wC 0 false false) (wC z t i) infoWp rfl (wC_one _ _ _) rfl rfl va3 ?_; intro w4 va4 hg4))
  have hG4 := Hid.mk' (grownBy_new (gt hG2.out hg3) hg4 (fun q hq => by have h5 := Option.some.inj hq; have h6 := hG2.out.size; omega))
  obtain ⟨V, hV⟩ : ∃ Y, Hid (w2.heap.size = Y) := ⟨_, Hid.mk' rfl⟩
  rw [hV.out] at va4
  rw [hV.out]
  have hP4 := Hid.mk' (K.out _ _ hq.out hG4.out)
  clear hg3 hg4 va3
  go_upto_region 9 with (first
    | (refine wpList_loadC _ rfl 24 _ rfl _ Tryd.underlying24 rfl V (wC z t i) infoWp rfl va4 ?_)
    | (go_at_call 8; refine (a2.out _ hP4.out).mono ?_; rintro e w5 ⟨rfl, hg5⟩; have hP5 := Hid.mk' (K.out _ _ hP4.out hg5))
    | (go_at_call 6; refine (a3.out _ hP5.out).mono ?_; rintro e w6 ⟨rfl, hg6⟩)
    | (refine wpList_allocC _ rfl 24 rfl (wC 0 false false) (zeroWp _) ?_; intro w7 va7 hg7)
    | (refine wpList_storeC _ rfl 24 _ _ rfl w6.heap.size (wC 0 false false) (wC z t i) infoWp rfl (wC_one _ _ _) rfl rfl va7 ?_; intro w8 va8 hg8))
  have vv := (((va4.kept0 hg5).kept0 hg6).kept0 hg7).kept hg8 (by have := va4.lt; have := (gt hg5 hg6).size; intro e; have h5 := Option.some.inj e; omega)
  have hG8 := Hid.mk' (grownBy_new (gt hG4.out (gt (gt hg5 hg6) hg7)) hg8 (fun q hq => by have h5 := Option.some.inj hq; have h6 := (gt hG4.out (gt hg5 hg6)).size; omega))
  have c0 := vv.cell 0 rfl
  have c1 := vv.cell 1 rfl
  have c2 := vv.cell 2 rfl
  have d0 := va8.cell 0 rfl
  have d1 := va8.cell 1 rfl
  have d2 := va8.cell 2 rfl
  have hP8 := Hid.mk' (K.out _ _ hq.out hG8.out)
  clear hg5 hg6 hg7 hg8 va7 va4 vv va8 hP5
  go_upto_region 11 with fail
  clear c0 c1 c2 d0 d1 d2
  go_upto_region 13 with (go_at_call 12; refine (a4.out _ hP8.out).mono ?_; rintro e w9 ⟨xo', xc, rfl, oX, hg9, fX⟩)
  obtain ⟨xg, rfl, hxl, hfr, hcl⟩ := oX.at hXn.out
  have rX := Hid.mk' oX.rd
  have q1 := oX.cap_le
  have q2 := oX.cap_max
  have hG9 := Hid.mk' (gt hG8.out hg9)
  have hP9 := Hid.mk' (K.out _ _ hP8.out hg9)
  have rT := Hid.mk' (hTS.out.kept0 hG9.out)
  have hS : Hid (∀ wx, w9.grownBy wx none → (fun w' : World => w'.cell? ⟨xg, 0, none⟩ = some (.string sx0)) wx) := Hid.mk' (fun wx hg => by
    have h := hg.cell (hcl 0 (List.length_pos_iff.2 hXn.out) 0 _ rfl) (by simp)
    have e : X[0]'(List.length_pos_iff.2 hXn.out) = nm z := by
      unfold nm
      rw [hXz.out]
      exact head_at X _
    rw [e, hsx0.out] at h
    exact h)
  obtain ⟨nX, hnX⟩ : ∃ n, Hid (X.length = n) := ⟨_, Hid.mk' rfl⟩
  rw [hnX.out] at q1 hXl
  rw [hnX.out]
  clear oX hg9 fX hcl hfr a2 a3 a4
  go_loopw [14] (fun t14 wx => ∃ j : Nat, j ≤ nX ∧ t14 = .int .i64 (j : Int) ∧ Hid (w9.grownBy wx none)) (fun t14 _ => nX - (intOf t14).toNat)
  case atStart => exact ⟨0, by omega, rfl, Hid.mk' (grownBy_refl _ _)⟩
  case round =>
    obtain ⟨j, hj, rfl, hgx⟩ := hrel
    by_cases hlt : j < nX
    · have hjX : j < X.length := by rw [hnX.out]; exact hlt
      have hlt' : (j : Int) < (nX : Int) := by omega
      have hj0 : (0 : Int) ≤ (j : Int) := by omega
      obtain ⟨xb', xo2, e', hxb', x0⟩ := stcell (rX.out.kept0 hgx.out) hjX
      cases e'
      rw [Nat.zero_add] at x0
      obtain ⟨x, hx⟩ : ∃ x, Hid (X[j] = x) := ⟨_, Hid.mk' rfl⟩
      rw [hx.out] at x0
      have hxX : Hid (x ∈ X) := Hid.mk' (by rw [← hx.out]; exact List.getElem_mem hjX)
      have hx20 : x.length ≤ 20 := (hup.out x hxX.out).2
      obtain ⟨c10, w10, hcv, oE0, hg10⟩ := conv_own (P := Tryd.prog) wr 9 40 (str x) Tryd.underlying9 Tryd.underlying40 Tryd.underlying5 (by rw [str_size]; omega)
      rw [str_data] at hcv oE0
      have oE := Hid.mk' oE0
      have hG10 := Hid.mk' (gt hgx.out hg10)
      have qc := OwnE_cap oE0
      obtain ⟨qc1, qc2⟩ := qc
      clear oE0 hg10 hx hjX
      go_upto_region 17 with fail
      clear x0 hcv
      obtain ⟨bg, hbg⟩ : ∃ b, Hid (wr.heap.size = b) := ⟨_, Hid.mk' rfl⟩
      have hbg9 : Hid (w9.heap.size ≤ bg) := Hid.mk' (by rw [← hbg.out]; exact hgx.out.size)
      rw [hbg.out] at oE
      rw [hbg.out]
      obtain ⟨nx, hnx⟩ : ∃ n, Hid (x.length = n) := ⟨_, Hid.mk' rfl⟩
      rw [hnx.out] at qc1 hx20
      rw [hnx.out]
      go_loopw [16] (fun t16 wx => ∃ (k : Nat) (Y : List UInt8), k ≤ nx ∧ t16 = .int .i64 (k : Int) ∧ Hid (OwnE wx bg c10 Y) ∧ Hid (large Y = x ∧ Y.length = nx) ∧ Hid (w9.grownBy wx none)) (fun t16 _ => nx - (intOf t16).toNat)
      case atStart => exact ⟨0, x, by omega, rfl, oE, Hid.mk' ⟨(hup.out x hxX.out).1, hnx.out⟩, hG10⟩
      case round =>
        obtain ⟨k, Y, hk, rfl, oY, hY, hgy⟩ := hrel
        by_cases hkl : k < nx
        · have hkY : k < Y.length := by rw [hY.out.2]; exact hkl
          have hkl' : (k : Int) < (nx : Int) := by omega
          have hk0' : (0 : Int) ≤ (k : Int) := by omega
          obtain ⟨c, hc⟩ : ∃ c, Hid (Y[k] = c) := ⟨_, Hid.mk' rfl⟩
          obtain ⟨b', o', e', y0a⟩ := bytes_at oY.out.bytes hkY
          cases e'
          have y0 : wr.cell? ⟨bg, k, none⟩ = some (.int .u8 (c.toNat : Int)) := by rw [Nat.zero_add, hc.out] at y0a; exact y0a
          have z0 := OwnE_free oY.out hkY
          have hc8 := c.toNat_lt
          clear y0a
          by_cases h1 : 65 ≤ c.toNat
          · have f1 : decide (65 ≤ (c.toNat : Int)) = true := by simp; omega
            by_cases h2 : c.toNat ≤ 90
            · have f2 : decide ((c.toNat : Int) ≤ 90) = true := by simp; omega
              by_cases h3 : k < tl
              · have f3 : decide ((k : Int) < (tl : Int)) = true := by simp; omega
                have h3' : (k : Int) < (tl : Int) := by omega
                have hkT : k < TS.length := by rw [htl.out]; exact h3
                obtain ⟨tb, tof, rfl, htb, t0⟩ := bocell (rT.out.kept0 hgy.out) hkT
                obtain ⟨bv, hbv⟩ : ∃ b, Hid (TS[k] = b) := ⟨_, Hid.mk' rfl⟩
                rw [hbv.out] at t0
                clear hbv hkT
                cases bv with
                | true =>
                  obtain ⟨d, hd⟩ : ∃ d, Hid (UInt8.ofNat (c.toNat + 32) = d) := ⟨_, Hid.mk' rfl⟩
                  have hdn : d.toNat = c.toNat + 32 := by rw [← hd.out, UInt8.toNat_ofNat']; omega
                  have e1 : (c.toNat : Int) + 32 = (d.toNat : Int) := by omega
                  have e2 : (d.toNat : Int) < 256 := by omega
                  have hlgd := Hid.mk' (lg_up h1 h2 hdn)
                  have hdn' := Hid.mk' hdn
                  clear hd hdn h1 h2
                  go_wp2
                  go_roundw
                  case rel => exact ⟨k + 1, Y.set k d, by omega, by go_num, Hid.mk' (OwnE_set oY.out hkY d), Hid.mk' ⟨large_set hY.out.1 hkY (by rw [hc.out]; exact hlgd.out), by rw [List.length_set]; exact hY.out.2⟩, Hid.mk' (grownBy_new hgy.out (grownBy_setCell _ ⟨bg, k, none⟩ _) (fun q hq => by have h5 := Option.some.inj hq; have h6 := hbg9.out; simp at h5; omega))⟩
                  all_goals (simp [intOf] <;> omega)
                | false =>
                  clear h1 h2
                  go_wp2
                  go_roundw
                  case rel => exact ⟨k + 1, Y, by omega, by go_num, oY, hY, hgy⟩
                  all_goals (simp [intOf] <;> omega)
              · have f3 : decide ((k : Int) < (tl : Int)) = false := by simp; omega
                clear h1 h2
                go_wp2
                go_roundw
                case rel => exact ⟨k + 1, Y, by omega, by go_num, oY, hY, hgy⟩
                all_goals (simp [intOf] <;> omega)
            · have f2 : decide ((c.toNat : Int) ≤ 90) = false := by simp; omega
              clear h1 h2
              go_wp2
              go_roundw
              case rel => exact ⟨k + 1, Y, by omega, by go_num, oY, hY, hgy⟩
              all_goals (simp [intOf] <;> omega)
          · have f1 : decide (65 ≤ (c.toNat : Int)) = false := by simp; omega
            clear h1
            go_wp2
            go_roundw
            case rel => exact ⟨k + 1, Y, by omega, by go_num, oY, hY, hgy⟩
            all_goals (simp [intOf] <;> omega)
        · obtain rfl : k = nx := by omega
          have hPy := Hid.mk' (K.out _ _ hP9.out hgy.out)
          have hYX : Hid (large Y ∈ X) := Hid.mk' (by rw [hY.out.1]; exact hxX.out)
          have hcv1 := conv oY.out.bytes 40 9 c10 Tryd.underlying40 Tryd.underlying5 Tryd.underlying9
          rw [hY.out.2] at hcv1
          go_upto_region 22 with (go_at_call 13; refine (a6.out Y hYX.out _ hPy.out).mono ?_; rintro e w11 ⟨rfl, hg11⟩; have hP11 := Hid.mk' (K.out _ _ hPy.out hg11))
          have hcv2 := conv (oY.out.bytes.kept0 hg11) 40 9 c10 Tryd.underlying40 Tryd.underlying5 Tryd.underlying9
          rw [hY.out.2] at hcv2
          clear hcv1
          go_upto_region 23 with (first
            | (go_at_call 6; refine (a7.out Y hYX.out _ hP11.out).mono ?_; rintro e w12 ⟨rfl, hg12⟩)
            | (refine wpList_allocC _ rfl 24 rfl (wC 0 false false) (zeroWp _) ?_; intro w13 va13 hg13)
            | (refine wpList_storeC _ rfl 24 _ _ rfl w12.heap.size (wC 0 false false) (wC z false false) infoWp rfl (wC_one _ _ _) rfl rfl va13 ?_; intro w14 va14 hg14))
          have hG14 := Hid.mk' (grownBy_new (gt hgy.out (gt hg11 (gt hg12 hg13))) hg14 (fun q hq => by have h5 := Option.some.inj hq; have h6 := (gt hgy.out (gt hg11 hg12)).size; omega))
          have c0 := va14.cell 0 rfl
          have c1 := va14.cell 1 rfl
          have c2 := va14.cell 2 rfl
          clear hcv2 hg11 hg12 hg13 hg14 va13 va14
          go_upto_region 25 with fail
          clear c0 c1 c2
          have hgd : Hid (w9.grownBy w14.drew none) := Hid.mk' (grownBy_drew hG14.out)
          have hS0 := hS.out _ hgd.out
          have hPd := Hid.mk' (K.out _ _ hP9.out hgd.out)
          have n0 : (0 : Int) < (nX : Int) := by omega
          have n1 : 0 < nX := by omega
          refine wp_region_held_drew (S := fun w' : World => w'.cell? ⟨xg, 0, none⟩ = some (.string sx0)) (by kernel_rfl) hS0 (fun hHeld => ?_)
          refine wpAnyH_take (i := 0) (v := ?_) rfl (by kernel_rfl) (by kernel_rfl) (by kernel_rfl) (fun _ _ _ h => h) (Or.inl ⟨by rfl, ?_⟩) (by assumption) ?_; rotate_left
          · (intro w hSw; (try dsimp only at hSw); go_simp; try with_reducible rfl)
          try simp only [List.getElem_toArray, List.getElem_cons_zero, Act.put, List.setIfInBounds_toArray, List.set_cons_zero, List.set_cons_succ]
          refine wpAnyH_take (i := 2) (v := ?_) rfl (by kernel_rfl) (by kernel_rfl) (by kernel_rfl) (fun _ _ _ h => h) (Or.inl ⟨by rfl, ?_⟩) (by assumption) ?_; rotate_left
          · (intro w hSw; (try dsimp only at hSw); go_simp; try with_reducible rfl)
          try simp only [List.getElem_toArray, List.getElem_cons_zero, List.getElem_cons_succ, Act.put, List.setIfInBounds_toArray, List.set_cons_zero, List.set_cons_succ]
          refine wpAnyH_take (i := 3) (v := ?_) rfl (by kernel_rfl) (by kernel_rfl) (by kernel_rfl) (fun _ _ _ h => h) (Or.inl ⟨by rfl, ?_⟩) (by assumption) ?_; rotate_left
          · (intro w hSw; (try dsimp only at hSw); go_simp; try with_reducible rfl)
          try simp only [List.getElem_toArray, List.getElem_cons_zero, List.getElem_cons_succ, Act.put, List.setIfInBounds_toArray, List.set_cons_zero, List.set_cons_succ]
          refine wpAnyH_take (i := 4) (v := ?_) rfl (by kernel_rfl) (by kernel_rfl) (by kernel_rfl) (fun _ _ _ h => h) (Or.inl ⟨by rfl, ?_⟩) (by assumption) ?_; rotate_left
          · (intro w hSw; (try dsimp only at hSw); go_simp; try with_reducible rfl)
          try simp only [List.getElem_toArray, List.getElem_cons_zero, List.getElem_cons_succ, Act.put, List.setIfInBounds_toArray, List.set_cons_zero, List.set_cons_succ]
          refine wpAnyH_ready (rs := [1]) (by kernel_rfl) (by simp) ?_
          refine AllReadyH.cons rfl (fun K hK => ?_) AllReadyH.nil
          go_simp
          refine (a5.out _ hPd.out).mono ?_; rintro e w15 ⟨rfl, hg⟩; have hG15 : Hid (w9.grownBy w15 none) := Hid.mk' (gt hgd.out hg); try dsimp only
          refine hK.out _ _ (hS.out w15 hG15.out) (fun hHeld => ?_)
          clear hK K
          try simp only [List.getElem_toArray, List.getElem_cons_zero, List.getElem_cons_succ, Act.put, List.setIfInBounds_toArray, List.set_cons_zero, List.set_cons_succ]
          refine wpAnyH_take (i := 5) (v := ?_) rfl (by kernel_rfl) (by kernel_rfl) (by kernel_rfl) (fun _ _ _ h => h) (Or.inl ⟨by rfl, ?_⟩) (by assumption) ?_; rotate_left
          · (intro w hSw; (try dsimp only at hSw); go_simp; try with_reducible rfl)
          try simp only [List.getElem_toArray, List.getElem_cons_zero, List.getElem_cons_succ, Act.put, List.setIfInBounds_toArray, List.set_cons_zero, List.set_cons_succ]
          refine wpAnyH_done (by kernel_rfl) ?_ _
          clear hHeld hS0
          have f9 : (sx0.toList == sx0.toList) = true := by simp
          go_wp2
          go_roundw
          case rel => exact ⟨j + 1, by omega, by go_num, hG15⟩
          all_goals (simp [intOf] <;> omega)
    · obtain rfl : j = nX := by omega
      obtain ⟨m, hm⟩ : ∃ m, Hid (j = m + 1) := ⟨j - 1, Hid.mk' (by have h5 := List.length_pos_iff.2 hXn.out; have h6 := hnX.out; omega)⟩
      rw [hm.out]
      go_wp2
      go_ret
      exact ⟨by simp, gt hG9.out hgx.out⟩
end Go.Proofs.YtljkncgbabiojaaDoor.C23
