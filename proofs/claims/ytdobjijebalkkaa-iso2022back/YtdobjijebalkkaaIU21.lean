/- The document's Get of layer 21, whole. -/
import Derived.Test.YtdobjijebalkkaaIJ21
import Derived.Test.YtdobjijebalkkaaIK21
namespace Go.Proofs.Ytdobjijebalkkaa.C21
open Go.ChangeShapes Go.WideShapes Go.ChangeAt Go.RowKit Go.Proofs.Ytdobjijebalkkaa.Mem Go.Proofs.Ytdobjijebalkkaa.Cb Go.Proofs.Ytdobjijebalkkaa.Sp
set_option linter.unusedVariables false
set_option linter.unusedSimpArgs false

set_option maxRecDepth 100000 in
set_option maxHeartbeats 1000000 in
theorem g_kind (k md bi ac he : Int) (hk : Hid (has k = false)) (ao : Option Addr) (len cap : Nat) (w : World) : Calls Try.prog 9 #[.int .i64 k, stV md bi ac he, .slice ao len cap] w fun e w' => e = .returned (.agg (gM 5 0 0 0 0)) ∧ w.grownBy w' none := by
  go_enter Try.func9, Try.ntmps9
  go_upto_region 1 with (first
    | (refine wpList_boxC _ rfl 24 _ rfl (sC md bi ac he) rfl ?_; intro w1 ss1 hg1)
    | (refine wpList_allocC _ rfl 28 rfl (gZ 0 0 0 0) (zeroG _) ?_; intro w2 rs2 hg2))
  have hG2 : Hid (w.grownBy w2 none) := Hid.mk' (gt hg1 hg2)
  have ss2 := ss1.kept0 hg2
  have hB2 : Hid (w.heap.size ≤ w1.heap.size) := Hid.mk' hg1.size
  clear hg1 hg2 ss1
  generalize w1.heap.size = B at *
  obtain ⟨SB, hSB⟩ : ∃ SB, Hid (w.heap.size = SB) := ⟨_, Hid.mk' rfl⟩
  rw [hSB.out] at ss2
  rw [hSB.out]
  have s0 := ss2.cell 0 rfl
  go_wp2_with (first
    | (go_at_call 11; refine (hasRef k false hk _).mono ?_; rintro e w3 ⟨rfl, hg⟩; have rs3 := rs2.kept0 hg; have ss3 := ss2.kept0 hg; have hG3 : Hid (w.grownBy w3 none) := Hid.mk' (gt hG2.out hg); clear s0; have s0 := ss3.cell 0 rfl; clear rs2 hg ss2)
    | (refine wpList_loadC _ rfl 24 _ rfl _ Try.underlying24 rfl SB (sC md bi ac he) infoS rfl (by first | exact ss3 | exact ss2) ?_)
    | (refine wpList_storeC _ rfl 28 _ _ rfl B (gZ 0 0 0 0) (gM 5 0 0 0 0) infoG rfl (gC_one _ _ _ _ _ _ _ _ _) rfl rfl rs3 ?_; intro wz rsz hgz))
  refine bodyPost_ret (v := .agg (gM 5 0 0 0 0)) (results_cell_row Try.results9 _ wz B 28 _ (0, 0) _ rfl rsz Try.underlying28 rfl infoG) rfl ⟨rfl, ?_⟩
  exact grownBy_new hG3.out hgz (fun k hk => by have h5 := Option.some.inj hk; have h6 := hB2.out; omega)
set_option maxRecDepth 100000 in
set_option maxHeartbeats 1000000 in
theorem g_no (k md bi ac he : Int) (hk : Hid (has k = true)) (hm : Hid (mo md bi ac he = 3)) (ao : Option Addr) (len cap : Nat) (w : World) : Calls Try.prog 9 #[.int .i64 k, stV md bi ac he, .slice ao len cap] w fun e w' => e = .returned (.agg (gM 7 0 0 0 0)) ∧ w.grownBy w' none := by
  go_enter Try.func9, Try.ntmps9
  go_upto_region 1 with (first
    | (refine wpList_boxC _ rfl 24 _ rfl (sC md bi ac he) rfl ?_; intro w1 ss1 hg1)
    | (refine wpList_allocC _ rfl 28 rfl (gZ 0 0 0 0) (zeroG _) ?_; intro w2 rs2 hg2))
  have hG2 : Hid (w.grownBy w2 none) := Hid.mk' (gt hg1 hg2)
  have ss2 := ss1.kept0 hg2
  have hB2 : Hid (w.heap.size ≤ w1.heap.size) := Hid.mk' hg1.size
  clear hg1 hg2 ss1
  generalize w1.heap.size = B at *
  obtain ⟨SB, hSB⟩ : ∃ SB, Hid (w.heap.size = SB) := ⟨_, Hid.mk' rfl⟩
  rw [hSB.out] at ss2
  rw [hSB.out]
  have s0 := ss2.cell 0 rfl
  go_wp2_with (first
    | (go_at_call 11; refine (hasRef k true hk _).mono ?_; rintro e w3 ⟨rfl, hg⟩; have rs3 := rs2.kept0 hg; have ss3 := ss2.kept0 hg; have hG3 : Hid (w.grownBy w3 none) := Hid.mk' (gt hG2.out hg); clear s0; have s0 := ss3.cell 0 rfl; clear rs2 hg ss2)
    | (go_at_call 24; refine (fits_no k hk md bi ac he hm _).mono ?_; rintro e w4 ⟨rfl, hg⟩; have rs4 := rs3.kept0 hg; have ss4 := ss3.kept0 hg; have hG4 : Hid (w.grownBy w4 none) := Hid.mk' (gt hG3.out hg); clear s0; have s0 := ss4.cell 0 rfl; clear rs3 hg ss3)
    | (refine wpList_loadC _ rfl 24 _ rfl _ Try.underlying24 rfl SB (sC md bi ac he) infoS rfl (by first | exact ss4 | exact ss3 | exact ss2) ?_)
    | (refine wpList_storeC _ rfl 28 _ _ rfl B (gZ 0 0 0 0) (gM 7 0 0 0 0) infoG rfl (gC_one _ _ _ _ _ _ _ _ _) rfl rfl rs4 ?_; intro wz rsz hgz))
  refine bodyPost_ret (v := .agg (gM 7 0 0 0 0)) (results_cell_row Try.results9 _ wz B 28 _ (0, 0) _ rfl rsz Try.underlying28 rfl infoG) rfl ⟨rfl, ?_⟩
  exact grownBy_new hG4.out hgz (fun k hk => by have h5 := Option.some.inj hk; have h6 := hB2.out; omega)
set_option maxRecDepth 100000 in
set_option maxHeartbeats 1000000 in
theorem g_more (k : Int) (hk : Hid (has k = true)) (m : Nat) (hm : m < 3) (ao : Option Addr) (cap : Nat) (w : World) : Calls Try.prog 9 #[.int .i64 k, stV (m : Int) 0 0 0, .slice ao 0 cap] w fun e w' => e = .returned (.agg (gM 1 0 0 0 0)) ∧ w.grownBy w' none := by
  go_enter Try.func9, Try.ntmps9
  go_upto_region 1 with (first
    | (refine wpList_boxC _ rfl 24 _ rfl (sC (m : Int) 0 0 0) rfl ?_; intro w1 ss1 hg1)
    | (refine wpList_allocC _ rfl 28 rfl (gZ 0 0 0 0) (zeroG _) ?_; intro w2 rs2 hg2))
  have hG2 : Hid (w.grownBy w2 none) := Hid.mk' (gt hg1 hg2)
  have ss2 := ss1.kept0 hg2
  have hB2 : Hid (w.heap.size ≤ w1.heap.size) := Hid.mk' hg1.size
  clear hg1 hg2 ss1
  generalize w1.heap.size = B at *
  obtain ⟨SB, hSB⟩ : ∃ SB, Hid (w.heap.size = SB) := ⟨_, Hid.mk' rfl⟩
  rw [hSB.out] at ss2
  rw [hSB.out]
  have s0 := ss2.cell 0 rfl
  go_wp2_with (first
    | (go_at_call 11; refine (hasRef k true hk _).mono ?_; rintro e w3 ⟨rfl, hg⟩; have rs3 := rs2.kept0 hg; have ss3 := ss2.kept0 hg; have hG3 : Hid (w.grownBy w3 none) := Hid.mk' (gt hG2.out hg); clear s0; have s0 := ss3.cell 0 rfl; clear rs2 hg ss2)
    | (go_at_call 24; refine (fits_yes k hk m hm _).mono ?_; rintro e w4 ⟨rfl, hg⟩; have rs4 := rs3.kept0 hg; have ss4 := ss3.kept0 hg; have hG4 : Hid (w.grownBy w4 none) := Hid.mk' (gt hG3.out hg); clear s0; have s0 := ss4.cell 0 rfl; clear rs3 hg ss3)
    | (refine wpList_loadC _ rfl 24 _ rfl _ Try.underlying24 rfl SB (sC (m : Int) 0 0 0) infoS rfl (by first | exact ss4 | exact ss3 | exact ss2) ?_)
    | (refine wpList_storeC _ rfl 28 _ _ rfl B (gZ 0 0 0 0) (gM 1 0 0 0 0) infoG rfl (gC_one _ _ _ _ _ _ _ _ _) rfl rfl rs4 ?_; intro wz rsz hgz))
  refine bodyPost_ret (v := .agg (gM 1 0 0 0 0)) (results_cell_row Try.results9 _ wz B 28 _ (0, 0) _ rfl rsz Try.underlying28 rfl infoG) rfl ⟨rfl, ?_⟩
  exact grownBy_new hG4.out hgz (fun k hk => by have h5 := Option.some.inj hk; have h6 := hB2.out; omega)
set_option maxRecDepth 100000 in
set_option maxHeartbeats 1000000 in
theorem g_japanese (m : Nat) (hm : m < 3) (ao : Option Addr) (len cap : Nat) (hl : ((len : Int) == 0) = false) (ge n a c d : Int) (w : World) (aO : Hid (∀ wx, w.grownBy wx none → Calls Try.prog 25 #[stV (m : Int) 0 0 0, .slice ao len cap] wx fun x w' => x = .returned (.agg (gM ge n a c d)) ∧ wx.grownBy w' none)) : Calls Try.prog 9 #[.int .i64 83, stV (m : Int) 0 0 0, .slice ao len cap] w fun e w' => e = .returned (.agg (gM ge n a c d)) ∧ w.grownBy w' none := by
  go_enter Try.func9, Try.ntmps9
  go_upto_region 1 with (first
    | (refine wpList_boxC _ rfl 24 _ rfl (sC (m : Int) 0 0 0) rfl ?_; intro w1 ss1 hg1)
    | (refine wpList_allocC _ rfl 28 rfl (gZ 0 0 0 0) (zeroG _) ?_; intro w2 rs2 hg2))
  have hG2 : Hid (w.grownBy w2 none) := Hid.mk' (gt hg1 hg2)
  have ss2 := ss1.kept0 hg2
  have hB2 : Hid (w.heap.size ≤ w1.heap.size) := Hid.mk' hg1.size
  clear hg1 hg2 ss1
  generalize w1.heap.size = B at *
  obtain ⟨SB, hSB⟩ : ∃ SB, Hid (w.heap.size = SB) := ⟨_, Hid.mk' rfl⟩
  rw [hSB.out] at ss2
  rw [hSB.out]
  have s0 := ss2.cell 0 rfl
  go_wp2_with (first
    | (go_at_call 11; refine (hasRef 83 true (Hid.mk' (by decide)) _).mono ?_; rintro e w3 ⟨rfl, hg⟩; have rs3 := rs2.kept0 hg; have ss3 := ss2.kept0 hg; have hG3 : Hid (w.grownBy w3 none) := Hid.mk' (gt hG2.out hg); clear s0; have s0 := ss3.cell 0 rfl; clear rs2 hg ss2)
    | (go_at_call 24; refine (fits_yes 83 (Hid.mk' (by decide)) m hm _).mono ?_; rintro e w4 ⟨rfl, hg⟩; have rs4 := rs3.kept0 hg; have ss4 := ss3.kept0 hg; have hG4 : Hid (w.grownBy w4 none) := Hid.mk' (gt hG3.out hg); clear s0; have s0 := ss4.cell 0 rfl; clear rs3 hg ss3)
    | (go_at_call 25; refine (aO.out _ hG4.out).mono ?_; rintro e w5 ⟨rfl, hg⟩; have rs5 := rs4.kept0 hg; have ss5 := ss4.kept0 hg; have hG5 : Hid (w.grownBy w5 none) := Hid.mk' (gt hG4.out hg); clear s0; have s0 := ss5.cell 0 rfl; clear rs4 hg ss4)
    | (refine wpList_loadC _ rfl 24 _ rfl _ Try.underlying24 rfl SB (sC (m : Int) 0 0 0) infoS rfl (by first | exact ss5 | exact ss4 | exact ss3 | exact ss2) ?_)
    | (refine wpList_storeC _ rfl 28 _ _ rfl B (gZ 0 0 0 0) (gM ge n a c d) infoG rfl (gC_one _ _ _ _ _ _ _ _ _) rfl rfl rs5 ?_; intro wz rsz hgz))
  refine bodyPost_ret (v := .agg (gM ge n a c d)) (results_cell_row Try.results9 _ wz B 28 _ (0, 0) _ rfl rsz Try.underlying28 rfl infoG) rfl ⟨rfl, ?_⟩
  exact grownBy_new hG5.out hgz (fun k hk => by have h5 := Option.some.inj hk; have h6 := hB2.out; omega)
set_option maxRecDepth 100000 in
set_option maxHeartbeats 1000000 in
theorem g_korean (m : Nat) (hm : m < 3) (ao : Option Addr) (len cap : Nat) (hl : ((len : Int) == 0) = false) (ge n a c d : Int) (w : World) (aO : Hid (∀ wx, w.grownBy wx none → Calls Try.prog 26 #[stV (m : Int) 0 0 0, .slice ao len cap] wx fun x w' => x = .returned (.agg (gM ge n a c d)) ∧ wx.grownBy w' none)) : Calls Try.prog 9 #[.int .i64 88, stV (m : Int) 0 0 0, .slice ao len cap] w fun e w' => e = .returned (.agg (gM ge n a c d)) ∧ w.grownBy w' none := by
  go_enter Try.func9, Try.ntmps9
  go_upto_region 1 with (first
    | (refine wpList_boxC _ rfl 24 _ rfl (sC (m : Int) 0 0 0) rfl ?_; intro w1 ss1 hg1)
    | (refine wpList_allocC _ rfl 28 rfl (gZ 0 0 0 0) (zeroG _) ?_; intro w2 rs2 hg2))
  have hG2 : Hid (w.grownBy w2 none) := Hid.mk' (gt hg1 hg2)
  have ss2 := ss1.kept0 hg2
  have hB2 : Hid (w.heap.size ≤ w1.heap.size) := Hid.mk' hg1.size
  clear hg1 hg2 ss1
  generalize w1.heap.size = B at *
  obtain ⟨SB, hSB⟩ : ∃ SB, Hid (w.heap.size = SB) := ⟨_, Hid.mk' rfl⟩
  rw [hSB.out] at ss2
  rw [hSB.out]
  have s0 := ss2.cell 0 rfl
  go_wp2_with (first
    | (go_at_call 11; refine (hasRef 88 true (Hid.mk' (by decide)) _).mono ?_; rintro e w3 ⟨rfl, hg⟩; have rs3 := rs2.kept0 hg; have ss3 := ss2.kept0 hg; have hG3 : Hid (w.grownBy w3 none) := Hid.mk' (gt hG2.out hg); clear s0; have s0 := ss3.cell 0 rfl; clear rs2 hg ss2)
    | (go_at_call 24; refine (fits_yes 88 (Hid.mk' (by decide)) m hm _).mono ?_; rintro e w4 ⟨rfl, hg⟩; have rs4 := rs3.kept0 hg; have ss4 := ss3.kept0 hg; have hG4 : Hid (w.grownBy w4 none) := Hid.mk' (gt hG3.out hg); clear s0; have s0 := ss4.cell 0 rfl; clear rs3 hg ss3)
    | (go_at_call 26; refine (aO.out _ hG4.out).mono ?_; rintro e w5 ⟨rfl, hg⟩; have rs5 := rs4.kept0 hg; have ss5 := ss4.kept0 hg; have hG5 : Hid (w.grownBy w5 none) := Hid.mk' (gt hG4.out hg); clear s0; have s0 := ss5.cell 0 rfl; clear rs4 hg ss4)
    | (refine wpList_loadC _ rfl 24 _ rfl _ Try.underlying24 rfl SB (sC (m : Int) 0 0 0) infoS rfl (by first | exact ss5 | exact ss4 | exact ss3 | exact ss2) ?_)
    | (refine wpList_storeC _ rfl 28 _ _ rfl B (gZ 0 0 0 0) (gM ge n a c d) infoG rfl (gC_one _ _ _ _ _ _ _ _ _) rfl rfl rs5 ?_; intro wz rsz hgz))
  refine bodyPost_ret (v := .agg (gM ge n a c d)) (results_cell_row Try.results9 _ wz B 28 _ (0, 0) _ rfl rsz Try.underlying28 rfl infoG) rfl ⟨rfl, ?_⟩
  exact grownBy_new hG5.out hgz (fun k hk => by have h5 := Option.some.inj hk; have h6 := hB2.out; omega)
theorem korean_any (m : Nat) (hm : m < 3) (g o cap : Nat) (b : UInt8) (r L : List UInt8) (hL : L = b :: r) (w : World) (hB : Bytes w (some ⟨g, o, none⟩) L) (hc : L.length ≤ cap) (hcm : cap ≤ 9223372036854775807) : Calls Try.prog 26 #[stV (m : Int) 0 0 0, .slice (some ⟨g, o, none⟩) L.length cap] w fun e w' => e = .returned (gotV (gK m L)) ∧ w.grownBy w' none := by
  match m, hm with
  | 0, _ => exact korean_0 g o cap b r L hL w hB hc hcm
  | 1, _ => exact korean_1 g o cap b r L hL w hB hc hcm
  | 2, _ => exact korean_2 g o cap b r L hL w hB hc hcm
theorem getRef_any (k md bi ac he : Int) (ao : Option Addr) (cap : Nat) (L : List UInt8) (n : Nat) (hn : L.length = n) (w : World) (hB : Bytes w ao L) (hc : n ≤ cap) (hcm : cap ≤ 9223372036854775807) : Calls Try.prog 9 #[.int .i64 k, stV md bi ac he, .slice ao n cap] w fun e w' => e = .returned (gotV (gE k (mo md bi ac he) L)) ∧ w.grownBy w' none := by
  unfold gE
  cases hk : has k with
  | false =>
    rw [if_pos rfl]
    exact g_kind k md bi ac he (Hid.mk' hk) ao n cap w
  | true =>
    rw [if_neg (by simp)]
    obtain ⟨m, hm⟩ : ∃ m, mo md bi ac he = m := ⟨_, rfl⟩
    have hl := mo_le md bi ac he
    rw [hm] at hl ⊢
    by_cases h3 : m = 3
    · subst h3
      rw [if_pos (by omega)]
      exact g_no k md bi ac he (Hid.mk' hk) (Hid.mk' hm) ao n cap w
    · have hm3 : m < 3 := by omega
      obtain ⟨rfl, rfl, rfl, rfl⟩ := mo_fit hm hm3
      rw [if_neg (by omega)]
      cases L with
      | nil =>
        subst hn
        have := g_more k (Hid.mk' hk) m hm3 ao cap w
        rcases has_yes hk with rfl | rfl
        · rw [if_pos rfl]; exact this
        · rw [if_neg (by omega)]; exact this
      | cons b r =>
        have hl4 : ((n : Int) == 0) = false := by simp at hn ⊢; omega
        obtain ⟨g, o, rfl, hy0⟩ := first_cell hB
        subst hn
        rcases has_yes hk with rfl | rfl
        · rw [if_pos rfl]
          exact g_japanese m hm3 _ _ cap hl4 _ _ _ _ _ w (Hid.mk' (fun wx hg => japanese_any m hm3 g o cap b r (b :: r) rfl wx (hB.kept0 hg) hc hcm))
        · rw [if_neg (by omega)]
          exact g_korean m hm3 _ _ cap hl4 _ _ _ _ _ w (Hid.mk' (fun wx hg => korean_any m hm3 g o cap b r (b :: r) rfl wx (hB.kept0 hg) hc hcm))
end Go.Proofs.Ytdobjijebalkkaa.C21
