/- The document's Has, Fits, begins, two, led, sequences of layer 21: walks. -/
import Derived.Test.YtdobjijebalkkaaIP21
import Derived.Test.YtdobjijebalkkaaArgs
import Derived.Test.YtdobjijebalkkaaBw
namespace Go.Proofs.Ytdobjijebalkkaa.C21
open Go.ChangeShapes Go.WideShapes Go.ChangeAt Go.RowKit Go.Proofs.Ytdobjijebalkkaa.Mem Go.Proofs.Ytdobjijebalkkaa.Cb Go.Proofs.Ytdobjijebalkkaa.Sp
set_option linter.unusedVariables false
set_option linter.unusedSimpArgs false

set_option maxRecDepth 100000 in
set_option maxHeartbeats 1000000 in
theorem hasRef (k : Int) (X : Bool) (hX : Hid (has k = X)) (w : World) : Calls Try.prog 11 #[.int .i64 k] w fun e w' => e = .returned (.bool X) ∧ w.grownBy w' none := by
  have h := hX.out
  unfold has at h
  subst h
  clear hX
  by_cases h1 : k = 83
  · subst h1
    go_enter Try.func11, Try.ntmps11
    go_wp2
    go_ret
    exact ⟨rfl, grownBy_refl _ _⟩
  · have h1b : (k == 83) = false := by simpa using h1
    by_cases h2 : k = 88
    · subst h2
      go_enter Try.func11, Try.ntmps11
      go_wp2
      go_ret
      exact ⟨rfl, grownBy_refl _ _⟩
    · have h2b : (k == 88) = false := by simpa using h2
      rw [show decide (k = 83 ∨ k = 88) = false from decide_eq_false (by omega)]
      go_enter Try.func11, Try.ntmps11
      go_wp2
      go_ret
      exact ⟨rfl, grownBy_refl _ _⟩
set_option maxRecDepth 100000 in
set_option maxHeartbeats 1000000 in
theorem fit_0 (k : Int) (hk : Hid (has k = true))  (w : World) : Calls Try.prog 24 #[.int .i64 k, stV 0 0 0 0] w fun e w' => e = .returned (.bool true) ∧ w.grownBy w' none := by
  go_enter Try.func24, Try.ntmps24
  go_wp2_with (first
    | (refine wpList_boxC _ rfl 24 _ rfl (sC 0 0 0 0) rfl ?_; intro w1 ss1 hg1)
    | (go_at_call 11; refine (hasRef k true hk _).mono ?_; rintro e w2 ⟨rfl, hg2⟩; have ss2 := ss1.kept0 hg2; have y0 := ss2.cell 0 rfl; have y1 := ss2.cell 1 rfl; have y2 := ss2.cell 2 rfl; have y3 := ss2.cell 3 rfl))
  go_ret
  exact ⟨rfl, gt hg1 hg2⟩
set_option maxRecDepth 100000 in
set_option maxHeartbeats 1000000 in
theorem fit_1 (k : Int) (hk : Hid (has k = true))  (w : World) : Calls Try.prog 24 #[.int .i64 k, stV 1 0 0 0] w fun e w' => e = .returned (.bool true) ∧ w.grownBy w' none := by
  go_enter Try.func24, Try.ntmps24
  go_wp2_with (first
    | (refine wpList_boxC _ rfl 24 _ rfl (sC 1 0 0 0) rfl ?_; intro w1 ss1 hg1)
    | (go_at_call 11; refine (hasRef k true hk _).mono ?_; rintro e w2 ⟨rfl, hg2⟩; have ss2 := ss1.kept0 hg2; have y0 := ss2.cell 0 rfl; have y1 := ss2.cell 1 rfl; have y2 := ss2.cell 2 rfl; have y3 := ss2.cell 3 rfl))
  go_ret
  exact ⟨rfl, gt hg1 hg2⟩
set_option maxRecDepth 100000 in
set_option maxHeartbeats 1000000 in
theorem fit_2 (k : Int) (hk : Hid (has k = true))  (w : World) : Calls Try.prog 24 #[.int .i64 k, stV 2 0 0 0] w fun e w' => e = .returned (.bool true) ∧ w.grownBy w' none := by
  go_enter Try.func24, Try.ntmps24
  go_wp2_with (first
    | (refine wpList_boxC _ rfl 24 _ rfl (sC 2 0 0 0) rfl ?_; intro w1 ss1 hg1)
    | (go_at_call 11; refine (hasRef k true hk _).mono ?_; rintro e w2 ⟨rfl, hg2⟩; have ss2 := ss1.kept0 hg2; have y0 := ss2.cell 0 rfl; have y1 := ss2.cell 1 rfl; have y2 := ss2.cell 2 rfl; have y3 := ss2.cell 3 rfl))
  go_ret
  exact ⟨rfl, gt hg1 hg2⟩
set_option maxRecDepth 100000 in
set_option maxHeartbeats 1000000 in
theorem fit_lo (k : Int) (hk : Hid (has k = true)) (md bi ac he : Int) (h : md < 0) (w : World) : Calls Try.prog 24 #[.int .i64 k, stV md bi ac he] w fun e w' => e = .returned (.bool false) ∧ w.grownBy w' none := by
  have h1 : ¬ 0 ≤ md := by omega
  go_enter Try.func24, Try.ntmps24
  go_wp2_with (first
    | (refine wpList_boxC _ rfl 24 _ rfl (sC md bi ac he) rfl ?_; intro w1 ss1 hg1)
    | (go_at_call 11; refine (hasRef k true hk _).mono ?_; rintro e w2 ⟨rfl, hg2⟩; have ss2 := ss1.kept0 hg2; have y0 := ss2.cell 0 rfl; have y1 := ss2.cell 1 rfl; have y2 := ss2.cell 2 rfl; have y3 := ss2.cell 3 rfl))
  go_ret
  exact ⟨rfl, gt hg1 hg2⟩
set_option maxRecDepth 100000 in
set_option maxHeartbeats 1000000 in
theorem fit_hi (k : Int) (hk : Hid (has k = true)) (md bi ac he : Int) (h : 2 < md) (w : World) : Calls Try.prog 24 #[.int .i64 k, stV md bi ac he] w fun e w' => e = .returned (.bool false) ∧ w.grownBy w' none := by
  have h1 : 0 ≤ md := by omega
  have h2 : ¬ md ≤ 2 := by omega
  go_enter Try.func24, Try.ntmps24
  go_wp2_with (first
    | (refine wpList_boxC _ rfl 24 _ rfl (sC md bi ac he) rfl ?_; intro w1 ss1 hg1)
    | (go_at_call 11; refine (hasRef k true hk _).mono ?_; rintro e w2 ⟨rfl, hg2⟩; have ss2 := ss1.kept0 hg2; have y0 := ss2.cell 0 rfl; have y1 := ss2.cell 1 rfl; have y2 := ss2.cell 2 rfl; have y3 := ss2.cell 3 rfl))
  go_ret
  exact ⟨rfl, gt hg1 hg2⟩
set_option maxRecDepth 100000 in
set_option maxHeartbeats 1000000 in
theorem fit_xbi (k : Int) (hk : Hid (has k = true)) (md bi ac he : Int) (h1 : 0 ≤ md) (h2 : md ≤ 2) (h : ¬ bi = 0) (w : World) : Calls Try.prog 24 #[.int .i64 k, stV md bi ac he] w fun e w' => e = .returned (.bool false) ∧ w.grownBy w' none := by
  have h0b : (bi == 0) = false := by simpa using h
  have hmm : (md == md) = true := by simp
  go_enter Try.func24, Try.ntmps24
  go_wp2_with (first
    | (refine wpList_boxC _ rfl 24 _ rfl (sC md bi ac he) rfl ?_; intro w1 ss1 hg1)
    | (go_at_call 11; refine (hasRef k true hk _).mono ?_; rintro e w2 ⟨rfl, hg2⟩; have ss2 := ss1.kept0 hg2; have y0 := ss2.cell 0 rfl; have y1 := ss2.cell 1 rfl; have y2 := ss2.cell 2 rfl; have y3 := ss2.cell 3 rfl))
  go_ret
  exact ⟨rfl, gt hg1 hg2⟩
set_option maxRecDepth 100000 in
set_option maxHeartbeats 1000000 in
theorem fit_xac (k : Int) (hk : Hid (has k = true)) (md ac he : Int) (h1 : 0 ≤ md) (h2 : md ≤ 2) (h : ¬ ac = 0) (w : World) : Calls Try.prog 24 #[.int .i64 k, stV md 0 ac he] w fun e w' => e = .returned (.bool false) ∧ w.grownBy w' none := by
  have h0b : (ac == 0) = false := by simpa using h
  have hmm : (md == md) = true := by simp
  go_enter Try.func24, Try.ntmps24
  go_wp2_with (first
    | (refine wpList_boxC _ rfl 24 _ rfl (sC md 0 ac he) rfl ?_; intro w1 ss1 hg1)
    | (go_at_call 11; refine (hasRef k true hk _).mono ?_; rintro e w2 ⟨rfl, hg2⟩; have ss2 := ss1.kept0 hg2; have y0 := ss2.cell 0 rfl; have y1 := ss2.cell 1 rfl; have y2 := ss2.cell 2 rfl; have y3 := ss2.cell 3 rfl))
  go_ret
  exact ⟨rfl, gt hg1 hg2⟩
set_option maxRecDepth 100000 in
set_option maxHeartbeats 1000000 in
theorem fit_xhe (k : Int) (hk : Hid (has k = true)) (md he : Int) (h1 : 0 ≤ md) (h2 : md ≤ 2) (h : ¬ he = 0) (w : World) : Calls Try.prog 24 #[.int .i64 k, stV md 0 0 he] w fun e w' => e = .returned (.bool false) ∧ w.grownBy w' none := by
  have h0b : (he == 0) = false := by simpa using h
  have hmm : (md == md) = true := by simp
  go_enter Try.func24, Try.ntmps24
  go_wp2_with (first
    | (refine wpList_boxC _ rfl 24 _ rfl (sC md 0 0 he) rfl ?_; intro w1 ss1 hg1)
    | (go_at_call 11; refine (hasRef k true hk _).mono ?_; rintro e w2 ⟨rfl, hg2⟩; have ss2 := ss1.kept0 hg2; have y0 := ss2.cell 0 rfl; have y1 := ss2.cell 1 rfl; have y2 := ss2.cell 2 rfl; have y3 := ss2.cell 3 rfl))
  go_ret
  exact ⟨rfl, gt hg1 hg2⟩
theorem fits_yes (k : Int) (hk : Hid (has k = true)) (m : Nat) (h : m < 3) (w : World) : Calls Try.prog 24 #[.int .i64 k, stV (m : Int) 0 0 0] w fun e w' => e = .returned (.bool true) ∧ w.grownBy w' none := by
  match m, h with
  | 0, _ => exact fit_0 k hk w
  | 1, _ => exact fit_1 k hk w
  | 2, _ => exact fit_2 k hk w
theorem fits_no (k : Int) (hk : Hid (has k = true)) (md bi ac he : Int) (h : Hid (mo md bi ac he = 3)) (w : World) : Calls Try.prog 24 #[.int .i64 k, stV md bi ac he] w fun e w' => e = .returned (.bool false) ∧ w.grownBy w' none := by
  by_cases h1 : md < 0
  · exact fit_lo k hk md bi ac he h1 w
  · by_cases h2 : 2 < md
    · exact fit_hi k hk md bi ac he h2 w
    · by_cases h3 : bi = 0
      · subst h3
        by_cases h4 : ac = 0
        · subst h4
          by_cases h5 : he = 0
          · subst h5
            have := h.out
            unfold mo at this
            rw [if_pos ⟨by omega, rfl, rfl, rfl⟩] at this
            omega
          · exact fit_xhe k hk md he (by omega) (by omega) h5 w
        · exact fit_xac k hk md ac he (by omega) (by omega) h4 w
      · exact fit_xbi k hk md bi ac he (by omega) (by omega) h3 w
set_option maxRecDepth 100000 in
set_option maxHeartbeats 1000000 in
theorem beginsRef (S A : List UInt8) (X : Bool) (hX : Hid (bgn S A = X)) (hA : A.length ≤ 1000) (w : World) : Calls Try.prog 41 #[.string (str S), .string (str A)] w fun e w' => e = .returned (.bool X) ∧ w.grownBy w' none := by
  have h := hX.out
  unfold bgn at h
  subst h
  clear hX
  have s1 : (str S).size = S.length := str_size _
  have s2 : (str A).size = A.length := str_size _
  have hx : (str S).extract 0 A.length = str (S.take A.length) := by
    apply ByteArray.ext
    apply Array.ext'
    rw [ByteArray.data_extract]
    simp [str]
  by_cases h1 : A.length ≤ S.length
  · have h1' : (A.length : Int) ≤ (S.length : Int) := by omega
    have h0' : (0 : Int) ≤ (A.length : Int) := by omega
    have he : ((str (S.take A.length)).toList == (str A).toList) = decide (A.length ≤ S.length ∧ S.take A.length = A) := by
      rw [str_toList, str_toList]
      by_cases h2 : S.take A.length = A
      · rw [decide_eq_true ⟨h1, h2⟩, h2]; exact beq_self_eq_true _
      · rw [decide_eq_false (fun h => h2 h.2)]
        exact beq_eq_false_iff_ne.2 h2
    generalize decide (A.length ≤ S.length ∧ S.take A.length = A) = X at *
    generalize str (S.take A.length) = c at *
    generalize str A = a at *
    generalize str S = s at *
    go_enter Try.func41, Try.ntmps41
    go_wp2
    go_ret
    refine ⟨?_, grownBy_refl _ _⟩
    first | rfl | (rw [← he]; rfl)
  · have h1' : ¬ (A.length : Int) ≤ (S.length : Int) := by omega
    rw [decide_eq_false (fun h => h1 h.1)]
    generalize str A = a at *
    generalize str S = s at *
    go_enter Try.func41, Try.ntmps41
    go_wp2
    go_ret
    exact ⟨rfl, grownBy_refl _ _⟩
set_option maxRecDepth 100000 in
set_option maxHeartbeats 1000000 in
theorem twoRef (A D : Nat) (hA : A ≤ 94) (hD : D ≤ 94) (w : World) : Calls Try.prog 33 #[.int .i64 (A : Int), .int .i64 (D : Int)] w fun e w' => e = .returned (.string (str [b8 (A + 32), b8 (D + 32)])) ∧ w.grownBy w' none := by
  obtain ⟨x, hx⟩ : ∃ x, A + 32 = x := ⟨_, rfl⟩
  obtain ⟨y, hy⟩ : ∃ y, D + 32 = y := ⟨_, rfl⟩
  rw [hx, hy]
  have q1 : (A : Int) + 32 = (x : Int) := by omega
  have q2 : (D : Int) + 32 = (y : Int) := by omega
  have q3 : (x : Int) < 256 := by omega
  have q4 : (y : Int) < 256 := by omega
  have hcv := conv_two (show x < 256 by omega) (show y < 256 by omega) w
  clear hx hy hA hD
  go_enter Try.func33, Try.ntmps33
  go_wp2
  go_ret
  exact ⟨rfl, World.grownBy_alloc _ _ _⟩
set_option maxRecDepth 100000 in
set_option maxHeartbeats 1000000 in
theorem led_same (m : Nat) (q t : ByteArray) (w : World) : Calls Try.prog 30 #[stV (m : Int) 0 0 0, .int .i64 (m : Int), .string q, .string t] w fun e w' => e = .returned (.agg (pM 0 t (m : Int))) ∧ w.grownBy w' none := by
  have h1 : ((m : Int) != (m : Int)) = false := by simp
  go_enter Try.func30, Try.ntmps30
  go_upto_region 1 with (first
    | (refine wpList_boxC _ rfl 24 _ rfl (sC (m : Int) 0 0 0) rfl ?_; intro w1 ss1 hg1)
    | (refine wpList_allocC _ rfl 35 rfl (pZ 0 ⟨#[]⟩) (zeroP _) ?_; intro w2 rs2 hg2))
  have hG2 : Hid (w.grownBy w2 none) := Hid.mk' (gt hg1 hg2)
  have ss2 := ss1.kept0 hg2
  have hB2 : Hid (w.heap.size ≤ w1.heap.size) := Hid.mk' hg1.size
  clear hg1 hg2 ss1
  generalize w1.heap.size = B at *
  obtain ⟨SB, hSB⟩ : ∃ SB, Hid (w.heap.size = SB) := ⟨_, Hid.mk' rfl⟩
  rw [hSB.out] at ss2
  rw [hSB.out]
  have s0 := ss2.cell 0 rfl
  go_wp2_with (first
    | (refine wpList_loadC _ rfl 24 _ rfl _ Try.underlying24 rfl SB (sC (m : Int) 0 0 0) infoS rfl ss2 ?_)
    | (refine wpList_storeC _ rfl 35 _ _ rfl B (pZ 0 ⟨#[]⟩) (pM 0 t (m : Int)) infoP rfl (pC_one _ _ _ _ _ _) rfl rfl rs2 ?_; intro wz rsz hgz))
  refine bodyPost_ret (v := .agg (pM 0 t (m : Int))) (results_cell_row Try.results30 _ wz B 35 _ (0, 0) _ rfl rsz Try.underlying35 rfl infoP) rfl ⟨rfl, ?_⟩
  exact grownBy_new hG2.out hgz (fun k hk => by have h5 := Option.some.inj hk; have h6 := hB2.out; omega)
set_option maxRecDepth 100000 in
set_option maxHeartbeats 1000000 in
theorem led_new (m mode : Nat) (h : m ≠ mode) (q t : ByteArray) (hz : ¬ 9223372036854775807 < q.size + t.size) (w : World) : Calls Try.prog 30 #[stV (m : Int) 0 0 0, .int .i64 (mode : Int), .string q, .string t] w fun e w' => e = .returned (.agg (pM 0 (q ++ t) (mode : Int))) ∧ w.grownBy w' none := by
  have h1 : ((m : Int) != (mode : Int)) = true := by simp; omega
  go_enter Try.func30, Try.ntmps30
  go_upto_region 1 with (first
    | (refine wpList_boxC _ rfl 24 _ rfl (sC (m : Int) 0 0 0) rfl ?_; intro w1 ss1 hg1)
    | (refine wpList_allocC _ rfl 35 rfl (pZ 0 ⟨#[]⟩) (zeroP _) ?_; intro w2 rs2 hg2))
  have hG2 : Hid (w.grownBy w2 none) := Hid.mk' (gt hg1 hg2)
  have ss2 := ss1.kept0 hg2
  have hB2 : Hid (w.heap.size ≤ w1.heap.size) := Hid.mk' hg1.size
  clear hg1 hg2 ss1
  generalize w1.heap.size = B at *
  obtain ⟨SB, hSB⟩ : ∃ SB, Hid (w.heap.size = SB) := ⟨_, Hid.mk' rfl⟩
  rw [hSB.out] at ss2
  rw [hSB.out]
  have s0 := ss2.cell 0 rfl
  go_wp2_with (first
    | (refine wpList_loadC _ rfl 24 _ rfl _ Try.underlying24 rfl SB (sC (m : Int) 0 0 0) infoS rfl ss2 ?_)
    | (refine wpList_storeC _ rfl 35 _ _ rfl B (pZ 0 ⟨#[]⟩) (pM 0 (q ++ t) (mode : Int)) infoP rfl (pC_one _ _ _ _ _ _) rfl rfl rs2 ?_; intro wz rsz hgz))
  refine bodyPost_ret (v := .agg (pM 0 (q ++ t) (mode : Int))) (results_cell_row Try.results30 _ wz B 35 _ (0, 0) _ rfl rsz Try.underlying35 rfl infoP) rfl ⟨rfl, ?_⟩
  exact grownBy_new hG2.out hgz (fun k hk => by have h5 := Option.some.inj hk; have h6 := hB2.out; omega)
theorem ledRef (m mode : Nat) (q t : List UInt8) (hq : q.length ≤ 100) (ht : t.length ≤ 100) (w : World) : Calls Try.prog 30 #[stV (m : Int) 0 0 0, .int .i64 (mode : Int), .string (str q), .string (str t)] w fun e w' => e = .returned (.agg (pM 0 (str (ld m mode q ++ t)) (mode : Int))) ∧ w.grownBy w' none := by
  unfold ld
  by_cases h : m = mode
  · subst h
    rw [if_neg (by simp)]
    exact led_same m _ _ w
  · rw [if_pos h, ← str_app]
    exact led_new m mode h _ _ (by rw [str_size, str_size]; omega) w
set_option maxRecDepth 100000 in
set_option maxHeartbeats 1000000 in
theorem seqRef (w : World) : Calls Try.prog 40 #[] w fun e w' => ∃ A D, e = .returned (.tuple #[.slice (some ⟨A, 0, none⟩) 4 4, .slice (some ⟨D, 0, none⟩) 4 4]) ∧ (∀ wx, w'.grownBy wx none → ∀ i, i < 4 → wx.cell? ⟨A, i, none⟩ = some (.string (str (sq i))) ∧ wx.cell? ⟨D, i, none⟩ = some (.int .i64 (sqM i : Int))) ∧ w.grownBy w' none := by
  go_enter Try.func40, Try.ntmps40
  go_wp2
  go_ret2
  refine ⟨_, _, rfl, fun wx hg i hi => ?_, gt (World.grownBy_alloc _ _ _) (World.grownBy_alloc _ _ _)⟩
  have h1 := blk_kept (heap_alloc_new w (.cells #[.string ⟨#[27, 40, 66]⟩, .string ⟨#[27, 40, 74]⟩, .string ⟨#[27, 36, 64]⟩, .string ⟨#[27, 36, 66]⟩] 9)) (gt (World.grownBy_alloc _ _ _) hg)
  have h2 := blk_kept (heap_alloc_new (w.alloc (.cells #[.string ⟨#[27, 40, 66]⟩, .string ⟨#[27, 40, 74]⟩, .string ⟨#[27, 36, 64]⟩, .string ⟨#[27, 36, 66]⟩] 9)) _) hg
  rw [show (w.alloc (.cells #[.string ⟨#[27, 40, 66]⟩, .string ⟨#[27, 40, 74]⟩, .string ⟨#[27, 36, 64]⟩, .string ⟨#[27, 36, 66]⟩] 9)).heap.size = w.heap.size + 1 by simp] at h2
  match i, hi with
  | 0, _ => exact ⟨cell_at h1 0 rfl, cell_at h2 0 rfl⟩
  | 1, _ => exact ⟨cell_at h1 1 rfl, cell_at h2 1 rfl⟩
  | 2, _ => exact ⟨cell_at h1 2 rfl, cell_at h2 2 rfl⟩
  | 3, _ => exact ⟨cell_at h1 3 rfl, cell_at h2 3 rfl⟩
end Go.Proofs.Ytdobjijebalkkaa.C21
