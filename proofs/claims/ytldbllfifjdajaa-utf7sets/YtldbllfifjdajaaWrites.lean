/- UTF-7's states in which is written, and the digit at an end: walks. -/
import Derived.Test.YtldbllfifjdajaaFits
namespace Go.Proofs.Ytldbllfifjdajaa.Sv
open Go.ChangeShapes Go.WideShapes Go.ChangeAt Go.RowKit Go.Proofs.Ytldbllfifjdajaa.Mem Go.Proofs.Ytldbllfifjdajaa.Ucs
set_option linter.unusedVariables false
set_option linter.unusedSimpArgs false

abbrev dLit : ByteArray := ⟨#[65, 66, 67, 68, 69, 70, 71, 72, 73, 74, 75, 76, 77, 78, 79, 80, 81, 82, 83, 84, 85, 86, 87, 88, 89, 90, 97, 98, 99, 100, 101, 102, 103, 104, 105, 106, 107, 108, 109, 110, 111, 112, 113, 114, 115, 116, 117, 118, 119, 120, 121, 122, 48, 49, 50, 51, 52, 53, 54, 55, 56, 57, 43, 47]⟩
theorem dLit_is : dLit = str digL := rfl
theorem dLit_get (n : Nat) (h : n < dLit.size) : (dLit[n]'h) = dgB n := dig_get n h
theorem dLit_cut (n : Nat) (h : n < 64) : dLit.extract n (n + 1) = dgS n := dig_cut n h
theorem dLit_size : dLit.size = 64 := rfl
theorem ret_str {a b : ByteArray} (h : a = b) : Ending.returned (.string a) = .returned (.string b) := by rw [h]
theorem wr_fit {md bi ac he : Int} {t : Bool} (h : fitB md bi ac he = t) : wrB md bi ac he = (t && decide (md ≠ 2 ∧ bi < 6 ∧ he = 0)) := by subst h; rfl

set_option maxRecDepth 100000 in
set_option maxHeartbeats 1000000 in
theorem wr_any (md bi ac he : Int) (w : World) (t : Bool) (ht : wrB md bi ac he = t) : Calls Try.prog 8 #[stV md bi ac he] w fun e w' => e = .returned (.bool t) ∧ w.grownBy w' none := by
  subst ht
  obtain ⟨f, hf⟩ : ∃ f, Hid (fitB md bi ac he = f) := ⟨_, (rfl : fitB md bi ac he = fitB md bi ac he)⟩
  have Hw := Hid.mk' (wr_fit hf.out)
  generalize wrB md bi ac he = t at *
  cases f
  · go_enter Try.func8, Try.ntmps8
    go_wp2_with (go_at_call 21; refine (fits_any md bi ac he _ false hf.out).mono ?_; rintro e w1 ⟨rfl, hg1⟩; have sb := blk_kept (heap_alloc_new w (.cells #[.int .i64 md, .int .i64 bi, .int .u32 ac, .int .i32 he] 24)) hg1; have rs0 := cell_at sb 0 rfl; have rs1 := cell_at sb 1 rfl; have rs2 := cell_at sb 2 rfl; have rs3 := cell_at sb 3 rfl; have fzs := froz_at sb; clear sb)
    go_ret
    refine ⟨ret_bool (by rw [Hw.out]; rfl), ?_⟩
    (repeat (first | with_reducible exact grownBy_refl _ _ | (with_reducible refine gs ?_ ?_; first | omega | (simp; omega)) | with_reducible refine ga ?_ | with_reducible refine gd ?_ | with_reducible refine gdn ?_ | with_reducible refine gt ?_ (by assumption)))
  · go_enter Try.func8, Try.ntmps8
    go_wp2_with (go_at_call 21; refine (fits_any md bi ac he _ true hf.out).mono ?_; rintro e w1 ⟨rfl, hg1⟩; have sb := blk_kept (heap_alloc_new w (.cells #[.int .i64 md, .int .i64 bi, .int .u32 ac, .int .i32 he] 24)) hg1; have rs0 := cell_at sb 0 rfl; have rs1 := cell_at sb 1 rfl; have rs2 := cell_at sb 2 rfl; have rs3 := cell_at sb 3 rfl; have fzs := froz_at sb; clear sb)
    all_goals go_ret
    all_goals refine ⟨ret_bool ?_, ?_⟩
    all_goals (first | (rw [Hw.out]; simp_all; done) | (rw [Hw.out]; simp; omega) | (rw [Hw.out]; by_cases hz : he = 0 <;> by_cases h2 : md = 2 <;> by_cases h6 : bi < 6 <;> simp_all <;> done) | skip)
    all_goals (repeat (first | with_reducible exact grownBy_refl _ _ | (with_reducible refine gs ?_ ?_; first | omega | (simp; omega)) | with_reducible refine ga ?_ | with_reducible refine gd ?_ | with_reducible refine gdn ?_ | with_reducible refine gt ?_ (by assumption)))

set_option maxRecDepth 100000 in
set_option maxHeartbeats 1000000 in
theorem wrR_any (md bi ac he : Int) (hac : 0 ≤ ac) (w : World) (t : Bool) (ht : wrB md bi ac he = t) : Calls Try.prog 10 #[stV md bi ac he] w fun e w' => e = .returned (.bool t) ∧ w.grownBy w' none := by
  subst ht
  obtain ⟨f, hf⟩ : ∃ f, Hid (fitB md bi ac he = f) := ⟨_, (rfl : fitB md bi ac he = fitB md bi ac he)⟩
  have Hw := Hid.mk' (wr_fit hf.out)
  generalize wrB md bi ac he = t at *
  cases f
  · go_enter Try.func10, Try.ntmps10
    go_wp2_with (go_at_call 22; refine (fitsR_any md bi ac he hac _ false hf.out).mono ?_; rintro e w1 ⟨rfl, hg1⟩; have sb := blk_kept (heap_alloc_new w (.cells #[.int .i64 md, .int .i64 bi, .int .u32 ac, .int .i32 he] 24)) hg1; have rs0 := cell_at sb 0 rfl; have rs1 := cell_at sb 1 rfl; have rs2 := cell_at sb 2 rfl; have rs3 := cell_at sb 3 rfl; have fzs := froz_at sb; clear sb)
    go_ret
    refine ⟨ret_bool (by rw [Hw.out]; rfl), ?_⟩
    (repeat (first | with_reducible exact grownBy_refl _ _ | (with_reducible refine gs ?_ ?_; first | omega | (simp; omega)) | with_reducible refine ga ?_ | with_reducible refine gd ?_ | with_reducible refine gdn ?_ | with_reducible refine gt ?_ (by assumption)))
  · go_enter Try.func10, Try.ntmps10
    go_wp2_with (go_at_call 22; refine (fitsR_any md bi ac he hac _ true hf.out).mono ?_; rintro e w1 ⟨rfl, hg1⟩; have sb := blk_kept (heap_alloc_new w (.cells #[.int .i64 md, .int .i64 bi, .int .u32 ac, .int .i32 he] 24)) hg1; have rs0 := cell_at sb 0 rfl; have rs1 := cell_at sb 1 rfl; have rs2 := cell_at sb 2 rfl; have rs3 := cell_at sb 3 rfl; have fzs := froz_at sb; clear sb)
    all_goals go_ret
    all_goals refine ⟨ret_bool ?_, ?_⟩
    all_goals (first | (rw [Hw.out]; simp_all; done) | (rw [Hw.out]; simp; omega) | (rw [Hw.out]; by_cases hz : he = 0 <;> by_cases h2 : md = 2 <;> by_cases h6 : bi < 6 <;> simp_all <;> done) | skip)
    all_goals (repeat (first | with_reducible exact grownBy_refl _ _ | (with_reducible refine gs ?_ ?_; first | omega | (simp; omega)) | with_reducible refine ga ?_ | with_reducible refine gd ?_ | with_reducible refine gdn ?_ | with_reducible refine gt ?_ (by assumption)))

set_option maxRecDepth 100000 in
set_option maxHeartbeats 1000000 in
theorem last_zero (md a : Int) (w : World) : Calls Try.prog 9 #[stV md 0 a 0] w fun e w' => e = .returned (.string ⟨#[]⟩) ∧ w.grownBy w' none := by
  go_enter Try.func9, Try.ntmps9
  go_wp2
  go_ret
  refine ⟨rfl, ?_⟩
  (repeat (first | with_reducible exact grownBy_refl _ _ | (with_reducible refine gs ?_ ?_; first | omega | (simp; omega)) | with_reducible refine ga ?_ | with_reducible refine gd ?_ | with_reducible refine gdn ?_ | with_reducible refine gt ?_ (by assumption)))
set_option maxRecDepth 100000 in
set_option maxHeartbeats 1000000 in
theorem last_1 (a : Nat) (ha : a < 2) (w : World) : Calls Try.prog 9 #[stV 1 1 (a : Int) 0] w fun e w' => e = .returned (.string (str [dgB (a * 32)])) ∧ w.grownBy w' none := by
  have ht := dLit_get ((a : Int) * 32).toNat
  have he := enc_dg ((a : Int) * 32).toNat (by omega)
  have Hn : Hid (((a : Int) * 32).toNat = a * 32) := (by omega : ((a : Int) * 32).toNat = a * 32)
  go_enter Try.func9, Try.ntmps9
  go_wp2
  go_ret
  refine ⟨ret_str ?_, ?_⟩
  · first | (rw [enc_dg _ (by omega)]; exact dgS_str _) | exact dgS_str _ | (rw [Hn.out]; exact dgS_str _)
  · (repeat (first | with_reducible exact grownBy_refl _ _ | (with_reducible refine gs ?_ ?_; first | omega | (simp; omega)) | with_reducible refine ga ?_ | with_reducible refine gd ?_ | with_reducible refine gdn ?_ | with_reducible refine gt ?_ (by assumption)))
set_option maxRecDepth 100000 in
set_option maxHeartbeats 1000000 in
theorem last_2 (a : Nat) (ha : a < 4) (w : World) : Calls Try.prog 9 #[stV 1 2 (a : Int) 0] w fun e w' => e = .returned (.string (str [dgB (a * 16)])) ∧ w.grownBy w' none := by
  have ht := dLit_get ((a : Int) * 16).toNat
  have he := enc_dg ((a : Int) * 16).toNat (by omega)
  have Hn : Hid (((a : Int) * 16).toNat = a * 16) := (by omega : ((a : Int) * 16).toNat = a * 16)
  go_enter Try.func9, Try.ntmps9
  go_wp2
  go_ret
  refine ⟨ret_str ?_, ?_⟩
  · first | (rw [enc_dg _ (by omega)]; exact dgS_str _) | exact dgS_str _ | (rw [Hn.out]; exact dgS_str _)
  · (repeat (first | with_reducible exact grownBy_refl _ _ | (with_reducible refine gs ?_ ?_; first | omega | (simp; omega)) | with_reducible refine ga ?_ | with_reducible refine gd ?_ | with_reducible refine gdn ?_ | with_reducible refine gt ?_ (by assumption)))
set_option maxRecDepth 100000 in
set_option maxHeartbeats 1000000 in
theorem last_3 (a : Nat) (ha : a < 8) (w : World) : Calls Try.prog 9 #[stV 1 3 (a : Int) 0] w fun e w' => e = .returned (.string (str [dgB (a * 8)])) ∧ w.grownBy w' none := by
  have ht := dLit_get ((a : Int) * 8).toNat
  have he := enc_dg ((a : Int) * 8).toNat (by omega)
  have Hn : Hid (((a : Int) * 8).toNat = a * 8) := (by omega : ((a : Int) * 8).toNat = a * 8)
  go_enter Try.func9, Try.ntmps9
  go_wp2
  go_ret
  refine ⟨ret_str ?_, ?_⟩
  · first | (rw [enc_dg _ (by omega)]; exact dgS_str _) | exact dgS_str _ | (rw [Hn.out]; exact dgS_str _)
  · (repeat (first | with_reducible exact grownBy_refl _ _ | (with_reducible refine gs ?_ ?_; first | omega | (simp; omega)) | with_reducible refine ga ?_ | with_reducible refine gd ?_ | with_reducible refine gdn ?_ | with_reducible refine gt ?_ (by assumption)))
set_option maxRecDepth 100000 in
set_option maxHeartbeats 1000000 in
theorem last_4 (a : Nat) (ha : a < 16) (w : World) : Calls Try.prog 9 #[stV 1 4 (a : Int) 0] w fun e w' => e = .returned (.string (str [dgB (a * 4)])) ∧ w.grownBy w' none := by
  have ht := dLit_get ((a : Int) * 4).toNat
  have he := enc_dg ((a : Int) * 4).toNat (by omega)
  have Hn : Hid (((a : Int) * 4).toNat = a * 4) := (by omega : ((a : Int) * 4).toNat = a * 4)
  go_enter Try.func9, Try.ntmps9
  go_wp2
  go_ret
  refine ⟨ret_str ?_, ?_⟩
  · first | (rw [enc_dg _ (by omega)]; exact dgS_str _) | exact dgS_str _ | (rw [Hn.out]; exact dgS_str _)
  · (repeat (first | with_reducible exact grownBy_refl _ _ | (with_reducible refine gs ?_ ?_; first | omega | (simp; omega)) | with_reducible refine ga ?_ | with_reducible refine gd ?_ | with_reducible refine gdn ?_ | with_reducible refine gt ?_ (by assumption)))
set_option maxRecDepth 100000 in
set_option maxHeartbeats 1000000 in
theorem last_5 (a : Nat) (ha : a < 32) (w : World) : Calls Try.prog 9 #[stV 1 5 (a : Int) 0] w fun e w' => e = .returned (.string (str [dgB (a * 2)])) ∧ w.grownBy w' none := by
  have ht := dLit_get ((a : Int) * 2).toNat
  have he := enc_dg ((a : Int) * 2).toNat (by omega)
  have Hn : Hid (((a : Int) * 2).toNat = a * 2) := (by omega : ((a : Int) * 2).toNat = a * 2)
  go_enter Try.func9, Try.ntmps9
  go_wp2
  go_ret
  refine ⟨ret_str ?_, ?_⟩
  · first | (rw [enc_dg _ (by omega)]; exact dgS_str _) | exact dgS_str _ | (rw [Hn.out]; exact dgS_str _)
  · (repeat (first | with_reducible exact grownBy_refl _ _ | (with_reducible refine gs ?_ ?_; first | omega | (simp; omega)) | with_reducible refine ga ?_ | with_reducible refine gd ?_ | with_reducible refine gdn ?_ | with_reducible refine gt ?_ (by assumption)))
theorem last_any (b a : Nat) (hb : b ≤ 5) (ha : a < 2 ^ b) (w : World) (s : ByteArray) (hs : str (lastL b a) = s) : Calls Try.prog 9 #[stV 1 (b : Int) (a : Int) 0] w fun e w' => e = .returned (.string s) ∧ w.grownBy w' none := by
  subst hs
  rcases six hb with rfl | rfl | rfl | rfl | rfl | rfl
  · exact last_zero 1 a w
  · exact last_1 a (by simpa using ha) w
  · exact last_2 a (by simpa using ha) w
  · exact last_3 a (by simpa using ha) w
  · exact last_4 a (by simpa using ha) w
  · exact last_5 a (by simpa using ha) w

set_option maxRecDepth 100000 in
set_option maxHeartbeats 1000000 in
theorem rest_zero (md a : Int) (w : World) : Calls Try.prog 11 #[stV md 0 a 0] w fun e w' => e = .returned (.string ⟨#[]⟩) ∧ w.grownBy w' none := by
  go_enter Try.func11, Try.ntmps11
  go_wp2
  go_ret
  refine ⟨rfl, ?_⟩
  (repeat (first | with_reducible exact grownBy_refl _ _ | (with_reducible refine gs ?_ ?_; first | omega | (simp; omega)) | with_reducible refine ga ?_ | with_reducible refine gd ?_ | with_reducible refine gdn ?_ | with_reducible refine gt ?_ (by assumption)))
set_option maxRecDepth 100000 in
set_option maxHeartbeats 1000000 in
theorem rest_1 (a : Nat) (ha : a < 2) (w : World) : Calls Try.prog 11 #[stV 1 1 (a : Int) 0] w fun e w' => e = .returned (.string (str [dgB (a * 32)])) ∧ w.grownBy w' none := by
  have ht := dLit_cut ((a : Int) * 32).toNat (by omega)
  rw [show ((a : Int) * 32).toNat + 1 = ((a : Int) * 32 + 1).toNat from by omega] at ht
  have Hn : Hid (((a : Int) * 32).toNat = a * 32) := (by omega : ((a : Int) * 32).toNat = a * 32)
  go_enter Try.func11, Try.ntmps11
  go_wp2
  go_ret
  refine ⟨ret_str ?_, ?_⟩
  · first | (rw [enc_dg _ (by omega)]; exact dgS_str _) | exact dgS_str _ | (rw [Hn.out]; exact dgS_str _)
  · (repeat (first | with_reducible exact grownBy_refl _ _ | (with_reducible refine gs ?_ ?_; first | omega | (simp; omega)) | with_reducible refine ga ?_ | with_reducible refine gd ?_ | with_reducible refine gdn ?_ | with_reducible refine gt ?_ (by assumption)))
set_option maxRecDepth 100000 in
set_option maxHeartbeats 1000000 in
theorem rest_2 (a : Nat) (ha : a < 4) (w : World) : Calls Try.prog 11 #[stV 1 2 (a : Int) 0] w fun e w' => e = .returned (.string (str [dgB (a * 16)])) ∧ w.grownBy w' none := by
  have ht := dLit_cut ((a : Int) * 16).toNat (by omega)
  rw [show ((a : Int) * 16).toNat + 1 = ((a : Int) * 16 + 1).toNat from by omega] at ht
  have Hn : Hid (((a : Int) * 16).toNat = a * 16) := (by omega : ((a : Int) * 16).toNat = a * 16)
  go_enter Try.func11, Try.ntmps11
  go_wp2
  go_ret
  refine ⟨ret_str ?_, ?_⟩
  · first | (rw [enc_dg _ (by omega)]; exact dgS_str _) | exact dgS_str _ | (rw [Hn.out]; exact dgS_str _)
  · (repeat (first | with_reducible exact grownBy_refl _ _ | (with_reducible refine gs ?_ ?_; first | omega | (simp; omega)) | with_reducible refine ga ?_ | with_reducible refine gd ?_ | with_reducible refine gdn ?_ | with_reducible refine gt ?_ (by assumption)))
set_option maxRecDepth 100000 in
set_option maxHeartbeats 1000000 in
theorem rest_3 (a : Nat) (ha : a < 8) (w : World) : Calls Try.prog 11 #[stV 1 3 (a : Int) 0] w fun e w' => e = .returned (.string (str [dgB (a * 8)])) ∧ w.grownBy w' none := by
  have ht := dLit_cut ((a : Int) * 8).toNat (by omega)
  rw [show ((a : Int) * 8).toNat + 1 = ((a : Int) * 8 + 1).toNat from by omega] at ht
  have Hn : Hid (((a : Int) * 8).toNat = a * 8) := (by omega : ((a : Int) * 8).toNat = a * 8)
  go_enter Try.func11, Try.ntmps11
  go_wp2
  go_ret
  refine ⟨ret_str ?_, ?_⟩
  · first | (rw [enc_dg _ (by omega)]; exact dgS_str _) | exact dgS_str _ | (rw [Hn.out]; exact dgS_str _)
  · (repeat (first | with_reducible exact grownBy_refl _ _ | (with_reducible refine gs ?_ ?_; first | omega | (simp; omega)) | with_reducible refine ga ?_ | with_reducible refine gd ?_ | with_reducible refine gdn ?_ | with_reducible refine gt ?_ (by assumption)))
set_option maxRecDepth 100000 in
set_option maxHeartbeats 1000000 in
theorem rest_4 (a : Nat) (ha : a < 16) (w : World) : Calls Try.prog 11 #[stV 1 4 (a : Int) 0] w fun e w' => e = .returned (.string (str [dgB (a * 4)])) ∧ w.grownBy w' none := by
  have ht := dLit_cut ((a : Int) * 4).toNat (by omega)
  rw [show ((a : Int) * 4).toNat + 1 = ((a : Int) * 4 + 1).toNat from by omega] at ht
  have Hn : Hid (((a : Int) * 4).toNat = a * 4) := (by omega : ((a : Int) * 4).toNat = a * 4)
  go_enter Try.func11, Try.ntmps11
  go_wp2
  go_ret
  refine ⟨ret_str ?_, ?_⟩
  · first | (rw [enc_dg _ (by omega)]; exact dgS_str _) | exact dgS_str _ | (rw [Hn.out]; exact dgS_str _)
  · (repeat (first | with_reducible exact grownBy_refl _ _ | (with_reducible refine gs ?_ ?_; first | omega | (simp; omega)) | with_reducible refine ga ?_ | with_reducible refine gd ?_ | with_reducible refine gdn ?_ | with_reducible refine gt ?_ (by assumption)))
set_option maxRecDepth 100000 in
set_option maxHeartbeats 1000000 in
theorem rest_5 (a : Nat) (ha : a < 32) (w : World) : Calls Try.prog 11 #[stV 1 5 (a : Int) 0] w fun e w' => e = .returned (.string (str [dgB (a * 2)])) ∧ w.grownBy w' none := by
  have ht := dLit_cut ((a : Int) * 2).toNat (by omega)
  rw [show ((a : Int) * 2).toNat + 1 = ((a : Int) * 2 + 1).toNat from by omega] at ht
  have Hn : Hid (((a : Int) * 2).toNat = a * 2) := (by omega : ((a : Int) * 2).toNat = a * 2)
  go_enter Try.func11, Try.ntmps11
  go_wp2
  go_ret
  refine ⟨ret_str ?_, ?_⟩
  · first | (rw [enc_dg _ (by omega)]; exact dgS_str _) | exact dgS_str _ | (rw [Hn.out]; exact dgS_str _)
  · (repeat (first | with_reducible exact grownBy_refl _ _ | (with_reducible refine gs ?_ ?_; first | omega | (simp; omega)) | with_reducible refine ga ?_ | with_reducible refine gd ?_ | with_reducible refine gdn ?_ | with_reducible refine gt ?_ (by assumption)))
theorem rest_any (b a : Nat) (hb : b ≤ 5) (ha : a < 2 ^ b) (w : World) (s : ByteArray) (hs : str (lastL b a) = s) : Calls Try.prog 11 #[stV 1 (b : Int) (a : Int) 0] w fun e w' => e = .returned (.string s) ∧ w.grownBy w' none := by
  subst hs
  rcases six hb with rfl | rfl | rfl | rfl | rfl | rfl
  · exact rest_zero 1 a w
  · exact rest_1 a (by simpa using ha) w
  · exact rest_2 a (by simpa using ha) w
  · exact rest_3 a (by simpa using ha) w
  · exact rest_4 a (by simpa using ha) w
  · exact rest_5 a (by simpa using ha) w
end Go.Proofs.Ytldbllfifjdajaa.Sv
