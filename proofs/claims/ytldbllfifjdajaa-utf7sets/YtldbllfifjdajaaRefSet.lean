/- The document's step that puts out a scalar: walks. -/
import Derived.Test.YtldbllfifjdajaaSet
namespace Go.Proofs.Ytldbllfifjdajaa.Sv
open Go.ChangeShapes Go.WideShapes Go.ChangeAt Go.RowKit Go.Proofs.Ytldbllfifjdajaa.Mem Go.Proofs.Ytldbllfifjdajaa.Ucs
set_option linter.unusedVariables false
set_option linter.unusedSimpArgs false

theorem byte_nat {u : Int} (h0 : 0 ≤ u) (h1 : u < 128) : ((u.toNat.toUInt8).toNat : Int) = u := by
  have : u.toNat < 256 := by omega
  rw [Nat.toUInt8_eq, UInt8.toNat_ofNat', Nat.mod_eq_of_lt (by omega)]; omega
theorem direct_int (u : Int) (h0 : 0 ≤ u) (h1 : u < 128) (w : World) (t : Bool) (ht : hasB plainL u = t) : Calls Try.prog 17 #[.int .u8 u] w fun e w' => e = .returned (.bool t) ∧ w' = w := by
  have := direct_any u.toNat.toUInt8 w t (by rw [← ht, plain_is u h0 h1]; rfl)
  rwa [byte_nat h0 h1] at this
theorem place_int (s : ByteArray) (hs : s.data.toList = digL) (u : Int) (h0 : 0 ≤ u) (h1 : u < 128) (w : World) (i : Int) (hi : Lib.indexByte digL u.toNat.toUInt8 = i) : Calls Try.prog 18 #[.string s, .int .u8 u] w fun e w' => e = .returned (.int .i64 i) ∧ w' = w := by
  have hz : s.size = 64 := by show s.data.toList.length = 64; rw [hs]; rfl
  have := place_is s (by omega) u.toNat.toUInt8 w i (by rw [hs]; exact hi)
  rwa [byte_nat h0 h1] at this
theorem splitR_lit (u : Int) (w : World) (a b : Int) (t : Bool) (ha : splitH u = a) (hb : splitL u = b) (ht : splitB u = t) : Calls Try.prog 19 #[.int .i32 u] w fun e w' => e = .returned (.tuple #[.int .i32 a, .int .i32 b, .bool t]) ∧ w' = w := by
  subst ha hb ht; exact split_ref u w
theorem conv_one (c : UInt8) (u : Int) (hu : (c.toNat : Int) = u) (n : Nat) (W : World) : (convert 39 9 (.slice (some ⟨W.heap.size, 0, none⟩) 1 n)).run Try.prog (W.alloc (.cells #[.int .u8 u] 5)) = .ok (.string (str [c])) (W.alloc (.cells #[.int .u8 u] 5)) := by
  subst hu
  exact conv (P := Try.prog) (L := [c]) (bytes_new W #[.int .u8 (c.toNat : Int)] [c] rfl) 39 9 n Try.underlying39 Try.underlying5 Try.underlying9

set_option maxRecDepth 100000 in
set_option maxHeartbeats 4000000 in
theorem setR_bad (md bi ac he : Int) (hac : 0 ≤ ac) (hw : Hid (wrB md bi ac he = false)) (u : Int) (w : World) : Calls Try.prog 7 #[stV md bi ac he, .int .i32 u] w fun e w' => e = .returned (putV 7 ⟨#[]⟩ 0 0 0) ∧ w.grownBy w' none := by
  go_enter Try.func7, Try.ntmps7
  go_wp2_with (first | (go_at_call 10; refine (wrR_any md bi ac he hac _ false hw.out).mono ?_; rintro e w1 ⟨rfl, hg1⟩; have sb1 := Hid.mk' ((SB.mk0 w md bi ac he).next hg1); obtain ⟨⟨s0, s1, s2, s3⟩, ⟨r0, r1, r2, r3, r4, r5⟩, fs, fr, z0, z1⟩ := sb1.out.cells))
  refine bodyPost_ret (v := putV 7 ⟨#[]⟩ 0 0 0) (by simp [results, Try.results7, go_sem, r0, r1, r2, r3, r4, r5, z1, Nat.ne_of_lt z1, (Nat.ne_of_lt z1).symm]) rfl ⟨rfl, ?_⟩
  (repeat (first | with_reducible exact grownBy_refl _ _ | (with_reducible refine gs ?_ ?_; first | omega | (simp; omega)) | with_reducible refine ga ?_ | with_reducible refine gd ?_ | with_reducible refine gdn ?_ | with_reducible refine gt ?_ (by assumption)))

set_option maxRecDepth 100000 in
set_option maxHeartbeats 4000000 in
theorem setR_none (md bi ac he : Int) (hac : 0 ≤ ac) (hw : Hid (wrB md bi ac he = true)) (u : Int) (hs : Hid (scB u = false)) (w : World) : Calls Try.prog 7 #[stV md bi ac he, .int .i32 u] w fun e w' => e = .returned (putV 11 ⟨#[]⟩ 0 0 0) ∧ w.grownBy w' none := by
  go_enter Try.func7, Try.ntmps7
  go_wp2_with (first | (go_at_call 10; refine (wrR_any md bi ac he hac _ true hw.out).mono ?_; rintro e w1 ⟨rfl, hg1⟩; have sb1 := Hid.mk' ((SB.mk0 w md bi ac he).next hg1); obtain ⟨⟨s0, s1, s2, s3⟩, ⟨r0, r1, r2, r3, r4, r5⟩, fs, fr, z0, z1⟩ := sb1.out.cells) | (go_at_call 16; refine (scalarR_is u _ false hs.out).mono ?_; rintro e w' ⟨rfl, hw⟩; obtain rfl := hw))
  refine bodyPost_ret (v := putV 11 ⟨#[]⟩ 0 0 0) (by simp [results, Try.results7, go_sem, r0, r1, r2, r3, r4, r5, z1, Nat.ne_of_lt z1, (Nat.ne_of_lt z1).symm]) rfl ⟨rfl, ?_⟩
  (repeat (first | with_reducible exact grownBy_refl _ _ | (with_reducible refine gs ?_ ?_; first | omega | (simp; omega)) | with_reducible refine ga ?_ | with_reducible refine gd ?_ | with_reducible refine gdn ?_ | with_reducible refine gt ?_ (by assumption)))

set_option maxRecDepth 100000 in
set_option maxHeartbeats 4000000 in
theorem setR_plain0 (u : Int) (h0 : 0 ≤ u) (h1 : u < 128) (hs : Hid (scB u = true)) (hp : Hid (hasB plainL u = true)) (c : UInt8) (hc : (c.toNat : Int) = u) (s : ByteArray) (hsd : str [c] = s) (w : World) : Calls Try.prog 7 #[stV 0 0 0 0, .int .i32 u] w fun e w' => e = .returned (putV 0 (⟨#[]⟩ ++ s) 0 0 0) ∧ w.grownBy w' none := by
  have hz : s.size = 1 := by rw [← hsd]; rfl
  have hcv := conv_one c u hc
  rw [hsd] at hcv
  clear hc hsd
  go_enter Try.func7, Try.ntmps7
  go_wp2_with (first | (go_at_call 10; refine (wrR_any 0 0 0 0 (by omega) _ true rfl).mono ?_; rintro e w1 ⟨rfl, hg1⟩; have sb1 := Hid.mk' ((SB.mk0 w 0 0 0 0).next hg1); obtain ⟨⟨s0, s1, s2, s3⟩, ⟨r0, r1, r2, r3, r4, r5⟩, fs, fr, z0, z1⟩ := sb1.out.cells) | (go_at_call 16; refine (scalarR_is u _ true hs.out).mono ?_; rintro e w' ⟨rfl, hw⟩; obtain rfl := hw) | (go_at_call 17; refine (direct_int u h0 h1 _ true hp.out).mono ?_; rintro e w' ⟨rfl, hw⟩; obtain rfl := hw))
  refine bodyPost_ret (v := putV 0 (⟨#[]⟩ ++ s) 0 0 0) (by simp [results, Try.results7, go_sem, r0, r1, r2, r3, r4, r5, z1, Nat.ne_of_lt z1, (Nat.ne_of_lt z1).symm]) rfl ⟨rfl, ?_⟩
  (repeat (first | with_reducible exact grownBy_refl _ _ | (with_reducible refine gs ?_ ?_; first | omega | (simp; omega)) | with_reducible refine ga ?_ | with_reducible refine gd ?_ | with_reducible refine gdn ?_ | with_reducible refine gt ?_ (by assumption)))

set_option maxRecDepth 100000 in
set_option maxHeartbeats 4000000 in
theorem setR_plain1d (b a : Nat) (hb : Hid (b ≤ 5)) (ha : Hid (a < 2 ^ b)) (hw : Hid (wrB 1 (b : Int) (a : Int) 0 = true)) (u : Int) (h0 : 0 ≤ u) (h1 : u < 128) (hs : Hid (scB u = true)) (hp : Hid (hasB plainL u = true)) (c : UInt8) (hc : (c.toNat : Int) = u) (s : ByteArray) (hsd : str [c] = s) (sl : ByteArray) (hl : Hid (str (lastL b a) = sl)) (hlz : sl.size ≤ 1) (i : Int) (hi : Hid (Lib.indexByte digL u.toNat.toUInt8 = i)) (hd : decide (0 ≤ i) = true) (w : World) : Calls Try.prog 7 #[stV 1 (b : Int) (a : Int) 0, .int .i32 u] w fun e w' => e = .returned (putV 0 ((sl ++ ⟨#[45]⟩) ++ s) 0 0 0) ∧ w.grownBy w' none := by
  have hz : s.size = 1 := by rw [← hsd]; rfl
  have hcv := conv_one c u hc
  rw [hsd] at hcv
  clear hc hsd
  go_enter Try.func7, Try.ntmps7
  go_wp2_with (first | (go_at_call 10; refine (wrR_any 1 (b : Int) (a : Int) 0 (by omega) _ true hw.out).mono ?_; rintro e w1 ⟨rfl, hg1⟩; have sb1 := Hid.mk' ((SB.mk0 w 1 (b : Int) (a : Int) 0).next hg1); obtain ⟨⟨s0, s1, s2, s3⟩, ⟨r0, r1, r2, r3, r4, r5⟩, fs, fr, z0, z1⟩ := sb1.out.cells) | (go_at_call 16; refine (scalarR_is u _ true hs.out).mono ?_; rintro e w' ⟨rfl, hw⟩; obtain rfl := hw) | (go_at_call 17; refine (direct_int u h0 h1 _ true hp.out).mono ?_; rintro e w' ⟨rfl, hw⟩; obtain rfl := hw) | (go_at_call 11; refine (rest_any b a hb.out ha.out _ sl hl.out).mono ?_; rintro e w2 ⟨rfl, hg2⟩; have sb2 := Hid.mk' (sb1.out.next hg2); clear s0 s1 s2 s3 r0 r1 r2 r3 r4 r5 fs fr z0 z1; obtain ⟨⟨s0, s1, s2, s3⟩, ⟨r0, r1, r2, r3, r4, r5⟩, fs, fr, z0, z1⟩ := sb2.out.cells) | (go_at_call 18; refine (place_int _ (by rfl) u h0 h1 _ i hi.out).mono ?_; rintro e w' ⟨rfl, hw⟩; obtain rfl := hw))
  refine bodyPost_ret (v := putV 0 ((sl ++ ⟨#[45]⟩) ++ s) 0 0 0) (by simp [results, Try.results7, go_sem, r0, r1, r2, r3, r4, r5, z1, Nat.ne_of_lt z1, (Nat.ne_of_lt z1).symm]) rfl ⟨rfl, ?_⟩
  (repeat (first | with_reducible exact grownBy_refl _ _ | (with_reducible refine gs ?_ ?_; first | omega | (simp; omega)) | with_reducible refine ga ?_ | with_reducible refine gd ?_ | with_reducible refine gdn ?_ | with_reducible refine gt ?_ (by assumption)))

set_option maxRecDepth 100000 in
set_option maxHeartbeats 4000000 in
theorem setR_plain1m (b a : Nat) (hb : Hid (b ≤ 5)) (ha : Hid (a < 2 ^ b)) (hw : Hid (wrB 1 (b : Int) (a : Int) 0 = true)) (u : Int) (h0 : 0 ≤ u) (h1 : u < 128) (hs : Hid (scB u = true)) (hp : Hid (hasB plainL u = true)) (c : UInt8) (hc : (c.toNat : Int) = u) (s : ByteArray) (hsd : str [c] = s) (sl : ByteArray) (hl : Hid (str (lastL b a) = sl)) (hlz : sl.size ≤ 1) (i : Int) (hi : Hid (Lib.indexByte digL u.toNat.toUInt8 = i)) (hd : decide (0 ≤ i) = false) (hm : (u == 45) = true) (w : World) : Calls Try.prog 7 #[stV 1 (b : Int) (a : Int) 0, .int .i32 u] w fun e w' => e = .returned (putV 0 ((sl ++ ⟨#[45]⟩) ++ s) 0 0 0) ∧ w.grownBy w' none := by
  have hz : s.size = 1 := by rw [← hsd]; rfl
  have hcv := conv_one c u hc
  rw [hsd] at hcv
  clear hc hsd
  go_enter Try.func7, Try.ntmps7
  go_wp2_with (first | (go_at_call 10; refine (wrR_any 1 (b : Int) (a : Int) 0 (by omega) _ true hw.out).mono ?_; rintro e w1 ⟨rfl, hg1⟩; have sb1 := Hid.mk' ((SB.mk0 w 1 (b : Int) (a : Int) 0).next hg1); obtain ⟨⟨s0, s1, s2, s3⟩, ⟨r0, r1, r2, r3, r4, r5⟩, fs, fr, z0, z1⟩ := sb1.out.cells) | (go_at_call 16; refine (scalarR_is u _ true hs.out).mono ?_; rintro e w' ⟨rfl, hw⟩; obtain rfl := hw) | (go_at_call 17; refine (direct_int u h0 h1 _ true hp.out).mono ?_; rintro e w' ⟨rfl, hw⟩; obtain rfl := hw) | (go_at_call 11; refine (rest_any b a hb.out ha.out _ sl hl.out).mono ?_; rintro e w2 ⟨rfl, hg2⟩; have sb2 := Hid.mk' (sb1.out.next hg2); clear s0 s1 s2 s3 r0 r1 r2 r3 r4 r5 fs fr z0 z1; obtain ⟨⟨s0, s1, s2, s3⟩, ⟨r0, r1, r2, r3, r4, r5⟩, fs, fr, z0, z1⟩ := sb2.out.cells) | (go_at_call 18; refine (place_int _ (by rfl) u h0 h1 _ i hi.out).mono ?_; rintro e w' ⟨rfl, hw⟩; obtain rfl := hw))
  refine bodyPost_ret (v := putV 0 ((sl ++ ⟨#[45]⟩) ++ s) 0 0 0) (by simp [results, Try.results7, go_sem, r0, r1, r2, r3, r4, r5, z1, Nat.ne_of_lt z1, (Nat.ne_of_lt z1).symm]) rfl ⟨rfl, ?_⟩
  (repeat (first | with_reducible exact grownBy_refl _ _ | (with_reducible refine gs ?_ ?_; first | omega | (simp; omega)) | with_reducible refine ga ?_ | with_reducible refine gd ?_ | with_reducible refine gdn ?_ | with_reducible refine gt ?_ (by assumption)))

set_option maxRecDepth 100000 in
set_option maxHeartbeats 4000000 in
theorem setR_plain1b (b a : Nat) (hb : Hid (b ≤ 5)) (ha : Hid (a < 2 ^ b)) (hw : Hid (wrB 1 (b : Int) (a : Int) 0 = true)) (u : Int) (h0 : 0 ≤ u) (h1 : u < 128) (hs : Hid (scB u = true)) (hp : Hid (hasB plainL u = true)) (c : UInt8) (hc : (c.toNat : Int) = u) (s : ByteArray) (hsd : str [c] = s) (sl : ByteArray) (hl : Hid (str (lastL b a) = sl)) (hlz : sl.size ≤ 1) (i : Int) (hi : Hid (Lib.indexByte digL u.toNat.toUInt8 = i)) (hd : decide (0 ≤ i) = false) (hm : (u == 45) = false) (w : World) : Calls Try.prog 7 #[stV 1 (b : Int) (a : Int) 0, .int .i32 u] w fun e w' => e = .returned (putV 0 (sl ++ s) 0 0 0) ∧ w.grownBy w' none := by
  have hz : s.size = 1 := by rw [← hsd]; rfl
  have hcv := conv_one c u hc
  rw [hsd] at hcv
  clear hc hsd
  go_enter Try.func7, Try.ntmps7
  go_wp2_with (first | (go_at_call 10; refine (wrR_any 1 (b : Int) (a : Int) 0 (by omega) _ true hw.out).mono ?_; rintro e w1 ⟨rfl, hg1⟩; have sb1 := Hid.mk' ((SB.mk0 w 1 (b : Int) (a : Int) 0).next hg1); obtain ⟨⟨s0, s1, s2, s3⟩, ⟨r0, r1, r2, r3, r4, r5⟩, fs, fr, z0, z1⟩ := sb1.out.cells) | (go_at_call 16; refine (scalarR_is u _ true hs.out).mono ?_; rintro e w' ⟨rfl, hw⟩; obtain rfl := hw) | (go_at_call 17; refine (direct_int u h0 h1 _ true hp.out).mono ?_; rintro e w' ⟨rfl, hw⟩; obtain rfl := hw) | (go_at_call 11; refine (rest_any b a hb.out ha.out _ sl hl.out).mono ?_; rintro e w2 ⟨rfl, hg2⟩; have sb2 := Hid.mk' (sb1.out.next hg2); clear s0 s1 s2 s3 r0 r1 r2 r3 r4 r5 fs fr z0 z1; obtain ⟨⟨s0, s1, s2, s3⟩, ⟨r0, r1, r2, r3, r4, r5⟩, fs, fr, z0, z1⟩ := sb2.out.cells) | (go_at_call 18; refine (place_int _ (by rfl) u h0 h1 _ i hi.out).mono ?_; rintro e w' ⟨rfl, hw⟩; obtain rfl := hw))
  refine bodyPost_ret (v := putV 0 (sl ++ s) 0 0 0) (by simp [results, Try.results7, go_sem, r0, r1, r2, r3, r4, r5, z1, Nat.ne_of_lt z1, (Nat.ne_of_lt z1).symm]) rfl ⟨rfl, ?_⟩
  (repeat (first | with_reducible exact grownBy_refl _ _ | (with_reducible refine gs ?_ ?_; first | omega | (simp; omega)) | with_reducible refine ga ?_ | with_reducible refine gd ?_ | with_reducible refine gdn ?_ | with_reducible refine gt ?_ (by assumption)))

set_option maxRecDepth 100000 in
set_option maxHeartbeats 4000000 in
theorem setR_plus (u : Int) (hu : u = 43) (w : World) : Calls Try.prog 7 #[stV 0 0 0 0, .int .i32 u] w fun e w' => e = .returned (putV 0 ⟨#[43, 45]⟩ 0 0 0) ∧ w.grownBy w' none := by
  subst hu
  go_enter Try.func7, Try.ntmps7
  go_wp2_with (first | (go_at_call 10; refine (wrR_any 0 0 0 0 (by omega) _ true rfl).mono ?_; rintro e w1 ⟨rfl, hg1⟩; have sb1 := Hid.mk' ((SB.mk0 w 0 0 0 0).next hg1); obtain ⟨⟨s0, s1, s2, s3⟩, ⟨r0, r1, r2, r3, r4, r5⟩, fs, fr, z0, z1⟩ := sb1.out.cells) | (go_at_call 16; refine (scalarR_is 43 _ true rfl).mono ?_; rintro e w' ⟨rfl, hw⟩; obtain rfl := hw) | (go_at_call 17; refine (direct_int 43 (by omega) (by omega) _ false (by decide +kernel)).mono ?_; rintro e w' ⟨rfl, hw⟩; obtain rfl := hw))
  refine bodyPost_ret (v := putV 0 ⟨#[43, 45]⟩ 0 0 0) (by simp [results, Try.results7, go_sem, r0, r1, r2, r3, r4, r5, z1, Nat.ne_of_lt z1, (Nat.ne_of_lt z1).symm]) rfl ⟨rfl, ?_⟩
  (repeat (first | with_reducible exact grownBy_refl _ _ | (with_reducible refine gs ?_ ?_; first | omega | (simp; omega)) | with_reducible refine ga ?_ | with_reducible refine gd ?_ | with_reducible refine gdn ?_ | with_reducible refine gt ?_ (by assumption)))

set_option maxRecDepth 100000 in
set_option maxHeartbeats 4000000 in
theorem setR_in1lo (b a : Nat) (hb : Hid (b ≤ 5)) (ha : Hid (a < 2 ^ b)) (hw : Hid (wrB 1 (b : Int) (a : Int) 0 = true)) (u : Int) (h0 : 0 ≤ u) (h1 : u < 128) (hs : Hid (scB u = true)) (hp : Hid (hasB plainL u = false)) (h_h : Hid (splitH u = 0)) (h_l : Hid (splitL u = 0)) (h_b : Hid (splitB u = false)) (B1 : ByteArray) (r1' A1 : Int) (hB1 : Hid (∀ w : World, Calls Try.prog 20 #[stV 1 (b : Int) (a : Int) 0, .int .i32 u] w fun e w' => e = .returned (.tuple #[.string B1, stV 1 r1' A1 0]) ∧ w.grownBy w' none)) (hz1 : B1.size ≤ 8) (w : World) : Calls Try.prog 7 #[stV 1 (b : Int) (a : Int) 0, .int .i32 u] w fun e w' => e = .returned (putV 0 (⟨#[]⟩ ++ B1) 1 r1' A1) ∧ w.grownBy w' none := by
  go_enter Try.func7, Try.ntmps7
  go_wp2_with (first | (go_at_call 10; refine (wrR_any 1 (b : Int) (a : Int) 0 (by omega) _ true hw.out).mono ?_; rintro e w1 ⟨rfl, hg1⟩; have sb1 := Hid.mk' ((SB.mk0 w 1 (b : Int) (a : Int) 0).next hg1); obtain ⟨⟨s0, s1, s2, s3⟩, ⟨r0, r1, r2, r3, r4, r5⟩, fs, fr, z0, z1⟩ := sb1.out.cells) | (go_at_call 16; refine (scalarR_is u _ true hs.out).mono ?_; rintro e w' ⟨rfl, hw⟩; obtain rfl := hw) | (go_at_call 17; refine (direct_int u h0 h1 _ false hp.out).mono ?_; rintro e w' ⟨rfl, hw⟩; obtain rfl := hw) | (go_at_call 19; refine (splitR_lit u _ 0 0 false h_h.out h_l.out h_b.out).mono ?_; rintro e w' ⟨rfl, hw⟩; obtain rfl := hw) | (go_at_call 20; refine (hB1.out _).mono ?_; rintro e w2 ⟨rfl, hg2⟩; have sb2 := Hid.mk' (sb1.out.next hg2); clear s0 s1 s2 s3 r0 r1 r2 r3 r4 r5 fs fr z0 z1; obtain ⟨⟨s0, s1, s2, s3⟩, ⟨r0, r1, r2, r3, r4, r5⟩, fs, fr, z0, z1⟩ := sb2.out.cells))
  refine bodyPost_ret (v := putV 0 (⟨#[]⟩ ++ B1) 1 r1' A1) (by simp [results, Try.results7, go_sem, r0, r1, r2, r3, r4, r5, z1, Nat.ne_of_lt z1, (Nat.ne_of_lt z1).symm]) rfl ⟨rfl, ?_⟩
  (repeat (first | with_reducible exact grownBy_refl _ _ | (with_reducible refine gs ?_ ?_; first | omega | (simp; omega)) | with_reducible refine ga ?_ | with_reducible refine gd ?_ | with_reducible refine gdn ?_ | with_reducible refine gt ?_ (by assumption)))

set_option maxRecDepth 100000 in
set_option maxHeartbeats 4000000 in
theorem setR_in1hi (b a : Nat) (hb : Hid (b ≤ 5)) (ha : Hid (a < 2 ^ b)) (hw : Hid (wrB 1 (b : Int) (a : Int) 0 = true)) (u : Int) (h1 : (decide (u < 128)) = false) (hs : Hid (scB u = true)) (h_h : Hid (splitH u = 0)) (h_l : Hid (splitL u = 0)) (h_b : Hid (splitB u = false)) (B1 : ByteArray) (r1' A1 : Int) (hB1 : Hid (∀ w : World, Calls Try.prog 20 #[stV 1 (b : Int) (a : Int) 0, .int .i32 u] w fun e w' => e = .returned (.tuple #[.string B1, stV 1 r1' A1 0]) ∧ w.grownBy w' none)) (hz1 : B1.size ≤ 8) (w : World) : Calls Try.prog 7 #[stV 1 (b : Int) (a : Int) 0, .int .i32 u] w fun e w' => e = .returned (putV 0 (⟨#[]⟩ ++ B1) 1 r1' A1) ∧ w.grownBy w' none := by
  go_enter Try.func7, Try.ntmps7
  go_wp2_with (first | (go_at_call 10; refine (wrR_any 1 (b : Int) (a : Int) 0 (by omega) _ true hw.out).mono ?_; rintro e w1 ⟨rfl, hg1⟩; have sb1 := Hid.mk' ((SB.mk0 w 1 (b : Int) (a : Int) 0).next hg1); obtain ⟨⟨s0, s1, s2, s3⟩, ⟨r0, r1, r2, r3, r4, r5⟩, fs, fr, z0, z1⟩ := sb1.out.cells) | (go_at_call 16; refine (scalarR_is u _ true hs.out).mono ?_; rintro e w' ⟨rfl, hw⟩; obtain rfl := hw) | (go_at_call 19; refine (splitR_lit u _ 0 0 false h_h.out h_l.out h_b.out).mono ?_; rintro e w' ⟨rfl, hw⟩; obtain rfl := hw) | (go_at_call 20; refine (hB1.out _).mono ?_; rintro e w2 ⟨rfl, hg2⟩; have sb2 := Hid.mk' (sb1.out.next hg2); clear s0 s1 s2 s3 r0 r1 r2 r3 r4 r5 fs fr z0 z1; obtain ⟨⟨s0, s1, s2, s3⟩, ⟨r0, r1, r2, r3, r4, r5⟩, fs, fr, z0, z1⟩ := sb2.out.cells))
  refine bodyPost_ret (v := putV 0 (⟨#[]⟩ ++ B1) 1 r1' A1) (by simp [results, Try.results7, go_sem, r0, r1, r2, r3, r4, r5, z1, Nat.ne_of_lt z1, (Nat.ne_of_lt z1).symm]) rfl ⟨rfl, ?_⟩
  (repeat (first | with_reducible exact grownBy_refl _ _ | (with_reducible refine gs ?_ ?_; first | omega | (simp; omega)) | with_reducible refine ga ?_ | with_reducible refine gd ?_ | with_reducible refine gdn ?_ | with_reducible refine gt ?_ (by assumption)))

set_option maxRecDepth 100000 in
set_option maxHeartbeats 4000000 in
theorem setR_in2 (b a : Nat) (hb : Hid (b ≤ 5)) (ha : Hid (a < 2 ^ b)) (hw : Hid (wrB 1 (b : Int) (a : Int) 0 = true)) (u : Int) (h1 : (decide (u < 128)) = false) (hs : Hid (scB u = true)) (hh ll : Int) (h_h : Hid (splitH u = hh)) (h_l : Hid (splitL u = ll)) (h_b : Hid (splitB u = true)) (B1 : ByteArray) (r1' A1 : Int) (hB1 : Hid (∀ w : World, Calls Try.prog 20 #[stV 1 (b : Int) (a : Int) 0, .int .i32 hh] w fun e w' => e = .returned (.tuple #[.string B1, stV 1 r1' A1 0]) ∧ w.grownBy w' none)) (hz1 : B1.size ≤ 8) (B2 : ByteArray) (r2' A2 : Int) (hB2 : Hid (∀ w : World, Calls Try.prog 20 #[stV 1 r1' A1 0, .int .i32 ll] w fun e w' => e = .returned (.tuple #[.string B2, stV 1 r2' A2 0]) ∧ w.grownBy w' none)) (hz2 : B2.size ≤ 8) (w : World) : Calls Try.prog 7 #[stV 1 (b : Int) (a : Int) 0, .int .i32 u] w fun e w' => e = .returned (putV 0 ((⟨#[]⟩ ++ B1) ++ B2) 1 r2' A2) ∧ w.grownBy w' none := by
  go_enter Try.func7, Try.ntmps7
  go_wp2_with (first | (go_at_call 10; refine (wrR_any 1 (b : Int) (a : Int) 0 (by omega) _ true hw.out).mono ?_; rintro e w1 ⟨rfl, hg1⟩; have sb1 := Hid.mk' ((SB.mk0 w 1 (b : Int) (a : Int) 0).next hg1); obtain ⟨⟨s0, s1, s2, s3⟩, ⟨r0, r1, r2, r3, r4, r5⟩, fs, fr, z0, z1⟩ := sb1.out.cells) | (go_at_call 16; refine (scalarR_is u _ true hs.out).mono ?_; rintro e w' ⟨rfl, hw⟩; obtain rfl := hw) | (go_at_call 19; refine (splitR_lit u _ hh ll true h_h.out h_l.out h_b.out).mono ?_; rintro e w' ⟨rfl, hw⟩; obtain rfl := hw) | (go_at_call_of 20 (Value.int IntKind.i32 hh); refine (hB1.out _).mono ?_; rintro e w2 ⟨rfl, hg2⟩; have sb2 := Hid.mk' (sb1.out.next hg2); clear s0 s1 s2 s3 r0 r1 r2 r3 r4 r5 fs fr z0 z1; obtain ⟨⟨s0, s1, s2, s3⟩, ⟨r0, r1, r2, r3, r4, r5⟩, fs, fr, z0, z1⟩ := sb2.out.cells) | (go_at_call_of 20 (Value.int IntKind.i32 ll); refine (hB2.out _).mono ?_; rintro e w3 ⟨rfl, hg3⟩; have sb3 := Hid.mk' ((sb2.out.alloc _).next hg3); clear s0 s1 s2 s3 r0 r1 r2 r3 r4 r5 fs fr z0 z1; obtain ⟨⟨s0, s1, s2, s3⟩, ⟨r0, r1, r2, r3, r4, r5⟩, fs, fr, z0, z1⟩ := sb3.out.cells))
  refine bodyPost_ret (v := putV 0 ((⟨#[]⟩ ++ B1) ++ B2) 1 r2' A2) (by simp [results, Try.results7, go_sem, r0, r1, r2, r3, r4, r5, z1, Nat.ne_of_lt z1, (Nat.ne_of_lt z1).symm]) rfl ⟨rfl, ?_⟩
  (repeat (first | with_reducible exact grownBy_refl _ _ | (with_reducible refine gs ?_ ?_; first | omega | (simp; omega)) | with_reducible refine ga ?_ | with_reducible refine gd ?_ | with_reducible refine gdn ?_ | with_reducible refine gt ?_ (by assumption)))

set_option maxRecDepth 100000 in
set_option maxHeartbeats 4000000 in
theorem setR_out1lo (u : Int) (h0 : 0 ≤ u) (h1 : u < 128) (hs : Hid (scB u = true)) (hp : Hid (hasB plainL u = false)) (hu : (u == 43) = false) (h_h : Hid (splitH u = 0)) (h_l : Hid (splitL u = 0)) (h_b : Hid (splitB u = false)) (B1 : ByteArray) (r1' A1 : Int) (hB1 : Hid (∀ w : World, Calls Try.prog 20 #[stV 0 0 0 0, .int .i32 u] w fun e w' => e = .returned (.tuple #[.string B1, stV 1 r1' A1 0]) ∧ w.grownBy w' none)) (hz1 : B1.size ≤ 8) (w : World) : Calls Try.prog 7 #[stV 0 0 0 0, .int .i32 u] w fun e w' => e = .returned (putV 0 (⟨#[43]⟩ ++ B1) 1 r1' A1) ∧ w.grownBy w' none := by
  go_enter Try.func7, Try.ntmps7
  go_wp2_with (first | (go_at_call 10; refine (wrR_any 0 0 0 0 (by omega) _ true rfl).mono ?_; rintro e w1 ⟨rfl, hg1⟩; have sb1 := Hid.mk' ((SB.mk0 w 0 0 0 0).next hg1); obtain ⟨⟨s0, s1, s2, s3⟩, ⟨r0, r1, r2, r3, r4, r5⟩, fs, fr, z0, z1⟩ := sb1.out.cells) | (go_at_call 16; refine (scalarR_is u _ true hs.out).mono ?_; rintro e w' ⟨rfl, hw⟩; obtain rfl := hw) | (go_at_call 17; refine (direct_int u h0 h1 _ false hp.out).mono ?_; rintro e w' ⟨rfl, hw⟩; obtain rfl := hw) | (go_at_call 19; refine (splitR_lit u _ 0 0 false h_h.out h_l.out h_b.out).mono ?_; rintro e w' ⟨rfl, hw⟩; obtain rfl := hw) | (go_at_call 20; refine (hB1.out _).mono ?_; rintro e w2 ⟨rfl, hg2⟩; have sb2 := Hid.mk' (sb1.out.next hg2); clear s0 s1 s2 s3 r0 r1 r2 r3 r4 r5 fs fr z0 z1; obtain ⟨⟨s0, s1, s2, s3⟩, ⟨r0, r1, r2, r3, r4, r5⟩, fs, fr, z0, z1⟩ := sb2.out.cells))
  refine bodyPost_ret (v := putV 0 (⟨#[43]⟩ ++ B1) 1 r1' A1) (by simp [results, Try.results7, go_sem, r0, r1, r2, r3, r4, r5, z1, Nat.ne_of_lt z1, (Nat.ne_of_lt z1).symm]) rfl ⟨rfl, ?_⟩
  (repeat (first | with_reducible exact grownBy_refl _ _ | (with_reducible refine gs ?_ ?_; first | omega | (simp; omega)) | with_reducible refine ga ?_ | with_reducible refine gd ?_ | with_reducible refine gdn ?_ | with_reducible refine gt ?_ (by assumption)))

set_option maxRecDepth 100000 in
set_option maxHeartbeats 4000000 in
theorem setR_out1hi (u : Int) (h1 : (decide (u < 128)) = false) (hs : Hid (scB u = true)) (hu : (u == 43) = false) (h_h : Hid (splitH u = 0)) (h_l : Hid (splitL u = 0)) (h_b : Hid (splitB u = false)) (B1 : ByteArray) (r1' A1 : Int) (hB1 : Hid (∀ w : World, Calls Try.prog 20 #[stV 0 0 0 0, .int .i32 u] w fun e w' => e = .returned (.tuple #[.string B1, stV 1 r1' A1 0]) ∧ w.grownBy w' none)) (hz1 : B1.size ≤ 8) (w : World) : Calls Try.prog 7 #[stV 0 0 0 0, .int .i32 u] w fun e w' => e = .returned (putV 0 (⟨#[43]⟩ ++ B1) 1 r1' A1) ∧ w.grownBy w' none := by
  go_enter Try.func7, Try.ntmps7
  go_wp2_with (first | (go_at_call 10; refine (wrR_any 0 0 0 0 (by omega) _ true rfl).mono ?_; rintro e w1 ⟨rfl, hg1⟩; have sb1 := Hid.mk' ((SB.mk0 w 0 0 0 0).next hg1); obtain ⟨⟨s0, s1, s2, s3⟩, ⟨r0, r1, r2, r3, r4, r5⟩, fs, fr, z0, z1⟩ := sb1.out.cells) | (go_at_call 16; refine (scalarR_is u _ true hs.out).mono ?_; rintro e w' ⟨rfl, hw⟩; obtain rfl := hw) | (go_at_call 19; refine (splitR_lit u _ 0 0 false h_h.out h_l.out h_b.out).mono ?_; rintro e w' ⟨rfl, hw⟩; obtain rfl := hw) | (go_at_call 20; refine (hB1.out _).mono ?_; rintro e w2 ⟨rfl, hg2⟩; have sb2 := Hid.mk' (sb1.out.next hg2); clear s0 s1 s2 s3 r0 r1 r2 r3 r4 r5 fs fr z0 z1; obtain ⟨⟨s0, s1, s2, s3⟩, ⟨r0, r1, r2, r3, r4, r5⟩, fs, fr, z0, z1⟩ := sb2.out.cells))
  refine bodyPost_ret (v := putV 0 (⟨#[43]⟩ ++ B1) 1 r1' A1) (by simp [results, Try.results7, go_sem, r0, r1, r2, r3, r4, r5, z1, Nat.ne_of_lt z1, (Nat.ne_of_lt z1).symm]) rfl ⟨rfl, ?_⟩
  (repeat (first | with_reducible exact grownBy_refl _ _ | (with_reducible refine gs ?_ ?_; first | omega | (simp; omega)) | with_reducible refine ga ?_ | with_reducible refine gd ?_ | with_reducible refine gdn ?_ | with_reducible refine gt ?_ (by assumption)))

set_option maxRecDepth 100000 in
set_option maxHeartbeats 4000000 in
theorem setR_out2 (u : Int) (h1 : (decide (u < 128)) = false) (hs : Hid (scB u = true)) (hu : (u == 43) = false) (hh ll : Int) (h_h : Hid (splitH u = hh)) (h_l : Hid (splitL u = ll)) (h_b : Hid (splitB u = true)) (B1 : ByteArray) (r1' A1 : Int) (hB1 : Hid (∀ w : World, Calls Try.prog 20 #[stV 0 0 0 0, .int .i32 hh] w fun e w' => e = .returned (.tuple #[.string B1, stV 1 r1' A1 0]) ∧ w.grownBy w' none)) (hz1 : B1.size ≤ 8) (B2 : ByteArray) (r2' A2 : Int) (hB2 : Hid (∀ w : World, Calls Try.prog 20 #[stV 1 r1' A1 0, .int .i32 ll] w fun e w' => e = .returned (.tuple #[.string B2, stV 1 r2' A2 0]) ∧ w.grownBy w' none)) (hz2 : B2.size ≤ 8) (w : World) : Calls Try.prog 7 #[stV 0 0 0 0, .int .i32 u] w fun e w' => e = .returned (putV 0 ((⟨#[43]⟩ ++ B1) ++ B2) 1 r2' A2) ∧ w.grownBy w' none := by
  go_enter Try.func7, Try.ntmps7
  go_wp2_with (first | (go_at_call 10; refine (wrR_any 0 0 0 0 (by omega) _ true rfl).mono ?_; rintro e w1 ⟨rfl, hg1⟩; have sb1 := Hid.mk' ((SB.mk0 w 0 0 0 0).next hg1); obtain ⟨⟨s0, s1, s2, s3⟩, ⟨r0, r1, r2, r3, r4, r5⟩, fs, fr, z0, z1⟩ := sb1.out.cells) | (go_at_call 16; refine (scalarR_is u _ true hs.out).mono ?_; rintro e w' ⟨rfl, hw⟩; obtain rfl := hw) | (go_at_call 19; refine (splitR_lit u _ hh ll true h_h.out h_l.out h_b.out).mono ?_; rintro e w' ⟨rfl, hw⟩; obtain rfl := hw) | (go_at_call_of 20 (Value.int IntKind.i32 hh); refine (hB1.out _).mono ?_; rintro e w2 ⟨rfl, hg2⟩; have sb2 := Hid.mk' (sb1.out.next hg2); clear s0 s1 s2 s3 r0 r1 r2 r3 r4 r5 fs fr z0 z1; obtain ⟨⟨s0, s1, s2, s3⟩, ⟨r0, r1, r2, r3, r4, r5⟩, fs, fr, z0, z1⟩ := sb2.out.cells) | (go_at_call_of 20 (Value.int IntKind.i32 ll); refine (hB2.out _).mono ?_; rintro e w3 ⟨rfl, hg3⟩; have sb3 := Hid.mk' ((sb2.out.alloc _).next hg3); clear s0 s1 s2 s3 r0 r1 r2 r3 r4 r5 fs fr z0 z1; obtain ⟨⟨s0, s1, s2, s3⟩, ⟨r0, r1, r2, r3, r4, r5⟩, fs, fr, z0, z1⟩ := sb3.out.cells))
  refine bodyPost_ret (v := putV 0 ((⟨#[43]⟩ ++ B1) ++ B2) 1 r2' A2) (by simp [results, Try.results7, go_sem, r0, r1, r2, r3, r4, r5, z1, Nat.ne_of_lt z1, (Nat.ne_of_lt z1).symm]) rfl ⟨rfl, ?_⟩
  (repeat (first | with_reducible exact grownBy_refl _ _ | (with_reducible refine gs ?_ ?_; first | omega | (simp; omega)) | with_reducible refine ga ?_ | with_reducible refine gd ?_ | with_reducible refine gdn ?_ | with_reducible refine gt ?_ (by assumption)))
end Go.Proofs.Ytldbllfifjdajaa.Sv
