/- The document's step that puts out a scalar: walks. -/
import Derived.Test.YtkfcciacoplgmaaRefSet0
import Derived.Deep.RegionHeld3
import Derived.BigQuiet
namespace Go.Proofs.Ytkfcciacoplgmaa.Wd
open Go.ChangeShapes Go.WideShapes Go.ChangeAt Go.RowKit Go.Proofs.Ytkfcciacoplgmaa.Mem Go.Proofs.Ytkfcciacoplgmaa.Ucs
set_option linter.unusedVariables false
set_option linter.unusedSimpArgs false

set_option maxRecDepth 100000 in
set_option maxHeartbeats 4000000 in
theorem setR_n4l_0 (k md : Int) (p low : Bool) (hf : Hid (fm k = some (4, p, false, low))) (hfit : Hid (fitB false md 0 0 0 = true)) (u : Nat) (hs : Hid (scB (u : Int) = true)) (a b : Int) (t : Bool) (ha : Hid (splitH (u : Int) = a)) (hb : Hid (splitL (u : Int) = b)) (hc : Hid (splitB (u : Int) = t)) (w : World) (hu : 65535 < u) (k9 : (k == 9) = false) (k10 : (k == 10) = false) (lo : Bool) (hlo : Hid ((low || decide (md = 2)) = lo)) (s1t : ByteArray) (h1 : Hid (str (unitB lo 4 u) = s1t)) (z1 : s1t.size ≤ 4) :
    Calls Try.prog 14 #[.int .i64 k, .agg #[.int .i64 md, .int .i64 0, .int .u32 0, .int .i32 0], .int .i32 (u : Int)] w fun e w' => e = .returned (putS 0 (⟨#[]⟩ ++ s1t) md) ∧ w.grownBy w' none := by
  have hub := (scB_iff.1 hs.out).2.1
  have hub' : u ≤ 1114111 := by omega
  clear hub
  go_enter Try.func14, Try.ntmps14
  go_wp2_with (first | (go_at_call 12; refine (hasR_any hf.out _).mono ?_; rintro e wq ⟨rfl, hw⟩; obtain rfl := hw) | (go_at_call 22; refine (fitsR_any hf.out md 0 0 0 _ true hfit.out).mono ?_; rintro e w1 ⟨rfl, hg1⟩; have sr1 := Hid.mk' (SR.mk1 hg1); obtain ⟨s0, s1, s2, s3⟩ := sr1.out.cells) | (go_at_call 16; refine (scalarR_is _ _ true hs.out).mono ?_; rintro e wq ⟨rfl, hw⟩; obtain rfl := hw) | (go_at_call 24; refine (size_any hf.out _).mono ?_; rintro e wq ⟨rfl, hw⟩; obtain rfl := hw) | (go_at_call 23; refine (marked_any hf.out _).mono ?_; rintro e wq ⟨rfl, hw⟩; obtain rfl := hw) | (go_at_call 27; refine (little_any hf.out md hfit.out _ lo hlo.out).mono ?_; rintro e wq ⟨rfl, hw⟩; obtain rfl := hw) | (go_at_call 32; refine (splitR_lit _ _ a b t ha.out hb.out hc.out).mono ?_; rintro e wq ⟨rfl, hw⟩; obtain rfl := hw))
  go_region_with (first | (go_at_call 31; refine (unitR_any lo 4 (by omega) u (by omega) _ (wrapu u (by omega)) _ s1t h1.out).mono ?_; rintro e w3 ⟨rfl, hg3⟩; have sr3 := Hid.mk' (sr1.out.drew.next hg3); clear s0 s1 s2 s3; obtain ⟨s0, s1, s2, s3⟩ := sr3.out.cells; have rb := sr3.out.res; have r0 := cell_at rb 0 rfl; have r1 := cell_at rb 1 rfl; have r2 := cell_at rb 2 rfl; have r3 := cell_at rb 3 rfl; have r4 := cell_at rb 4 rfl; have r5 := cell_at rb 5 rfl; have fz := froz_at rb; clear rb))
  all_goals go_wp2
  all_goals refine bodyPost_ret (v := putS 0 (⟨#[]⟩ ++ s1t) md) (by simp [results, Try.results14, go_sem, r0, r1, r2, r3, r4, r5]) rfl ⟨rfl, ?_⟩
  all_goals (repeat (first | with_reducible exact grownBy_refl _ _ | (with_reducible refine gs ?_ ?_; first | omega | (simp; omega)) | with_reducible refine ga ?_ | with_reducible refine gd ?_ | with_reducible refine gdn ?_ | with_reducible refine gt ?_ (by assumption)))

set_option maxRecDepth 100000 in
set_option maxHeartbeats 4000000 in
theorem setR_n4l_1 (k md : Int) (p low : Bool) (hf : Hid (fm k = some (4, p, true, low))) (hfit : Hid (fitB true md 0 0 0 = true)) (u : Nat) (hs : Hid (scB (u : Int) = true)) (a b : Int) (t : Bool) (ha : Hid (splitH (u : Int) = a)) (hb : Hid (splitL (u : Int) = b)) (hc : Hid (splitB (u : Int) = t)) (w : World) (hu : 65535 < u) (k9 : (k == 9) = false) (k10 : (k == 10) = false) (lo : Bool) (hlo : Hid ((low || decide ((1 : Int) = 2)) = lo)) (s0t : ByteArray) (hT : Hid (str (unitB false 4 65279) = s0t)) (tz : s0t.size ≤ 4) (hmd : md = 0) (s1t : ByteArray) (h1 : Hid (str (unitB lo 4 u) = s1t)) (z1 : s1t.size ≤ 4) :
    Calls Try.prog 14 #[.int .i64 k, .agg #[.int .i64 md, .int .i64 0, .int .u32 0, .int .i32 0], .int .i32 (u : Int)] w fun e w' => e = .returned (putS 0 (s0t ++ s1t) 1) ∧ w.grownBy w' none := by
  subst hmd
  have hub := (scB_iff.1 hs.out).2.1
  have hub' : u ≤ 1114111 := by omega
  clear hub
  go_enter Try.func14, Try.ntmps14
  go_wp2_with (first | (go_at_call 12; refine (hasR_any hf.out _).mono ?_; rintro e wq ⟨rfl, hw⟩; obtain rfl := hw) | (go_at_call 22; refine (fitsR_any hf.out 0 0 0 0 _ true hfit.out).mono ?_; rintro e w1 ⟨rfl, hg1⟩; have sr1 := Hid.mk' (SR.mk1 hg1); obtain ⟨s0, s1, s2, s3⟩ := sr1.out.cells) | (go_at_call 16; refine (scalarR_is _ _ true hs.out).mono ?_; rintro e wq ⟨rfl, hw⟩; obtain rfl := hw) | (go_at_call 24; refine (size_any hf.out _).mono ?_; rintro e wq ⟨rfl, hw⟩; obtain rfl := hw) | (go_at_call 23; refine (marked_any hf.out _).mono ?_; rintro e wq ⟨rfl, hw⟩; obtain rfl := hw) | (go_at_call 31; refine (unitR_any false 4 (by omega) 65279 (by omega) 65279 (by rfl) _ s0t hT.out).mono ?_; rintro e w2 ⟨rfl, hg2⟩; have sr2 := Hid.mk' (sr1.out.next hg2); clear s0 s1 s2 s3; obtain ⟨s0, s1, s2, s3⟩ := sr2.out.cells; have fz2 := froz_at sr2.out.st) | (go_at_call 27; refine (little_any hf.out 1 (by decide) _ lo hlo.out).mono ?_; rintro e wq ⟨rfl, hw⟩; obtain rfl := hw) | (go_at_call 32; refine (splitR_lit _ _ a b t ha.out hb.out hc.out).mono ?_; rintro e wq ⟨rfl, hw⟩; obtain rfl := hw))
  go_region_with (first | (go_at_call 31; refine (unitR_any lo 4 (by omega) u (by omega) _ (wrapu u (by omega)) _ s1t h1.out).mono ?_; rintro e w3 ⟨rfl, hg3⟩; have sr3 := Hid.mk' (sr2.out.one.drew.next hg3); clear s0 s1 s2 s3; obtain ⟨s0, s1, s2, s3⟩ := sr3.out.cells; have rb := sr3.out.res; have r0 := cell_at rb 0 rfl; have r1 := cell_at rb 1 rfl; have r2 := cell_at rb 2 rfl; have r3 := cell_at rb 3 rfl; have r4 := cell_at rb 4 rfl; have r5 := cell_at rb 5 rfl; have fz := froz_at rb; clear rb))
  all_goals go_wp2
  all_goals refine bodyPost_ret (v := putS 0 (s0t ++ s1t) 1) (by simp [results, Try.results14, go_sem, r0, r1, r2, r3, r4, r5]) rfl ⟨rfl, ?_⟩
  all_goals (repeat (first | with_reducible exact grownBy_refl _ _ | (with_reducible refine gs ?_ ?_; first | omega | (simp; omega)) | with_reducible refine ga ?_ | with_reducible refine gd ?_ | with_reducible refine gdn ?_ | with_reducible refine gt ?_ (by assumption)))

set_option maxRecDepth 100000 in
set_option maxHeartbeats 4000000 in
theorem setR_n4l_2 (k md : Int) (p low : Bool) (hf : Hid (fm k = some (4, p, true, low))) (hfit : Hid (fitB true md 0 0 0 = true)) (u : Nat) (hs : Hid (scB (u : Int) = true)) (a b : Int) (t : Bool) (ha : Hid (splitH (u : Int) = a)) (hb : Hid (splitL (u : Int) = b)) (hc : Hid (splitB (u : Int) = t)) (w : World) (hu : 65535 < u) (k9 : (k == 9) = false) (k10 : (k == 10) = false) (lo : Bool) (hlo : Hid ((low || decide (md = 2)) = lo)) (hmd : (md == 0) = false) (s1t : ByteArray) (h1 : Hid (str (unitB lo 4 u) = s1t)) (z1 : s1t.size ≤ 4) :
    Calls Try.prog 14 #[.int .i64 k, .agg #[.int .i64 md, .int .i64 0, .int .u32 0, .int .i32 0], .int .i32 (u : Int)] w fun e w' => e = .returned (putS 0 (⟨#[]⟩ ++ s1t) md) ∧ w.grownBy w' none := by
  have hub := (scB_iff.1 hs.out).2.1
  have hub' : u ≤ 1114111 := by omega
  clear hub
  go_enter Try.func14, Try.ntmps14
  go_wp2_with (first | (go_at_call 12; refine (hasR_any hf.out _).mono ?_; rintro e wq ⟨rfl, hw⟩; obtain rfl := hw) | (go_at_call 22; refine (fitsR_any hf.out md 0 0 0 _ true hfit.out).mono ?_; rintro e w1 ⟨rfl, hg1⟩; have sr1 := Hid.mk' (SR.mk1 hg1); obtain ⟨s0, s1, s2, s3⟩ := sr1.out.cells) | (go_at_call 16; refine (scalarR_is _ _ true hs.out).mono ?_; rintro e wq ⟨rfl, hw⟩; obtain rfl := hw) | (go_at_call 24; refine (size_any hf.out _).mono ?_; rintro e wq ⟨rfl, hw⟩; obtain rfl := hw) | (go_at_call 23; refine (marked_any hf.out _).mono ?_; rintro e wq ⟨rfl, hw⟩; obtain rfl := hw) | (go_at_call 27; refine (little_any hf.out md hfit.out _ lo hlo.out).mono ?_; rintro e wq ⟨rfl, hw⟩; obtain rfl := hw) | (go_at_call 32; refine (splitR_lit _ _ a b t ha.out hb.out hc.out).mono ?_; rintro e wq ⟨rfl, hw⟩; obtain rfl := hw))
  go_region_with (first | (go_at_call 31; refine (unitR_any lo 4 (by omega) u (by omega) _ (wrapu u (by omega)) _ s1t h1.out).mono ?_; rintro e w3 ⟨rfl, hg3⟩; have sr3 := Hid.mk' (sr1.out.drew.next hg3); clear s0 s1 s2 s3; obtain ⟨s0, s1, s2, s3⟩ := sr3.out.cells; have rb := sr3.out.res; have r0 := cell_at rb 0 rfl; have r1 := cell_at rb 1 rfl; have r2 := cell_at rb 2 rfl; have r3 := cell_at rb 3 rfl; have r4 := cell_at rb 4 rfl; have r5 := cell_at rb 5 rfl; have fz := froz_at rb; clear rb))
  all_goals go_wp2
  all_goals refine bodyPost_ret (v := putS 0 (⟨#[]⟩ ++ s1t) md) (by simp [results, Try.results14, go_sem, r0, r1, r2, r3, r4, r5]) rfl ⟨rfl, ?_⟩
  all_goals (repeat (first | with_reducible exact grownBy_refl _ _ | (with_reducible refine gs ?_ ?_; first | omega | (simp; omega)) | with_reducible refine ga ?_ | with_reducible refine gd ?_ | with_reducible refine gdn ?_ | with_reducible refine gt ?_ (by assumption)))
end Go.Proofs.Ytkfcciacoplgmaa.Wd
