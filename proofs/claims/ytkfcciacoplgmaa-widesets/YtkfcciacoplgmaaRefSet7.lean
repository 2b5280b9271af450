/- The document's step that puts out a scalar: walks. -/
import Derived.Test.YtkfcciacoplgmaaRefSet0
import Derived.Deep.RegionHeld3
import Derived.BigQuiet
namespace Go.Proofs.Ytkfcciacoplgmaa.Wd
open Go.ChangeShapes Go.WideShapes Go.ChangeAt Go.RowKit Go.Proofs.Ytkfcciacoplgmaa.Mem Go.Proofs.Ytkfcciacoplgmaa.Ucs
set_option linter.unusedVariables false
set_option linter.unusedSimpArgs false

set_option maxRecDepth 100000 in
set_option maxHeartbeats 4000000 in
theorem setR_pair_2 (k md : Int) (p low : Bool) (hf : Hid (fm k = some (2, p, true, low))) (hfit : Hid (fitB true md 0 0 0 = true)) (u : Nat) (hs : Hid (scB (u : Int) = true)) (a b : Int) (t : Bool) (ha : Hid (splitH (u : Int) = a)) (hb : Hid (splitL (u : Int) = b)) (hc : Hid (splitB (u : Int) = t)) (w : World) (hu : 65535 < u) (ht : t = true) (k9 : (k == 9) = false) (k10 : (k == 10) = false) (lo : Bool) (hlo : Hid ((low || decide (md = 2)) = lo)) (hmd : (md == 0) = false) (aN bN : Nat) (aE : Hid (a = (aN : Int))) (bE : Hid (b = (bN : Int))) (a0 : 0 ≤ a) (b0 : 0 ≤ b) (a1 : a ≤ 65535) (b1 : b ≤ 65535) (aL : aN ≤ 65535) (bL : bN ≤ 65535) (s1t s2t : ByteArray) (h1 : Hid (str (unitB lo 2 aN) = s1t)) (h2 : Hid (str (unitB lo 2 bN) = s2t)) (z1 : s1t.size ≤ 4) (z2 : s2t.size ≤ 4) :
    Calls Try.prog 14 #[.int .i64 k, .agg #[.int .i64 md, .int .i64 0, .int .u32 0, .int .i32 0], .int .i32 (u : Int)] w fun e w' => e = .returned (putS 0 ((⟨#[]⟩ ++ s1t) ++ s2t) md) ∧ w.grownBy w' none := by
  have hub := (scB_iff.1 hs.out).2.1
  have hub' : u ≤ 1114111 := by omega
  clear hub
  go_enter Try.func14, Try.ntmps14
  go_wp2_with (first | (go_at_call 12; refine (hasR_any hf.out _).mono ?_; rintro e wq ⟨rfl, hw⟩; obtain rfl := hw) | (go_at_call 22; refine (fitsR_any hf.out md 0 0 0 _ true hfit.out).mono ?_; rintro e w1 ⟨rfl, hg1⟩; have sr1 := Hid.mk' (SR.mk1 hg1); obtain ⟨s0, s1, s2, s3⟩ := sr1.out.cells) | (go_at_call 16; refine (scalarR_is _ _ true hs.out).mono ?_; rintro e wq ⟨rfl, hw⟩; obtain rfl := hw) | (go_at_call 24; refine (size_any hf.out _).mono ?_; rintro e wq ⟨rfl, hw⟩; obtain rfl := hw) | (go_at_call 23; refine (marked_any hf.out _).mono ?_; rintro e wq ⟨rfl, hw⟩; obtain rfl := hw) | (go_at_call 27; refine (little_any hf.out md hfit.out _ lo hlo.out).mono ?_; rintro e wq ⟨rfl, hw⟩; obtain rfl := hw) | (go_at_call 32; refine (splitR_lit _ _ a b t ha.out hb.out hc.out).mono ?_; rintro e wq ⟨rfl, hw⟩; obtain rfl := hw))
  go_region_with (first | (go_at_call_of 31 (Value.int IntKind.u32 (IntKind.u32.wrap a)); refine (unitR_any lo 2 (by omega) aN (by omega) _ (wrapi a aN aE.out aL) _ s1t h1.out).mono ?_; rintro e w3 ⟨rfl, hg3⟩; have sr3 := Hid.mk' (sr1.out.drew.next hg3); clear s0 s1 s2 s3; obtain ⟨s0, s1, s2, s3⟩ := sr3.out.cells) | (go_at_call_of 31 (Value.int IntKind.u32 a); refine (unitR_any lo 2 (by omega) aN (by omega) _ aE.out _ s1t h1.out).mono ?_; rintro e w3 ⟨rfl, hg3⟩; have sr3 := Hid.mk' (sr1.out.drew.next hg3); clear s0 s1 s2 s3; obtain ⟨s0, s1, s2, s3⟩ := sr3.out.cells) | (go_at_call_of 31 (Value.int IntKind.u32 (IntKind.u32.wrap b)); refine (unitR_any lo 2 (by omega) bN (by omega) _ (wrapi b bN bE.out bL) _ s2t h2.out).mono ?_; rintro e w4 ⟨rfl, hg4⟩; have sr4 := Hid.mk' (sr3.out.next hg4); clear s0 s1 s2 s3; obtain ⟨s0, s1, s2, s3⟩ := sr4.out.cells; have rb := sr4.out.res; have r0 := cell_at rb 0 rfl; have r1 := cell_at rb 1 rfl; have r2 := cell_at rb 2 rfl; have r3 := cell_at rb 3 rfl; have r4 := cell_at rb 4 rfl; have r5 := cell_at rb 5 rfl; have fz := froz_at rb; clear rb) | (go_at_call_of 31 (Value.int IntKind.u32 b); refine (unitR_any lo 2 (by omega) bN (by omega) _ bE.out _ s2t h2.out).mono ?_; rintro e w4 ⟨rfl, hg4⟩; have sr4 := Hid.mk' (sr3.out.next hg4); clear s0 s1 s2 s3; obtain ⟨s0, s1, s2, s3⟩ := sr4.out.cells; have rb := sr4.out.res; have r0 := cell_at rb 0 rfl; have r1 := cell_at rb 1 rfl; have r2 := cell_at rb 2 rfl; have r3 := cell_at rb 3 rfl; have r4 := cell_at rb 4 rfl; have r5 := cell_at rb 5 rfl; have fz := froz_at rb; clear rb))
  all_goals go_wp2
  all_goals refine bodyPost_ret (v := putS 0 ((⟨#[]⟩ ++ s1t) ++ s2t) md) (by simp [results, Try.results14, go_sem, r0, r1, r2, r3, r4, r5]) rfl ⟨rfl, ?_⟩
  all_goals (repeat (first | with_reducible exact grownBy_refl _ _ | (with_reducible refine gs ?_ ?_; first | omega | (simp; omega)) | with_reducible refine ga ?_ | with_reducible refine gd ?_ | with_reducible refine gdn ?_ | with_reducible refine gt ?_ (by assumption)))
end Go.Proofs.Ytkfcciacoplgmaa.Wd
