/- The document's japanese of layer 21. -/
import Derived.Test.YtdobjijebalkkaaIA21
import Derived.Test.YtdobjijebalkkaaRegion
import Derived.Deep.RegionHeld3
import Derived.BigQuiet
namespace Go.Proofs.Ytdobjijebalkkaa.C21
open Go.ChangeShapes Go.WideShapes Go.ChangeAt Go.RowKit Go.Proofs.Ytdobjijebalkkaa.Mem Go.Proofs.Ytdobjijebalkkaa.Cb Go.Proofs.Ytdobjijebalkkaa.Sp
set_option linter.unusedVariables false
set_option linter.unusedSimpArgs false

def jR (J : Option (Option Nat)) (X : Int × Int × Int × Int × Int) : Int × Int × Int × Int × Int := match J with
  | some (some md) => (0, 3, 0, 0, (md : Int))
  | some none => (1, 0, 0, 0, 0)
  | none => X
theorem rg_at {i : Nat} (h : i < 4) : [0, 1, 2, 3].drop i = i :: [0, 1, 2, 3].drop (i + 1) := by
  match i, h with
  | 0, _ => rfl
  | 1, _ => rfl
  | 2, _ => rfl
  | 3, _ => rfl
theorem half_some {n : Nat} (h : n < 128) : ∃ v, C14.haR n = some v := by
  unfold C14.haR
  by_cases h1 : n = 92
  · rw [if_pos h1]; exact ⟨_, rfl⟩
  · rw [if_neg h1]
    by_cases h2 : n = 126
    · rw [if_pos h2]; exact ⟨_, rfl⟩
    · rw [if_neg h2, if_pos (by omega)]; exact ⟨_, rfl⟩
set_option maxRecDepth 100000 in
set_option maxHeartbeats 4000000 in
theorem japanese_any (m : Nat) (hm : m < 3) (g o cap : Nat) (b : UInt8) (r L : List UInt8) (hL : L = b :: r) (w : World) (hB : Bytes w (some ⟨g, o, none⟩) L) (hc : L.length ≤ cap) (hcm : cap ≤ 9223372036854775807) : Calls Try.prog 25 #[stV (m : Int) 0 0 0, .slice (some ⟨g, o, none⟩) L.length cap] w fun e w' => e = .returned (gotV (gJ m L)) ∧ w.grownBy w' none := by
  have hb := b.toNat_lt
  have hl1 : 0 < L.length := by rw [hL]; simp
  obtain ⟨s, hs⟩ : ∃ s, Hid (str L = s) := ⟨_, Hid.mk' rfl⟩
  have hyc : Hid (∀ wx, w.grownBy wx none → (convert 25 9 (.slice (some ⟨g, o, none⟩) L.length cap)).run Try.prog wx = .ok (.string s) wx) := Hid.mk' (fun wx hg => by rw [← hs.out]; exact conv (hB.kept0 hg) 25 9 cap Try.underlying25 Try.underlying5 Try.underlying9)
  have hy0 : Hid (∀ wx, w.grownBy wx none → wx.cell? ⟨g, o, none⟩ = some (.int .u8 (b.toNat : Int))) := Hid.mk' (fun wx hg => by
    have h2 := hB
    rw [hL] at h2
    obtain ⟨g2, o2, e, hy⟩ := first_cell h2
    cases e
    exact hy wx hg)
  have hBP : Hid (∀ wx, w.grownBy wx none → Bytes wx (some ⟨g, o, none⟩) (b :: r)) := Hid.mk' (fun wx hg => by rw [← hL]; exact hB.kept0 hg)
  have hLl : (b :: r).length = L.length := by rw [hL]
  obtain ⟨J, hJ⟩ : ∃ J, Hid (jF L [0, 1, 2, 3] = J) := ⟨_, Hid.mk' rfl⟩
  have hGJ : Hid (gJ m L = jR J (jC m b.toNat r)) := Hid.mk' (by rw [← hJ.out]; subst hL; rfl)
  obtain ⟨V, hV⟩ : ∃ V, Hid (gotV (gJ m L) = V) := ⟨_, Hid.mk' rfl⟩
  rw [hV.out]
  clear hB hL
  go_enter Try.func25, Try.ntmps25
  go_upto_region 1 with (first
    | (refine wpList_boxC _ rfl 24 _ rfl (sC (m : Int) 0 0 0) rfl ?_; intro w1 ss1 hg1)
    | (refine wpList_allocC _ rfl 28 rfl (gZ 0 0 0 0) (zeroG _) ?_; intro w2 rs2 hg2))
  have hG2 : Hid (w.grownBy w2 none) := Hid.mk' (gt hg1 hg2)
  have ss2 := ss1.kept0 hg2
  have hB2 : Hid (w.heap.size ≤ w1.heap.size) := Hid.mk' hg1.size
  clear hg1 hg2 ss1
  generalize w1.heap.size = B at *
  obtain ⟨SB, hSB⟩ : ∃ SB, Hid (w.heap.size = SB) := ⟨_, Hid.mk' rfl⟩
  rw [hSB.out] at ss2
  rw [hSB.out]
  go_upto_region 2 with (go_at_call 40; refine (seqRef _).mono ?_; rintro e w3 ⟨A, D, rfl, hsq, hg3⟩)
  have hseq := Hid.mk' hsq
  have rs30 := Hid.mk' (rs2.kept0 hg3)
  have ss30 := Hid.mk' (ss2.kept0 hg3)
  have hG3 : Hid (w.grownBy w3 none) := Hid.mk' (gt hG2.out hg3)
  clear hsq hg3 rs2 ss2
  go_wp2
  go_loopw [7] (fun t7 wx => ∃ i : Nat, i ≤ 4 ∧ t7 = .int .i64 (i : Int) ∧ Hid (w3.grownBy wx none) ∧ Hid (J = jF L ([0, 1, 2, 3].drop i))) (fun t7 _ => 4 - (intOf t7).toNat)
  case atStart => exact ⟨0, by omega, rfl, Hid.mk' (grownBy_refl _ _), Hid.mk' hJ.out.symm⟩
  case round =>
    obtain ⟨i, hi, rfl, hgx, hj⟩ := hrel
    by_cases hlt : i < 4
    · have hi0 : (0 : Int) ≤ (i : Int) := by omega
      have hi4 : (i : Int) < 4 := by omega
      obtain ⟨q, hq⟩ : ∃ q, Hid (str (sq i) = q) := ⟨_, Hid.mk' rfl⟩
      have hqz : q.size = 3 := by rw [← hq.out, str_size, sq_len]
      have hcl : Hid (∀ wx, wr.grownBy wx none → (fun w' => w'.cell? ⟨A, i, none⟩ = some (.string q) ∧ (convert 25 9 (.slice (some ⟨g, o, none⟩) L.length cap)).run Try.prog w' = .ok (.string s) w') wx) := Hid.mk' (fun wx hg => ⟨by rw [← hq.out]; exact (hseq.out wx (gt hgx.out hg) i hlt).1, hyc.out wx (gt hG3.out (gt hgx.out hg))⟩)
      have hS0 := hcl.out _ (gd (grownBy_refl wr none))
      have hj2 := hj.out
      rw [rg_at hlt, jF] at hj2
      go_upto_region 5 with fail
      cases hX : bgn L (sq i) with
      | true =>
        have aB := Hid.mk' (fun wx => beginsRef L (sq i) true (Hid.mk' hX) (by rw [sq_len]; omega) wx)
        rw [hs.out, hq.out] at aB
        rw [hX, if_pos rfl] at hj2
        have e : V = .agg (gM 0 3 0 0 (sqM i : Int)) := by rw [← hV.out, hGJ.out, hj2]; rfl
        subst e
        clear hX hj2 hj hV
        go_region_held3 (fun w' => w'.cell? ⟨A, i, none⟩ = some (.string q) ∧ (convert 25 9 (.slice (some ⟨g, o, none⟩) L.length cap)).run Try.prog w' = .ok (.string s) w') (first | assumption | exact hS0) (first
          | (go_at_call 41; refine (aB.out _).mono ?_; rintro e w6 ⟨rfl, hg⟩; have hgr6 : Hid (wr.grownBy w6 none) := Hid.mk' (by (repeat (first | with_reducible exact grownBy_refl _ _ | (with_reducible refine gs ?_ ?_; first | omega | (simp; omega)) | with_reducible refine ga ?_ | with_reducible refine gd ?_ | with_reducible refine gdn ?_ | with_reducible refine gt ?_ (by assumption)))); have hS6 := hcl.out _ hgr6.out))
        have x2 := (hseq.out w6 (gt hgx.out hgr6.out) i hlt).2
        have rsr := (rs30.out.kept0 hgx.out).kept0 hgr6.out
        go_wp2_with (refine wpList_storeC _ rfl 28 _ _ rfl B (gZ 0 0 0 0) (gM 0 3 0 0 (sqM i : Int)) infoG rfl (gC_one _ _ _ _ _ _ _ _ _) rfl rfl rsr ?_; intro wz rsz hgz)
        refine bodyPost_ret (v := .agg (gM 0 3 0 0 (sqM i : Int))) (results_cell_row Try.results25 _ wz B 28 _ (0, 0) _ rfl rsz Try.underlying28 rfl infoG) rfl ⟨rfl, ?_⟩
        exact grownBy_new (gt hG3.out (gt hgx.out hgr6.out)) hgz (fun k hk => by have h5 := Option.some.inj hk; have h6 := hB2.out; omega)
      | false =>
        have aB := Hid.mk' (fun wx => beginsRef L (sq i) false (Hid.mk' hX) (by rw [sq_len]; omega) wx)
        rw [hs.out, hq.out] at aB
        rw [hX, if_neg (by simp)] at hj2
        clear hX
        go_region_held3 (fun w' => w'.cell? ⟨A, i, none⟩ = some (.string q) ∧ (convert 25 9 (.slice (some ⟨g, o, none⟩) L.length cap)).run Try.prog w' = .ok (.string s) w') (first | assumption | exact hS0) (first
          | (go_at_call 41; refine (aB.out _).mono ?_; rintro e w6 ⟨rfl, hg⟩; have hgr6 : Hid (wr.grownBy w6 none) := Hid.mk' (by (repeat (first | with_reducible exact grownBy_refl _ _ | (with_reducible refine gs ?_ ?_; first | omega | (simp; omega)) | with_reducible refine ga ?_ | with_reducible refine gd ?_ | with_reducible refine gdn ?_ | with_reducible refine gt ?_ (by assumption)))); have hS6 := hcl.out _ hgr6.out))
        clear hS0 hS6
        go_upto_region 7 with fail
        have hS0 := hcl.out _ (gt hgr6.out (gd (grownBy_refl w6 none)))
        by_cases h3 : L.length < 3
        · have h3' : decide ((L.length : Int) < 3) = true := by simp; omega
          cases hY : bgn (sq i) L with
          | true =>
            have aC := Hid.mk' (fun wx => beginsRef (sq i) L true (Hid.mk' hY) (by omega) wx)
            rw [hs.out, hq.out] at aC
            rw [hY, if_pos ⟨h3, rfl⟩] at hj2
            have e : V = .agg (gM 1 0 0 0 0) := by rw [← hV.out, hGJ.out, hj2]; rfl
            subst e
            clear hY hj2 hj hV h3
            go_region_held3 (fun w' => w'.cell? ⟨A, i, none⟩ = some (.string q) ∧ (convert 25 9 (.slice (some ⟨g, o, none⟩) L.length cap)).run Try.prog w' = .ok (.string s) w') (first | assumption | exact hS0) (first
              | (go_at_call 41; refine (aC.out _).mono ?_; rintro e w7 ⟨rfl, hg⟩; have hgr7 : Hid (wr.grownBy w7 none) := Hid.mk' (by (repeat (first | with_reducible exact grownBy_refl _ _ | (with_reducible refine gs ?_ ?_; first | omega | (simp; omega)) | with_reducible refine ga ?_ | with_reducible refine gd ?_ | with_reducible refine gdn ?_ | with_reducible refine gt ?_ (by assumption)))); have hS7 := hcl.out _ hgr7.out))
            have rsr := (rs30.out.kept0 hgx.out).kept0 hgr7.out
            go_wp2_with (refine wpList_storeC _ rfl 28 _ _ rfl B (gZ 0 0 0 0) (gM 1 0 0 0 0) infoG rfl (gC_one _ _ _ _ _ _ _ _ _) rfl rfl rsr ?_; intro wz rsz hgz)
            refine bodyPost_ret (v := .agg (gM 1 0 0 0 0)) (results_cell_row Try.results25 _ wz B 28 _ (0, 0) _ rfl rsz Try.underlying28 rfl infoG) rfl ⟨rfl, ?_⟩
            exact grownBy_new (gt hG3.out (gt hgx.out hgr7.out)) hgz (fun k hk => by have h5 := Option.some.inj hk; have h6 := hB2.out; omega)
          | false =>
            have aC := Hid.mk' (fun wx => beginsRef (sq i) L false (Hid.mk' hY) (by omega) wx)
            rw [hs.out, hq.out] at aC
            rw [hY, if_neg (by simp)] at hj2
            have hj3 := Hid.mk' hj2
            clear hY hj2 h3
            go_region_held3 (fun w' => w'.cell? ⟨A, i, none⟩ = some (.string q) ∧ (convert 25 9 (.slice (some ⟨g, o, none⟩) L.length cap)).run Try.prog w' = .ok (.string s) w') (first | assumption | exact hS0) (first
              | (go_at_call 41; refine (aC.out _).mono ?_; rintro e w7 ⟨rfl, hg⟩; have hgr7 : Hid (wr.grownBy w7 none) := Hid.mk' (by (repeat (first | with_reducible exact grownBy_refl _ _ | (with_reducible refine gs ?_ ?_; first | omega | (simp; omega)) | with_reducible refine ga ?_ | with_reducible refine gd ?_ | with_reducible refine gdn ?_ | with_reducible refine gt ?_ (by assumption)))); have hS7 := hcl.out _ hgr7.out))
            go_wp2
            go_roundw
            case rel => exact ⟨i + 1, by omega, by go_num, Hid.mk' (gt hgx.out hgr7.out), hj3⟩
            case measure => simp [intOf]; omega
        · have h3' : decide ((L.length : Int) < 3) = false := by simp; omega
          rw [if_neg (fun h => h3 h.1)] at hj2
          have hj3 := Hid.mk' hj2
          clear hj2 h3
          go_quiet (fail)
          go_wp2
          go_roundw
          case rel => exact ⟨i + 1, by omega, by go_num, Hid.mk' (gt hgx.out (gt hgr6.out ⟨rfl, rfl, rfl, Nat.le_refl _, fun _ _ _ => rfl⟩)), hj3⟩
          case measure => simp [intOf]; omega
    · obtain rfl : i = 4 := by omega
      have hGJ2 : gJ m L = jC m b.toNat r := by rw [hGJ.out, hj.out]; rfl
      have rsr := Hid.mk' (rs30.out.kept0 hgx.out)
      have ssr := Hid.mk' (ss30.out.kept0 hgx.out)
      have hgr : w.grownBy wr none := gt hG3.out hgx.out
      have y0 := hy0.out _ hgr
      have s0 := ssr.out.cell 0 (v := .int .i64 (m : Int)) rfl
      have hl1' : (0 : Int) < (L.length : Int) := by omega
      clear hj hGJ hseq hyc
      obtain ⟨n, hn⟩ : ∃ n, Hid (b.toNat = n) := ⟨_, Hid.mk' rfl⟩
      rw [hn.out] at hGJ2 y0 hb
      by_cases h27 : n = 27
      · have f0 : ((n : Int) == 27) = true := by simp; omega
        have ee : jC m n r = (10, 1, 0, 0, (m : Int)) := by unfold jC; rw [if_pos (.inl h27)]
        clear h27
        have e : V = .agg (gM 10 1 0 0 (m : Int)) := by rw [← hV.out, hGJ2, ee]; rfl
        subst e
        clear hV hGJ2
        go_upto_region 11 with fail
        go_wp2_with (first
          | (refine wpList_loadC _ rfl 24 _ rfl _ Try.underlying24 rfl SB (sC (m : Int) 0 0 0) infoS rfl ssr.out ?_)
          | (refine wpList_storeC _ rfl 28 _ _ rfl B (gZ 0 0 0 0) (gM 10 1 0 0 (m : Int)) infoG rfl (gC_one _ _ _ _ _ _ _ _ _) rfl rfl rsr.out ?_; intro wz rsz hgz))
        refine bodyPost_ret (v := .agg (gM 10 1 0 0 (m : Int))) (results_cell_row Try.results25 _ wz B 28 _ (0, 0) _ rfl rsz Try.underlying28 rfl infoG) rfl ⟨rfl, ?_⟩
        exact grownBy_new hgr hgz (fun k hk => by have h5 := Option.some.inj hk; have h6 := hB2.out; omega)
      · have f0 : ((n : Int) == 27) = false := by simp; omega
        by_cases h8 : 128 ≤ n
        · have f1 : decide ((128 : Int) ≤ (n : Int)) = true := by simp; omega
          have ee : jC m n r = (10, 1, 0, 0, (m : Int)) := by unfold jC; rw [if_pos (.inr h8)]
          have e : V = .agg (gM 10 1 0 0 (m : Int)) := by rw [← hV.out, hGJ2, ee]; rfl
          subst e
          clear hV hGJ2
          go_upto_region 11 with fail
          go_wp2_with (first
            | (refine wpList_loadC _ rfl 24 _ rfl _ Try.underlying24 rfl SB (sC (m : Int) 0 0 0) infoS rfl ssr.out ?_)
            | (refine wpList_storeC _ rfl 28 _ _ rfl B (gZ 0 0 0 0) (gM 10 1 0 0 (m : Int)) infoG rfl (gC_one _ _ _ _ _ _ _ _ _) rfl rfl rsr.out ?_; intro wz rsz hgz))
          refine bodyPost_ret (v := .agg (gM 10 1 0 0 (m : Int))) (results_cell_row Try.results25 _ wz B 28 _ (0, 0) _ rfl rsz Try.underlying28 rfl infoG) rfl ⟨rfl, ?_⟩
          exact grownBy_new hgr hgz (fun k hk => by have h5 := Option.some.inj hk; have h6 := hB2.out; omega)
        · have f1 : decide ((128 : Int) ≤ (n : Int)) = false := by simp; omega
          have hn8 : n < 128 := by omega
          by_cases h1 : m = 1
          · subst h1
            obtain ⟨v, hv⟩ := half_some hn8
            have ee : jC 1 n r = (0, 1, 1, (v : Int), 1) := by unfold jC; rw [if_neg (by omega), if_pos rfl, hv]; rfl
            have aH := Hid.mk' (fun wx => C14.refHalf_any n (by omega) wx (some v) (Hid.mk' hv))
            have e : V = .agg (gM 0 1 1 (v : Int) 1) := by rw [← hV.out, hGJ2, ee]; rfl
            subst e
            clear hV hGJ2 ee hv
            go_upto_region 14 with (go_at_call 42; refine (aH.out _).mono ?_; rintro e w8 ⟨rfl, rfl⟩)
            go_wp2_with (first
              | (refine wpList_loadC _ rfl 24 _ rfl _ Try.underlying24 rfl SB (sC 1 0 0 0) infoS rfl ssr.out ?_)
              | (refine wpList_storeC _ rfl 28 _ _ rfl B (gZ 0 0 0 0) (gM 0 1 1 (v : Int) 1) infoG rfl (gC_one _ _ _ _ _ _ _ _ _) rfl rfl rsr.out ?_; intro wz rsz hgz))
            refine bodyPost_ret (v := .agg (gM 0 1 1 (v : Int) 1)) (results_cell_row Try.results25 _ wz B 28 _ (0, 0) _ rfl rsz Try.underlying28 rfl infoG) rfl ⟨rfl, ?_⟩
            exact grownBy_new hgr hgz (fun k hk => by have h5 := Option.some.inj hk; have h6 := hB2.out; omega)
          · have g1 : ((m : Int) == 1) = false := by simp; omega
            by_cases hch : m = 0 ∨ n ≤ 32 ∨ n = 127
            · have ee : jC m n r = (0, 1, 1, (n : Int), (m : Int)) := by unfold jC; rw [if_neg (by omega), if_neg h1, if_pos hch]
              by_cases h0 : m = 0
              · have g0 : ((m : Int) == 0) = true := by simp; omega
                clear h0 h1 hch
                have e : V = .agg (gM 0 1 1 (n : Int) (m : Int)) := by rw [← hV.out, hGJ2, ee]; rfl
                subst e
                clear hV hGJ2
                go_upto_region 16 with fail
                go_wp2_with (first
                  | (refine wpList_loadC _ rfl 24 _ rfl _ Try.underlying24 rfl SB (sC (m : Int) 0 0 0) infoS rfl ssr.out ?_)
                  | (refine wpList_storeC _ rfl 28 _ _ rfl B (gZ 0 0 0 0) (gM 0 1 1 (n : Int) (m : Int)) infoG rfl (gC_one _ _ _ _ _ _ _ _ _) rfl rfl rsr.out ?_; intro wz rsz hgz))
                refine bodyPost_ret (v := .agg (gM 0 1 1 (n : Int) (m : Int))) (results_cell_row Try.results25 _ wz B 28 _ (0, 0) _ rfl rsz Try.underlying28 rfl infoG) rfl ⟨rfl, ?_⟩
                exact grownBy_new hgr hgz (fun k hk => by have h5 := Option.some.inj hk; have h6 := hB2.out; omega)
              · have g0 : ((m : Int) == 0) = false := by simp; omega
                by_cases h32 : n ≤ 32
                · have f2 : decide ((n : Int) ≤ 32) = true := by simp; omega
                  clear h0 h1 hch
                  have e : V = .agg (gM 0 1 1 (n : Int) (m : Int)) := by rw [← hV.out, hGJ2, ee]; rfl
                  subst e
                  clear hV hGJ2
                  go_upto_region 16 with fail
                  go_wp2_with (first
                    | (refine wpList_loadC _ rfl 24 _ rfl _ Try.underlying24 rfl SB (sC (m : Int) 0 0 0) infoS rfl ssr.out ?_)
                    | (refine wpList_storeC _ rfl 28 _ _ rfl B (gZ 0 0 0 0) (gM 0 1 1 (n : Int) (m : Int)) infoG rfl (gC_one _ _ _ _ _ _ _ _ _) rfl rfl rsr.out ?_; intro wz rsz hgz))
                  refine bodyPost_ret (v := .agg (gM 0 1 1 (n : Int) (m : Int))) (results_cell_row Try.results25 _ wz B 28 _ (0, 0) _ rfl rsz Try.underlying28 rfl infoG) rfl ⟨rfl, ?_⟩
                  exact grownBy_new hgr hgz (fun k hk => by have h5 := Option.some.inj hk; have h6 := hB2.out; omega)
                · have f2 : decide ((n : Int) ≤ 32) = false := by simp; omega
                  have f3 : ((n : Int) == 127) = true := by simp; omega
                  clear h0 h1 hch h32
                  have e : V = .agg (gM 0 1 1 (n : Int) (m : Int)) := by rw [← hV.out, hGJ2, ee]; rfl
                  subst e
                  clear hV hGJ2
                  go_upto_region 16 with fail
                  go_wp2_with (first
                    | (refine wpList_loadC _ rfl 24 _ rfl _ Try.underlying24 rfl SB (sC (m : Int) 0 0 0) infoS rfl ssr.out ?_)
                    | (refine wpList_storeC _ rfl 28 _ _ rfl B (gZ 0 0 0 0) (gM 0 1 1 (n : Int) (m : Int)) infoG rfl (gC_one _ _ _ _ _ _ _ _ _) rfl rfl rsr.out ?_; intro wz rsz hgz))
                  refine bodyPost_ret (v := .agg (gM 0 1 1 (n : Int) (m : Int))) (results_cell_row Try.results25 _ wz B 28 _ (0, 0) _ rfl rsz Try.underlying28 rfl infoG) rfl ⟨rfl, ?_⟩
                  exact grownBy_new hgr hgz (fun k hk => by have h5 := Option.some.inj hk; have h6 := hB2.out; omega)
            · have g0 : ((m : Int) == 0) = false := by simp; omega
              have f2 : decide ((n : Int) ≤ 32) = false := by simp; omega
              have f3 : ((n : Int) == 127) = false := by simp; omega
              have ee : jC m n r = pr 83 m n r := by unfold jC; rw [if_neg (by omega), if_neg h1, if_neg hch]
              have aP : Hid (∀ wx, w.grownBy wx none → Calls Try.prog 43 #[.int .i64 83, stV (m : Int) 0 0 0, .slice (some ⟨g, o, none⟩) L.length cap] wx fun e w' => e = .returned V ∧ wx.grownBy w' none) := Hid.mk' (fun wx hg => by
                have := pairRef 83 (.inl rfl) m (some ⟨g, o, none⟩) cap b r L.length hLl wx (hBP.out wx hg) hc hcm
                rwa [hn.out, ← ee, ← hGJ2, hV.out] at this)
              obtain ⟨ge, gn, gk, ga', gd', hV2⟩ : ∃ a b c d e, V = .agg (gM a b c d e) := ⟨_, _, _, _, _, hV.out.symm⟩
              subst hV2
              clear hV hGJ2 ee hch h1
              go_upto_region 17 with fail
              go_wp2_with (first
                | (go_at_call 43; refine (aP.out _ hgr).mono ?_; rintro e w8 ⟨rfl, hg8⟩; have rs8 := rsr.out.kept0 hg8)
                | (refine wpList_loadC _ rfl 24 _ rfl _ Try.underlying24 rfl SB (sC (m : Int) 0 0 0) infoS rfl ssr.out ?_)
                | (refine wpList_storeC _ rfl 28 _ _ rfl B (gZ 0 0 0 0) (gM ge gn gk ga' gd') infoG rfl (gC_one _ _ _ _ _ _ _ _ _) rfl rfl rs8 ?_; intro wz rsz hgz))
              refine bodyPost_ret (v := .agg (gM ge gn gk ga' gd')) (results_cell_row Try.results25 _ wz B 28 _ (0, 0) _ rfl rsz Try.underlying28 rfl infoG) rfl ⟨rfl, ?_⟩
              exact grownBy_new (gt hgr hg8) hgz (fun k hk => by have h5 := Option.some.inj hk; have h6 := hB2.out; omega)
end Go.Proofs.Ytdobjijebalkkaa.C21
