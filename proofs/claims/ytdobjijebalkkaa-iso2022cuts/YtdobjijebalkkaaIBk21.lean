/- Iso2022Back, KR: the walk. -/
import Derived.Test.YtdobjijebalkkaaIY21
import Derived.Test.YtdobjijebalkkaaIM21
import Derived.Test.YtdobjijebalkkaaBw
import Derived.Test.YtdobjijebalkkaaCs
import Derived.Test.YtdobjijebalkkaaCw
import Derived.Test.YtdobjijebalkkaaConv
import Derived.Test.YtdobjijebalkkaaConvApp
import Derived.Deep.CutBlock
import Derived.Deep.RegionHeld3
import Derived.BigQuiet
namespace Go.Proofs.Ytdobjijebalkkaa.C21
open Go.ChangeShapes Go.WideShapes Go.ChangeAt Go.RowKit Go.Proofs.Ytdobjijebalkkaa.Mem Go.Proofs.Ytdobjijebalkkaa.Cb Go.Proofs.Ytdobjijebalkkaa.Sp Go.Proofs.Ytdobjijebalkkaa.El Go.Proofs.Ytdobjijebalkkaa.Ru
set_option linter.unusedVariables false
set_option linter.unusedSimpArgs false

set_option maxRecDepth 100000 in
set_option maxHeartbeats 4000000 in
theorem back_k {P : World → Prop} (C : Con P) (ao : Option Addr) (cap : Nat) (L : List Int) (len : Nat) (hlen : L.length = len) (w : World) (hw : P w) (hR : RuE.Rd w ao L) (hI : ∀ u ∈ L, I32 u) (hLc : len ≤ cap) (hcm : cap ≤ 140737488351232) :
    Calls Try.prog 5 #[.bool true, .slice ao len cap] w fun e w' => e = .returned (.bool true) ∧ w.grownBy w' none := by
  have a0 := Hid.mk' (fun w hw => works_any C w hw)
  have aS := Hid.mk' (fun (m : Nat) (hm : m < 3) (u : Int) (hu : I32 u) (e : Int) (bs : List UInt8) (d : Int) (hS : sE 88 m u = (e, bs, d)) => (C.put 88 (by unfold I64; omega) (m : Int) 0 0 0 m (mo_is m hm) u hu e bs d hS).out)
  have aG := Hid.mk' (fun (m : Nat) (hm : m < 3) (L : List UInt8) (s : Stp) (hG : gE 88 m L = tells s) => (C.got 88 (by unfold I64; omega) (m : Int) 0 0 0 m (mo_is m hm) L _ _ _ _ _ hG).out)
  have aE := Hid.mk' (fun (m : Nat) (hm : m < 3) (w : World) (hw : P w) => C.fin 88 (by unfold I64; omega) (m : Int) 0 0 0 w m (Hid.mk' (mo_is m hm)) hw)
  have K := Hid.mk' (fun (a b : World) (h : P a) (g : a.grownBy b none) => C.keep h g)
  have hq := Hid.mk' hw
  have hR0 := Hid.mk' hR
  have hI0 := Hid.mk' hI
  have hl0 := Hid.mk' hlen
  clear hw C hR hI hlen
  go_enter Try.func5, Try.ntmps5
  go_upto_region 7 with (first
    | (go_at_call 16; refine (a0.out _ hq.out).mono ?_; rintro e w1 ⟨rfl, hg1, hp1⟩)
    | (refine wpList_allocC _ rfl 24 rfl (sC 0 0 0 0) (zeroS _) ?_; intro w2 s2 hg2)
    | (refine wpList_storeC _ rfl 24 _ _ rfl _ (sC 0 0 0 0) (sC 0 0 0 0) infoS rfl (sC_one _ _ _ _) rfl rfl s2 ?_; intro w3 s3 hg3))
  have hb3 : Hid (BW w w1.heap.size none 0 [] 0 w3) := Hid.mk' ⟨.inl ⟨rfl, rfl, rfl⟩, s3, grownBy_new (gt hg1 hg2) hg3 (fun k hk => by have h5 := Option.some.inj hk; have h6 := hg1.size; omega), (by intro g e; cases e), hg1.size⟩
  clear hg1 hp1 a0 hg2 hg3 s2 s3
  generalize w1.heap.size = SB at *
  go_upto_block 0 with (fail)
  go_cut [7, 8, 9, 10] from 21 to 57 (fun t7 t8 t9 t10 wx => ∃ (S : List Stp) (W : List Int) (ro : Option Addr) (rc m : Nat) (s : ByteArray), t8 = .slice ro W.length rc ∧ t7 = .string s ∧ W.length ≤ 200 ∧ s.size ≤ 1400 ∧ m < 3 ∧ Hid (s = str (txt S)) ∧ Hid (told S = W) ∧ Hid (lastM 0 S = m) ∧ Hid (Ok 88 0 S) ∧ Hid (BW w SB ro rc W m wx))
  case first =>
    go_wp2
    go_loopw [7, 8, 9] (fun t7 t8 t9 wx => ∃ (i : Nat) (S : List Stp) (W : List Int) (ro : Option Addr) (rc m : Nat) (s : ByteArray), i ≤ 200 ∧ i ≤ len ∧ t9 = .int .i64 (i : Int) ∧ t8 = .slice ro W.length rc ∧ t7 = .string s ∧ W.length ≤ i ∧ s.size ≤ 7 * i ∧ m < 3 ∧ Hid (s = str (txt S)) ∧ Hid (told S = W) ∧ Hid (lastM 0 S = m) ∧ Hid (Ok 88 0 S) ∧ Hid (BW w SB ro rc W m wx)) (fun _ _ t9 _ => 200 - (intOf t9).toNat)
    case atStart => exact ⟨0, [], [], none, 0, 0, ⟨#[]⟩, by omega, by omega, rfl, rfl, rfl, by simp, by simp [ByteArray.size], by omega, Hid.mk' rfl, Hid.mk' rfl, Hid.mk' rfl, Hid.mk' (ok_nil _ _), hb3⟩
    case round =>
      obtain ⟨i, S, W, ro, rc, m, s, hi, hil, rfl, rfl, rfl, hWl, hsz, hm, hs, hW, hm0, hgd, hb⟩ := hrel
      by_cases hlt : i < len
      · have hlt' : (i : Int) < (len : Int) := by omega
        by_cases hlt2 : i < 200
        · have hlt2' : (i : Int) < 200 := by omega
          have hiL : i < L.length := by rw [hl0.out]; exact hlt
          obtain ⟨b, o, rfl, hbw, x0⟩ := rucell hR0.out hiL
          have hzI : Hid (I32 L[i]) := Hid.mk' (hI0.out _ (List.getElem_mem hiL))
          generalize L[i] = z at x0 hzI
          have hx : Hid (∀ wx, w.grownBy wx none → wx.cell? ⟨b, o + i, none⟩ = some (.int .i32 z)) := Hid.mk' (fun wx hg => byte_kept x0 hbw hg)
          have hi0 : (0 : Int) ≤ (i : Int) := by omega
          have hqr := Hid.mk' (K.out _ _ hq.out hb.out.g)
          have hD : wr.grownBy wr.drew none := gd (grownBy_refl wr none)
          have K0 := K
          have hcell : Hid (∀ wx, wr.grownBy wx none → (fun w' => w'.cell? ⟨SB, 0, none⟩ = some (.int .i64 (m : Int)) ∧ w'.cell? ⟨SB, 1, none⟩ = some (.int .i64 0) ∧ w'.cell? ⟨SB, 2, none⟩ = some (.int .u32 0) ∧ w'.cell? ⟨SB, 3, none⟩ = some (.int .i32 0) ∧ w'.cell? ⟨b, o + i, none⟩ = some (.int .i32 z)) wx) := Hid.mk' (fun wx hg => ⟨(hb.out.st.kept0 hg).cell 0 rfl, (hb.out.st.kept0 hg).cell 1 rfl, (hb.out.st.kept0 hg).cell 2 rfl, (hb.out.st.kept0 hg).cell 3 rfl, hx.out _ (gt hb.out.g hg)⟩)
          clear x0 hbw
          rcases set_err (k := 88) (u := z) rfl hm with ⟨bs, md, hse⟩ | hse
          · have aSz := Hid.mk' (aS.out m hm z hzI.out _ _ _ hse)
            obtain ⟨S1, m1, rfl, hm1, hgd1, htx1, htl1, hlm1, hbl1, hbl0⟩ := set_good (k := 88) rfl hm hse
            have hbsz : (str bs).size = bs.length := str_size _
            obtain ⟨sB, hsB⟩ : ∃ sB, Hid (str bs = sB) := ⟨_, Hid.mk' rfl⟩
            rw [hsB.out] at aSz hbsz
            obtain ⟨s', hs'⟩ : ∃ s', s ++ sB = s' := ⟨_, rfl⟩
            have hs1 : Hid (s' = str (txt (S ++ S1))) := Hid.mk' (by rw [← hs', hs.out, ← hsB.out, str_app, txt_app, htx1])
            have hW1 : Hid (told (S ++ S1) = W ++ [z]) := Hid.mk' (by rw [told_app, hW.out, htl1])
            have hm01 : Hid (lastM 0 (S ++ S1) = m1) := Hid.mk' (by rw [lastM_app, hm0.out, hlm1])
            have hgd11 : Hid (Ok 88 0 (S ++ S1)) := Hid.mk' (ok_app hgd.out (by rw [hm0.out]; exact hgd1))
            have hsz1 : s'.size ≤ 7 * (i + 1) := by rw [← hs', ByteArray.size_append]; omega
            have hsz10 := Hid.mk' hsz1
            have hadd : ¬ 9223372036854775807 < s.size + sB.size := by omega
            have h8 : ¬ (8 : Int) < (sB.size : Int) := by omega
            clear hse hgd1 htx1 htl1 hlm1 hsz1 hbsz
            go_upto_region 12 with fail
            go_cut [10] from 21 to 57 (fun t10 wx => ∃ PB, t10 = .pointer (some ⟨PB, 0, none⟩) ∧ Hid (CA wx PB 35 (pM 0 sB (m1 : Int))) ∧ Hid (wr.grownBy wx none))
            case first =>
              refine wp_region_held_drew (S := fun w' => w'.cell? ⟨SB, 0, none⟩ = some (.int .i64 (m : Int)) ∧ w'.cell? ⟨SB, 1, none⟩ = some (.int .i64 0) ∧ w'.cell? ⟨SB, 2, none⟩ = some (.int .u32 0) ∧ w'.cell? ⟨SB, 3, none⟩ = some (.int .i32 0) ∧ w'.cell? ⟨b, o + i, none⟩ = some (.int .i32 z)) (by kernel_rfl) (hcell.out _ hD) (fun hHeld => ?_)
              refine wpAnyH_take (i := 0) (v := ?_) rfl (by kernel_rfl) (by kernel_rfl) (by kernel_rfl) (fun _ _ _ h => h) (Or.inl ⟨by rfl, ?_⟩) (by assumption) ?_; rotate_left
              · (intro w hSw; (try dsimp only at hSw); go_simp; try with_reducible rfl)
              try simp only [List.getElem_toArray, List.getElem_cons_zero, Act.put, List.setIfInBounds_toArray, List.set_cons_zero, List.set_cons_succ]
              refine wpAnyH_take (i := 1) (v := ?_) rfl (by kernel_rfl) (by kernel_rfl) (by kernel_rfl) (fun _ _ _ h => h) (Or.inl ⟨by rfl, ?_⟩) (by assumption) ?_; rotate_left
              · (intro w hSw; (try dsimp only at hSw); go_simp; try with_reducible rfl)
              try simp only [List.getElem_toArray, List.getElem_cons_zero, List.getElem_cons_succ, Act.put, List.setIfInBounds_toArray, List.set_cons_zero, List.set_cons_succ]
              refine wpAnyH_take (i := 2) (v := ?_) rfl (by kernel_rfl) (by kernel_rfl) (by kernel_rfl) (fun _ _ _ h => h) (Or.inl ⟨by rfl, ?_⟩) (by assumption) ?_; rotate_left
              · (intro w hSw; (try dsimp only at hSw); go_simp; try with_reducible rfl)
              try simp only [List.getElem_toArray, List.getElem_cons_zero, List.getElem_cons_succ, Act.put, List.setIfInBounds_toArray, List.set_cons_zero, List.set_cons_succ]
              refine wpAnyH_take (i := 3) (v := ?_) rfl (by kernel_rfl) (by kernel_rfl) (by kernel_rfl) (fun _ _ _ h => h) (Or.inl ⟨by rfl, ?_⟩) (by assumption) ?_; rotate_left
              · (intro w hSw; (try dsimp only at hSw); go_simp; try with_reducible rfl)
              try simp only [List.getElem_toArray, List.getElem_cons_zero, List.getElem_cons_succ, Act.put, List.setIfInBounds_toArray, List.set_cons_zero, List.set_cons_succ]
              refine wpAnyH_take (i := 4) (v := ?_) rfl (by kernel_rfl) (by kernel_rfl) (by kernel_rfl) (fun _ _ _ h => h) (Or.inl ⟨by rfl, ?_⟩) (by assumption) ?_; rotate_left
              · (intro w hSw; (try dsimp only at hSw); go_simp; try with_reducible rfl)
              try simp only [List.getElem_toArray, List.getElem_cons_zero, List.getElem_cons_succ, Act.put, List.setIfInBounds_toArray, List.set_cons_zero, List.set_cons_succ]
              refine wpAnyH_take (i := 5) (v := ?_) rfl (by kernel_rfl) (by kernel_rfl) (by kernel_rfl) (fun _ _ _ h => h) (Or.inl ⟨by rfl, ?_⟩) (by assumption) ?_; rotate_left
              · (intro w hSw; (try dsimp only at hSw); go_simp; try with_reducible rfl)
              try simp only [List.getElem_toArray, List.getElem_cons_zero, List.getElem_cons_succ, Act.put, List.setIfInBounds_toArray, List.set_cons_zero, List.set_cons_succ]
              refine wpAnyH_ready (rs := [6, 7]) (by kernel_rfl) (by simp) ?_
              refine AllReadyH.cons rfl (fun K hK => ?_) (AllReadyH.cons rfl (fun K hK => ?_) AllReadyH.nil)
              · go_simp
                refine (aSz.out wr.drew (K0.out _ _ hqr.out hD)).mono ?_
                rintro e wA ⟨rfl, hgc⟩
                try dsimp only
                have hrA : wr.grownBy wA none := gt hD hgc
                refine hK.out _ _ (hcell.out _ hrA) (fun hHeld => ?_)
                clear hK K
                try simp only [List.getElem_toArray, List.getElem_cons_zero, List.getElem_cons_succ, Act.put, List.setIfInBounds_toArray, List.set_cons_zero, List.set_cons_succ]
                refine wpAnyH_ready (rs := [7]) (by kernel_rfl) (by simp) ?_
                refine AllReadyH.cons rfl (fun K hK => ?_) AllReadyH.nil
                refine step_allocC (by rfl) 35 (by rfl) (pZ 0 ⟨#[]⟩) (zeroP _) ?_
                intro wB gB hgB
                have hrB : wr.grownBy wB none := gt hrA hgB
                refine hK.out _ _ (hcell.out _ hrB) (fun hHeld => ?_)
                clear hK K
                try simp only [List.getElem_toArray, List.getElem_cons_zero, List.getElem_cons_succ, Act.put, List.setIfInBounds_toArray, List.set_cons_zero, List.set_cons_succ]
                refine wpAnyH_ready (rs := [8]) (by kernel_rfl) (by simp) ?_
                refine AllReadyH.cons rfl (fun K hK => ?_) AllReadyH.nil
                refine step_storeC (by rfl) 35 _ _ (by rfl) _ (pZ 0 ⟨#[]⟩) (pM 0 sB (m1 : Int)) infoP rfl (pC_one _ _ _ _ _ _) (by simp [Act.eval]) (by simp [Act.eval]) gB ?_
                intro wF gF hgF
                have hrF : wr.grownBy wF none := grownBy_new hrB hgF (fun k hk => by have h5 := Option.some.inj hk; have h6 := hrA.size; (try simp at h5); omega)
                refine hK.out _ _ (hcell.out _ hrF) (fun hHeld => ?_)
                clear hK K
                try simp only [List.getElem_toArray, List.getElem_cons_zero, List.getElem_cons_succ, Act.put, List.setIfInBounds_toArray, List.set_cons_zero, List.set_cons_succ]
                refine wpAnyH_done (by kernel_rfl) ?_ _
                go_wp2_with fail
                go_meet
                exact ⟨_, rfl, Hid.mk' gF, Hid.mk' hrF⟩
              · refine step_allocC (by rfl) 35 (by rfl) (pZ 0 ⟨#[]⟩) (zeroP _) ?_
                intro wB gB hgB
                have hrB : wr.grownBy wB none := gt hD hgB
                refine hK.out _ _ (hcell.out _ hrB) (fun hHeld => ?_)
                clear hK K
                try simp only [List.getElem_toArray, List.getElem_cons_zero, List.getElem_cons_succ, Act.put, List.setIfInBounds_toArray, List.set_cons_zero, List.set_cons_succ]
                refine wpAnyH_ready (rs := [6]) (by kernel_rfl) (by simp) ?_
                refine AllReadyH.cons rfl (fun K hK => ?_) AllReadyH.nil
                go_simp
                refine (aSz.out wB (K0.out _ _ hqr.out hrB)).mono ?_
                rintro e wA ⟨rfl, hgc⟩
                try dsimp only
                have hrA : wr.grownBy wA none := gt hrB hgc
                refine hK.out _ _ (hcell.out _ hrA) (fun hHeld => ?_)
                clear hK K
                try simp only [List.getElem_toArray, List.getElem_cons_zero, List.getElem_cons_succ, Act.put, List.setIfInBounds_toArray, List.set_cons_zero, List.set_cons_succ]
                refine wpAnyH_ready (rs := [8]) (by kernel_rfl) (by simp) ?_
                refine AllReadyH.cons rfl (fun K hK => ?_) AllReadyH.nil
                refine step_storeC (by rfl) 35 _ _ (by rfl) _ (pZ 0 ⟨#[]⟩) (pM 0 sB (m1 : Int)) infoP rfl (pC_one _ _ _ _ _ _) (by simp [Act.eval]) (by simp [Act.eval]) (gB.kept0 hgc) ?_
                intro wF gF hgF
                have hrF : wr.grownBy wF none := grownBy_new hrA hgF (fun k hk => by have h5 := Option.some.inj hk; have h6 := hD.size; (try simp at h5); omega)
                refine hK.out _ _ (hcell.out _ hrF) (fun hHeld => ?_)
                clear hK K
                try simp only [List.getElem_toArray, List.getElem_cons_zero, List.getElem_cons_succ, Act.put, List.setIfInBounds_toArray, List.set_cons_zero, List.set_cons_succ]
                refine wpAnyH_done (by kernel_rfl) ?_ _
                go_wp2_with fail
                go_meet
                exact ⟨_, rfl, Hid.mk' gF, Hid.mk' hrF⟩
            case rest =>
              obtain ⟨PB, rfl, hPB, hgr⟩ := hcut
              rename_i w4
              have b4 := Hid.mk' (hb.out.next hgr.out)
              have x4 := hx.out _ b4.out.g
              clear hcell hD hqr K0 aSz
              have y0 := hPB.out.cell 0 (v := .int .i64 0) rfl
              have y1 := hPB.out.cell 1 (v := .string sB) rfl
              have y2 := hPB.out.cell 2 (v := .int .i64 (m1 : Int)) rfl
              have y3 := hPB.out.cell 3 (v := .int .i64 0) rfl
              have y4 := hPB.out.cell 4 (v := .int .u32 0) rfl
              have y5 := hPB.out.cell 5 (v := .int .i32 0) rfl
              clear hPB hgr hb
              go_upto_region 18 with (refine wpList_storeC _ rfl 24 _ _ rfl SB (sC (m : Int) 0 0 0) (sC (m1 : Int) 0 0 0) infoS rfl (sC_one _ _ _ _) rfl rfl b4.out.st ?_; intro w5 s5 hg5)
              have b5 := Hid.mk' (b4.out.put s5 hg5)
              clear y0 y1 y2 y3 y4 y5 x4 b4 s5 hg5
              have x5 := hx.out _ b5.out.g
              go_wp2_with (at_builtin; refine wpList_rune _ rfl _ _ rfl ro rc W rfl (b5.out.want.kept0 (World.grownBy_alloc _ _ _)) _ rfl [z] (src_rune1 w5 z) (by simp; omega) (W ++ [z]) rfl ?_; intro ro' rc' w6 ho6 hg6 hat6)
              go_roundw
              case rel =>
                exact ⟨i + 1, S ++ S1, W ++ [z], ro', rc', m1, s', by omega, by omega, by go_num, by simp, rfl, by simp; omega, hsz10.out, hm1, hs1, hW1, hm01, hgd11, Hid.mk' (b5.out.app ho6 hg6 hat6)⟩
              case measure => simp [intOf]; omega
          · have aSz : Hid (∀ w, P w → Calls Try.prog 14 #[.int .i64 88, stV (m : Int) 0 0 0, .int .i32 z] w fun e w' => e = .returned (.agg (pM 11 ⟨#[]⟩ 0)) ∧ w.grownBy w' none) := Hid.mk' (aS.out m hm z hzI.out _ _ _ hse)
            clear hse
            go_upto_region 12 with fail
            go_cut [10] from 21 to 57 (fun t10 wx => ∃ PB, t10 = .pointer (some ⟨PB, 0, none⟩) ∧ Hid (CA wx PB 35 (pM 11 ⟨#[]⟩ 0)) ∧ Hid (wr.grownBy wx none))
            case first =>
              refine wp_region_held_drew (S := fun w' => w'.cell? ⟨SB, 0, none⟩ = some (.int .i64 (m : Int)) ∧ w'.cell? ⟨SB, 1, none⟩ = some (.int .i64 0) ∧ w'.cell? ⟨SB, 2, none⟩ = some (.int .u32 0) ∧ w'.cell? ⟨SB, 3, none⟩ = some (.int .i32 0) ∧ w'.cell? ⟨b, o + i, none⟩ = some (.int .i32 z)) (by kernel_rfl) (hcell.out _ hD) (fun hHeld => ?_)
              refine wpAnyH_take (i := 0) (v := ?_) rfl (by kernel_rfl) (by kernel_rfl) (by kernel_rfl) (fun _ _ _ h => h) (Or.inl ⟨by rfl, ?_⟩) (by assumption) ?_; rotate_left
              · (intro w hSw; (try dsimp only at hSw); go_simp; try with_reducible rfl)
              try simp only [List.getElem_toArray, List.getElem_cons_zero, Act.put, List.setIfInBounds_toArray, List.set_cons_zero, List.set_cons_succ]
              refine wpAnyH_take (i := 1) (v := ?_) rfl (by kernel_rfl) (by kernel_rfl) (by kernel_rfl) (fun _ _ _ h => h) (Or.inl ⟨by rfl, ?_⟩) (by assumption) ?_; rotate_left
              · (intro w hSw; (try dsimp only at hSw); go_simp; try with_reducible rfl)
              try simp only [List.getElem_toArray, List.getElem_cons_zero, List.getElem_cons_succ, Act.put, List.setIfInBounds_toArray, List.set_cons_zero, List.set_cons_succ]
              refine wpAnyH_take (i := 2) (v := ?_) rfl (by kernel_rfl) (by kernel_rfl) (by kernel_rfl) (fun _ _ _ h => h) (Or.inl ⟨by rfl, ?_⟩) (by assumption) ?_; rotate_left
              · (intro w hSw; (try dsimp only at hSw); go_simp; try with_reducible rfl)
              try simp only [List.getElem_toArray, List.getElem_cons_zero, List.getElem_cons_succ, Act.put, List.setIfInBounds_toArray, List.set_cons_zero, List.set_cons_succ]
              refine wpAnyH_take (i := 3) (v := ?_) rfl (by kernel_rfl) (by kernel_rfl) (by kernel_rfl) (fun _ _ _ h => h) (Or.inl ⟨by rfl, ?_⟩) (by assumption) ?_; rotate_left
              · (intro w hSw; (try dsimp only at hSw); go_simp; try with_reducible rfl)
              try simp only [List.getElem_toArray, List.getElem_cons_zero, List.getElem_cons_succ, Act.put, List.setIfInBounds_toArray, List.set_cons_zero, List.set_cons_succ]
              refine wpAnyH_take (i := 4) (v := ?_) rfl (by kernel_rfl) (by kernel_rfl) (by kernel_rfl) (fun _ _ _ h => h) (Or.inl ⟨by rfl, ?_⟩) (by assumption) ?_; rotate_left
              · (intro w hSw; (try dsimp only at hSw); go_simp; try with_reducible rfl)
              try simp only [List.getElem_toArray, List.getElem_cons_zero, List.getElem_cons_succ, Act.put, List.setIfInBounds_toArray, List.set_cons_zero, List.set_cons_succ]
              refine wpAnyH_take (i := 5) (v := ?_) rfl (by kernel_rfl) (by kernel_rfl) (by kernel_rfl) (fun _ _ _ h => h) (Or.inl ⟨by rfl, ?_⟩) (by assumption) ?_; rotate_left
              · (intro w hSw; (try dsimp only at hSw); go_simp; try with_reducible rfl)
              try simp only [List.getElem_toArray, List.getElem_cons_zero, List.getElem_cons_succ, Act.put, List.setIfInBounds_toArray, List.set_cons_zero, List.set_cons_succ]
              refine wpAnyH_ready (rs := [6, 7]) (by kernel_rfl) (by simp) ?_
              refine AllReadyH.cons rfl (fun K hK => ?_) (AllReadyH.cons rfl (fun K hK => ?_) AllReadyH.nil)
              · go_simp
                refine (aSz.out wr.drew (K0.out _ _ hqr.out hD)).mono ?_
                rintro e wA ⟨rfl, hgc⟩
                try dsimp only
                have hrA : wr.grownBy wA none := gt hD hgc
                refine hK.out _ _ (hcell.out _ hrA) (fun hHeld => ?_)
                clear hK K
                try simp only [List.getElem_toArray, List.getElem_cons_zero, List.getElem_cons_succ, Act.put, List.setIfInBounds_toArray, List.set_cons_zero, List.set_cons_succ]
                refine wpAnyH_ready (rs := [7]) (by kernel_rfl) (by simp) ?_
                refine AllReadyH.cons rfl (fun K hK => ?_) AllReadyH.nil
                refine step_allocC (by rfl) 35 (by rfl) (pZ 0 ⟨#[]⟩) (zeroP _) ?_
                intro wB gB hgB
                have hrB : wr.grownBy wB none := gt hrA hgB
                refine hK.out _ _ (hcell.out _ hrB) (fun hHeld => ?_)
                clear hK K
                try simp only [List.getElem_toArray, List.getElem_cons_zero, List.getElem_cons_succ, Act.put, List.setIfInBounds_toArray, List.set_cons_zero, List.set_cons_succ]
                refine wpAnyH_ready (rs := [8]) (by kernel_rfl) (by simp) ?_
                refine AllReadyH.cons rfl (fun K hK => ?_) AllReadyH.nil
                refine step_storeC (by rfl) 35 _ _ (by rfl) _ (pZ 0 ⟨#[]⟩) (pM 11 ⟨#[]⟩ 0) infoP rfl (pC_one _ _ _ _ _ _) (by simp [Act.eval]) (by simp [Act.eval]) gB ?_
                intro wF gF hgF
                have hrF : wr.grownBy wF none := grownBy_new hrB hgF (fun k hk => by have h5 := Option.some.inj hk; have h6 := hrA.size; (try simp at h5); omega)
                refine hK.out _ _ (hcell.out _ hrF) (fun hHeld => ?_)
                clear hK K
                try simp only [List.getElem_toArray, List.getElem_cons_zero, List.getElem_cons_succ, Act.put, List.setIfInBounds_toArray, List.set_cons_zero, List.set_cons_succ]
                refine wpAnyH_done (by kernel_rfl) ?_ _
                go_wp2_with fail
                go_meet
                exact ⟨_, rfl, Hid.mk' gF, Hid.mk' hrF⟩
              · refine step_allocC (by rfl) 35 (by rfl) (pZ 0 ⟨#[]⟩) (zeroP _) ?_
                intro wB gB hgB
                have hrB : wr.grownBy wB none := gt hD hgB
                refine hK.out _ _ (hcell.out _ hrB) (fun hHeld => ?_)
                clear hK K
                try simp only [List.getElem_toArray, List.getElem_cons_zero, List.getElem_cons_succ, Act.put, List.setIfInBounds_toArray, List.set_cons_zero, List.set_cons_succ]
                refine wpAnyH_ready (rs := [6]) (by kernel_rfl) (by simp) ?_
                refine AllReadyH.cons rfl (fun K hK => ?_) AllReadyH.nil
                go_simp
                refine (aSz.out wB (K0.out _ _ hqr.out hrB)).mono ?_
                rintro e wA ⟨rfl, hgc⟩
                try dsimp only
                have hrA : wr.grownBy wA none := gt hrB hgc
                refine hK.out _ _ (hcell.out _ hrA) (fun hHeld => ?_)
                clear hK K
                try simp only [List.getElem_toArray, List.getElem_cons_zero, List.getElem_cons_succ, Act.put, List.setIfInBounds_toArray, List.set_cons_zero, List.set_cons_succ]
                refine wpAnyH_ready (rs := [8]) (by kernel_rfl) (by simp) ?_
                refine AllReadyH.cons rfl (fun K hK => ?_) AllReadyH.nil
                refine step_storeC (by rfl) 35 _ _ (by rfl) _ (pZ 0 ⟨#[]⟩) (pM 11 ⟨#[]⟩ 0) infoP rfl (pC_one _ _ _ _ _ _) (by simp [Act.eval]) (by simp [Act.eval]) (gB.kept0 hgc) ?_
                intro wF gF hgF
                have hrF : wr.grownBy wF none := grownBy_new hrA hgF (fun k hk => by have h5 := Option.some.inj hk; have h6 := hD.size; (try simp at h5); omega)
                refine hK.out _ _ (hcell.out _ hrF) (fun hHeld => ?_)
                clear hK K
                try simp only [List.getElem_toArray, List.getElem_cons_zero, List.getElem_cons_succ, Act.put, List.setIfInBounds_toArray, List.set_cons_zero, List.set_cons_succ]
                refine wpAnyH_done (by kernel_rfl) ?_ _
                go_wp2_with fail
                go_meet
                exact ⟨_, rfl, Hid.mk' gF, Hid.mk' hrF⟩
            case rest =>
              obtain ⟨PB, rfl, hPB, hgr⟩ := hcut
              rename_i w4
              have b4 := Hid.mk' (hb.out.next hgr.out)
              have x4 := hx.out _ b4.out.g
              clear hcell hD hqr K0 aSz
              have y0 := hPB.out.cell 0 (v := .int .i64 11) rfl
              go_wp2
              go_roundw
              case rel => exact ⟨i + 1, S, W, _, rc, m, s, by omega, by omega, by go_num, rfl, rfl, by omega, by omega, hm, hs, hW, hm0, hgd, b4⟩
              case measure => simp [intOf]; omega
        · obtain rfl : i = 200 := by omega
          go_wp2
          go_meet
          exact ⟨S, W, ro, rc, m, s, rfl, rfl, by omega, by omega, hm, hs, hW, hm0, hgd, hb⟩
      · obtain rfl : i = len := by omega
        go_wp2
        go_meet
        exact ⟨S, W, ro, rc, m, s, rfl, rfl, by omega, by omega, hm, hs, hW, hm0, hgd, hb⟩
  case rest =>
    obtain ⟨S, W, ro, rc, m, s, rfl, rfl, hWl, hsz, hm, hs, hW, hm0, hgd, hb⟩ := hcut
    have aEm := Hid.mk' (aE.out m hm)
    obtain ⟨ES, en1, en2, en3, en4, en5, en6, en7⟩ := en_good (k := 88) (m := m) rfl hm
    have hsz2 : (str (enB 88 m)).size ≤ 3 := by rw [str_size]; exact en5
    have hee : enE 88 m = 0 := by unfold enE; rw [if_neg (by decide), if_neg (by omega)]
    rw [hee] at aEm
    obtain ⟨tE, htE⟩ : ∃ t, Hid (str (enB 88 m) = t) := ⟨_, Hid.mk' rfl⟩
    rw [htE.out] at aEm hsz2
    obtain ⟨eM, heM⟩ : ∃ e, enM 88 m = e := ⟨_, rfl⟩
    rw [heM] at aEm en4 en6 en7
    obtain ⟨s', hs'⟩ : ∃ s', s ++ tE = s' := ⟨_, rfl⟩
    have hs1 : Hid (s' = str (txt (S ++ ES))) := Hid.mk' (by rw [← hs', hs.out, ← htE.out, str_app, txt_app, en2])
    have hW1 : Hid (W.drop 0 = told (S ++ ES)) := Hid.mk' (by rw [told_app, en3, List.append_nil, List.drop_zero, hW.out])
    have hl1 : Hid (lastM 0 (S ++ ES) = eM) := Hid.mk' (by rw [lastM_app, hm0.out, en4])
    have hgd1 : Hid (SGood (gE 88) 0 (S ++ ES)) := Hid.mk' (good_app hgd.out.1 (by rw [hm0.out]; exact en1.1))
    have hsz1 : Hid (s'.size ≤ 1403) := Hid.mk' (by rw [← hs', ByteArray.size_append]; omega)
    have hadd : ¬ 9223372036854775807 < s.size + tE.size := by omega
    have heM2 := Hid.mk' en6
    have heM7 := Hid.mk' en7
    clear en1 en2 en3 en4 en5 en6 en7 hee hs hW hm0 hgd htE hsz2 aE aS heM
    go_upto_region 24 with (first
      | (refine wpList_loadC _ rfl 24 _ rfl _ Try.underlying24 rfl SB (sC (m : Int) 0 0 0) infoS rfl hb.out.st ?_)
      | (go_at_call 12; refine (aEm.out _ (K.out _ _ hq.out hb.out.g)).mono ?_; rintro e w2 ⟨rfl, hg2⟩)
      | (refine wpList_allocC _ rfl 24 rfl (sC 0 0 0 0) (zeroS _) ?_; intro w2a e2 hg2a)
      | (refine wpList_storeC _ rfl 24 _ _ rfl w2.heap.size (sC 0 0 0 0) (sC (eM : Int) 0 0 0) infoS rfl (sC_one _ _ _ _) rfl rfl e2 ?_; intro w2b e2b hg2b; have b2 := Hid.mk' (hb.out.next (grownBy_new (gt hg2 hg2a) hg2b (fun k hk => by have h5 := Option.some.inj hk; have h6 := hg2.size; omega))))
      | (refine wpList_storeC _ rfl 24 _ _ rfl SB (sC (m : Int) 0 0 0) (sC 0 0 0 0) infoS rfl (sC_one _ _ _ _) rfl rfl b2.out.st ?_; intro w3 s3 hg3))
    have b3 := Hid.mk' (b2.out.put (m' := 0) s3 hg3)
    clear hg2 hg2a hg2b e2 e2b s3 hg3 b2 hb aEm
    go_wp2
    go_loopw [7, 14] (fun t7 t14 wx => ∃ (n : Nat) (T : List Stp) (m : Nat) (s : ByteArray), t14 = .int .i64 (n : Int) ∧ t7 = .string s ∧ n ≤ W.length ∧ s.size ≤ 1403 ∧ m < 3 ∧ Hid (s = str (txt T)) ∧ Hid (W.drop n = told T) ∧ Hid (lastM m T = eM) ∧ Hid (SGood (gE 88) m T) ∧ Hid (BW w SB ro rc W m wx)) (fun t7 _ _ => szOf t7)
    case atStart => exact ⟨0, S ++ ES, 0, s', rfl, rfl, by omega, hsz1.out, by omega, hs1, hW1, hl1, hgd1, b3⟩
    case round =>
      obtain ⟨n, T, m, s, rfl, rfl, hn, hsz, hm, hs, hdr, hl, hgd, hb⟩ := hrel
      clear hs1 hW1 hl1 hgd1 hsz1 hs'
      rcases T with _ | ⟨⟨c, a, m'⟩, T'⟩
      · have hs0 : s.size = 0 := by rw [hs.out]; exact str_size _
        have hnW : n = W.length := drop_nil hn hdr.out
        subst hnW
        have hme : m = eM := hl.out
        have hm2 : m < 2 := by rw [hme]; exact heM2.out
        clear hme
        match m, hm2 with
        | 0, _ =>
          have z0 := hb.out.st.cell 0 (v := .int .i64 0) rfl
          have z1 := hb.out.st.cell 1 (v := .int .i64 0) rfl
          have z2 := hb.out.st.cell 2 (v := .int .u32 0) rfl
          have z3 := hb.out.st.cell 3 (v := .int .i32 0) rfl
          go_wp2
          go_ret
          exact ⟨rfl, hb.out.g⟩
        | 1, _ =>
          have z0 := hb.out.st.cell 0 (v := .int .i64 1) rfl
          have z1 := hb.out.st.cell 1 (v := .int .i64 0) rfl
          have z2 := hb.out.st.cell 2 (v := .int .u32 0) rfl
          have z3 := hb.out.st.cell 3 (v := .int .i32 0) rfl
          go_wp2
          go_ret
          exact ⟨rfl, hb.out.g⟩
      · have hm' : Hid (m' < 3) := Hid.mk' (good_less (k := 88) hm hgd.out)
        rcases a with _ | u
        · have hga : gE 88 m (txt ((c, none, m') :: T')) = tells (c, none, m') := hgd.out.1.2.2.2 (txt T')
          have aGz := Hid.mk' (aG.out m hm _ _ hga)
          have hk1 : 1 ≤ c.length := hgd.out.1.1
          have hk4 : c.length ≤ 4 := hgd.out.1.2.1
          have h7 : Hid (∀ b ∈ c, b.toNat < 128) := Hid.mk' hgd.out.1.2.2.1
          have hgd' : Hid (SGood (gE 88) m' T') := Hid.mk' hgd.out.2
          have hl' : Hid (lastM m' T' = eM) := Hid.mk' hl.out
          have hcut : Hid (s.extract c.length s.size = str (txt T')) := Hid.mk' (by rw [hs.out, txt_cons]; exact str_drop _ _ _ rfl)
          have hsl : s.size = c.length + (txt T').length := by rw [hs.out, str_size, txt_cons, List.length_append]
          have hsz' : Hid ((str (txt T')).size ≤ 1403) := Hid.mk' (by rw [str_size]; omega)
          have hmeas : Hid ((str (txt T')).size < s.size) := Hid.mk' (by rw [str_size]; omega)
          have hstl : Hid (s.toList = txt ((c, none, m') :: T')) := Hid.mk' (by rw [hs.out, str_toList])
          have hix : Hid (∀ (j : Nat) (hj : j < c.length) (wy : World), (Instr.index 9 (.string s) (.int .i64 (j : Int))).run Try.prog wy = .ok (.int .u8 (c[j].toNat : Int)) wy) := Hid.mk' (fun j hj wy => by
            rw [hs.out]
            exact index_of (by rw [txt_cons, List.getElem?_append_left hj, List.getElem?_eq_getElem hj]) wy)
          have hdr' : Hid (W.drop n = told T') := Hid.mk' (hdr.out.trans (told_none c m' T'))
          obtain ⟨k, hk⟩ : ∃ k, c.length = k := ⟨_, rfl⟩
          simp only [tells, hk, Option.isSome_some, Option.isSome_none, Option.getD_some, Option.getD_none, if_true, Bool.false_eq_true, if_false] at aGz
          have hk0 := Hid.mk' hk
          rw [hk] at hk1 hk4 hcut hsl
          have hpos : (0 : Int) < (s.size : Int) := by omega
          have e1 : ¬ (k : Int) < 1 := by omega
          have e2 : ¬ (s.size : Int) < (k : Int) := by omega
          have e3 : (0 : Int) ≤ (k : Int) := by omega
          have e4 : (k : Int) ≤ (s.size : Int) := by omega
          clear hgd hl hga hk hdr hsl
          obtain ⟨cp, wC, hcvt, hBC, hgC, hcp1, hcp2⟩ := conv_new (P := Try.prog) wr 9 25 s Try.underlying9 Try.underlying25 Try.underlying5 (by omega)
          rw [hstl.out] at hBC
          have hlen0 : Hid ((txt ((c, none, m') :: T')).length = s.size) := Hid.mk' (by rw [hs.out, str_size])
          have bC := Hid.mk' (hb.out.next hgC)
          have hBC := Hid.mk' hBC
          go_upto_region 27 with (first
            | (refine wpList_loadC _ rfl 24 _ rfl _ Try.underlying24 rfl SB (sC (m : Int) 0 0 0) infoS rfl hb.out.st ?_)
            | (go_at_call 8; refine (aGz.out s.size hlen0.out _ cp wC hBC.out hcp1 hcp2 (K.out _ _ hq.out bC.out.g)).mono ?_; rintro e wA ⟨rfl, hgA⟩)
            | (refine wpList_allocC _ rfl 28 rfl (gZ 0 0 0 0) (zeroG _) ?_; intro wB gB hgB)
            | (refine wpList_storeC _ rfl 28 _ _ rfl _ (gZ 0 0 0 0) (gM 0 (k : Int) 0 0 (m' : Int)) infoG rfl (gC_one _ _ _ _ _ _ _ _ _) rfl rfl gB ?_; intro w4 g4 hg4))
          have b4 := Hid.mk' (bC.out.next (grownBy_new (gt hgA hgB) hg4 (fun k hk => by have h5 := Option.some.inj hk; have h6 := hgA.size; omega)))
          clear hcvt hBC hgC hcp1 hcp2 hgA hgB hg4 gB bC hb aGz hlen0
          generalize wA.heap.size = GB at *
          have c0 := g4.cell 0 (v := .int .i64 0) rfl
          have c1 := g4.cell 1 (v := .int .i64 (k : Int)) rfl
          have c2 := g4.cell 2 (v := .int .i64 0) rfl
          have c3 := g4.cell 3 (v := .int .i32 0) rfl
          have c5 := g4.cell 5 (v := .int .i64 (m' : Int)) rfl
          have c6 := g4.cell 6 (v := .int .i64 0) rfl
          have c7 := g4.cell 7 (v := .int .u32 0) rfl
          have c8 := g4.cell 8 (v := .int .i32 0) rfl
          go_upto_region 30 with (fail)
          go_loopw [16] (fun t16 wy => ∃ j : Nat, j ≤ k ∧ t16 = .int .i64 (j : Int) ∧ Hid (wy = w4)) (fun t16 _ => k - (intOf t16).toNat)
          case atStart => exact ⟨0, by omega, rfl, Hid.mk' rfl⟩
          case round =>
            obtain ⟨j, hj, rfl, hwy⟩ := hrel
            have hwy2 := hwy.out
            clear hwy
            subst hwy2
            by_cases hlt : j < k
            · have hlt' : (j : Int) < (k : Int) := by omega
              have hjc : j < c.length := by rw [hk0.out]; exact hlt
              have hx := hix.out j hjc
              have hc8 : ¬ (128 : Int) ≤ (c[j].toNat : Int) := by have := h7.out _ (List.getElem_mem hjc); omega
              generalize (c[j].toNat : Int) = v at hx hc8
              go_wp2
              go_roundw
              case rel => exact ⟨j + 1, by omega, by go_num, Hid.mk' (by first | rfl | trivial)⟩
              case measure => simp [intOf]; omega
            · obtain rfl : j = k := by omega
              clear c0 c3
              go_upto_region 38 with fail
              clear c1 c2 c5 c6 c7 c8
              have hS0 : (fun w' => w'.cell? ⟨GB, 1, none⟩ = some (.int .i64 (j : Int)) ∧ w'.cell? ⟨GB, 5, none⟩ = some (.int .i64 (m' : Int)) ∧ w'.cell? ⟨GB, 6, none⟩ = some (.int .i64 0) ∧ w'.cell? ⟨GB, 7, none⟩ = some (.int .u32 0) ∧ w'.cell? ⟨GB, 8, none⟩ = some (.int .i32 0)) wr.drew := ⟨(g4.kept0 (gd (grownBy_refl _ none))).cell 1 rfl, (g4.kept0 (gd (grownBy_refl _ none))).cell 5 rfl, (g4.kept0 (gd (grownBy_refl _ none))).cell 6 rfl, (g4.kept0 (gd (grownBy_refl _ none))).cell 7 rfl, (g4.kept0 (gd (grownBy_refl _ none))).cell 8 rfl⟩
              have b8x := Hid.mk' (b4.out.next (gd (grownBy_refl wr none)))
              have gneS : Hid (some GB ≠ some SB) := Hid.mk' (by intro e; have h5 := Option.some.inj e; have := b4.out.st.ne g4 (by decide); omega)
              have g8x := Hid.mk' (g4.kept0 (gd (grownBy_refl wr none)))
              refine wp_region_held_drew (S := fun w' => w'.cell? ⟨GB, 1, none⟩ = some (.int .i64 (j : Int)) ∧ w'.cell? ⟨GB, 5, none⟩ = some (.int .i64 (m' : Int)) ∧ w'.cell? ⟨GB, 6, none⟩ = some (.int .i64 0) ∧ w'.cell? ⟨GB, 7, none⟩ = some (.int .u32 0) ∧ w'.cell? ⟨GB, 8, none⟩ = some (.int .i32 0)) (by kernel_rfl) hS0 (fun hHeld => ?_)
              refine wpAnyH_take (i := 0) (v := ?_) rfl (by kernel_rfl) (by kernel_rfl) (by kernel_rfl) (fun _ _ _ h => h) (Or.inl ⟨by rfl, ?_⟩) (by assumption) ?_; rotate_left
              · (intro w hSw; (try dsimp only at hSw); go_simp; try with_reducible rfl)
              try simp only [List.getElem_toArray, List.getElem_cons_zero, Act.put, List.setIfInBounds_toArray, List.set_cons_zero, List.set_cons_succ]
              refine wpAnyH_take (i := 1) (v := ?_) rfl (by kernel_rfl) (by kernel_rfl) (by kernel_rfl) (fun _ _ _ h => h) (Or.inl ⟨by rfl, ?_⟩) (by assumption) ?_; rotate_left
              · (intro w hSw; (try dsimp only at hSw); go_simp; try with_reducible rfl)
              try simp only [List.getElem_toArray, List.getElem_cons_zero, List.getElem_cons_succ, Act.put, List.setIfInBounds_toArray, List.set_cons_zero, List.set_cons_succ]
              refine wpAnyH_take (i := 2) (v := ?_) rfl (by kernel_rfl) (by kernel_rfl) (by kernel_rfl) (fun _ _ _ h => h) (Or.inl ⟨by rfl, ?_⟩) (by assumption) ?_; rotate_left
              · (intro w hSw; (try dsimp only at hSw); go_simp; try with_reducible rfl)
              try simp only [List.getElem_toArray, List.getElem_cons_zero, List.getElem_cons_succ, Act.put, List.setIfInBounds_toArray, List.set_cons_zero, List.set_cons_succ]
              refine wpAnyH_take (i := 3) (v := ?_) rfl (by kernel_rfl) (by kernel_rfl) (by kernel_rfl) (fun _ _ _ h => h) (Or.inl ⟨by rfl, ?_⟩) (by assumption) ?_; rotate_left
              · (intro w hSw; (try dsimp only at hSw); go_simp; try with_reducible rfl)
              try simp only [List.getElem_toArray, List.getElem_cons_zero, List.getElem_cons_succ, Act.put, List.setIfInBounds_toArray, List.set_cons_zero, List.set_cons_succ]
              refine wpAnyH_take (i := 4) (v := ?_) rfl (by kernel_rfl) (by kernel_rfl) (by kernel_rfl) (fun _ _ _ h => h) (Or.inl ⟨by rfl, ?_⟩) (by assumption) ?_; rotate_left
              · (intro w hSw; (try dsimp only at hSw); go_simp; try with_reducible rfl)
              try simp only [List.getElem_toArray, List.getElem_cons_zero, List.getElem_cons_succ, Act.put, List.setIfInBounds_toArray, List.set_cons_zero, List.set_cons_succ]
              refine wpAnyH_take (i := 5) (v := ?_) rfl (by kernel_rfl) (by kernel_rfl) (by kernel_rfl) (fun _ _ _ h => h) (Or.inl ⟨by rfl, ?_⟩) (by assumption) ?_; rotate_left
              · (intro w hSw; (try dsimp only at hSw); go_simp; try with_reducible rfl)
              try simp only [List.getElem_toArray, List.getElem_cons_zero, List.getElem_cons_succ, Act.put, List.setIfInBounds_toArray, List.set_cons_zero, List.set_cons_succ]
              refine wpAnyH_take (i := 6) (v := ?_) rfl (by kernel_rfl) (by kernel_rfl) (by kernel_rfl) (fun _ _ _ h => h) (Or.inl ⟨by rfl, ?_⟩) (by assumption) ?_; rotate_left
              · (intro w hSw; (try dsimp only at hSw); go_simp; try with_reducible rfl)
              try simp only [List.getElem_toArray, List.getElem_cons_zero, List.getElem_cons_succ, Act.put, List.setIfInBounds_toArray, List.set_cons_zero, List.set_cons_succ]
              refine wpAnyH_ready (rs := [7]) (by kernel_rfl) (by simp) ?_
              refine AllReadyH.cons rfl (fun K hK => ?_) AllReadyH.nil
              refine step_storeC (by rfl) 24 _ _ (by rfl) _ (sC (m : Int) 0 0 0) (sC (m' : Int) 0 0 0) infoS rfl (sC_one _ _ _ _) (by simp [Act.eval]) (by simp [Act.eval]) b8x.out.st ?_
              intro wF sF hgF
              have gF := Hid.mk' (g8x.out.kept hgF gneS.out)
              have bF := Hid.mk' (b8x.out.put sF hgF)
              refine hK.out _ _ ⟨gF.out.cell 1 rfl, gF.out.cell 5 rfl, gF.out.cell 6 rfl, gF.out.cell 7 rfl, gF.out.cell 8 rfl⟩ (fun hHeld => ?_)
              clear hK K
              try simp only [List.getElem_toArray, List.getElem_cons_zero, List.getElem_cons_succ, Act.put, List.setIfInBounds_toArray, List.set_cons_zero, List.set_cons_succ]
              refine wpAnyH_done (by kernel_rfl) ?_ _
              go_wp2_with fail
              go_roundw
              case rel => exact ⟨n, T', m', str (txt T'), by go_num, by rw [← hcut.out], by omega, hsz'.out, hm'.out, Hid.mk' rfl, hdr', hl', hgd', bF⟩
              case measure => simp only [szOf]; rw [hcut.out]; exact hmeas.out
        · have hga : gE 88 m (txt ((c, some u, m') :: T')) = tells (c, some u, m') := hgd.out.1.2.2.2 (txt T')
          have aGz := Hid.mk' (aG.out m hm _ _ hga)
          have hk1 : 1 ≤ c.length := hgd.out.1.1
          have hk4 : c.length ≤ 4 := hgd.out.1.2.1
          have h7 : Hid (∀ b ∈ c, b.toNat < 128) := Hid.mk' hgd.out.1.2.2.1
          have hgd' : Hid (SGood (gE 88) m' T') := Hid.mk' hgd.out.2
          have hl' : Hid (lastM m' T' = eM) := Hid.mk' hl.out
          have hcut : Hid (s.extract c.length s.size = str (txt T')) := Hid.mk' (by rw [hs.out, txt_cons]; exact str_drop _ _ _ rfl)
          have hsl : s.size = c.length + (txt T').length := by rw [hs.out, str_size, txt_cons, List.length_append]
          have hsz' : Hid ((str (txt T')).size ≤ 1403) := Hid.mk' (by rw [str_size]; omega)
          have hmeas : Hid ((str (txt T')).size < s.size) := Hid.mk' (by rw [str_size]; omega)
          have hstl : Hid (s.toList = txt ((c, some u, m') :: T')) := Hid.mk' (by rw [hs.out, str_toList])
          have hix : Hid (∀ (j : Nat) (hj : j < c.length) (wy : World), (Instr.index 9 (.string s) (.int .i64 (j : Int))).run Try.prog wy = .ok (.int .u8 (c[j].toNat : Int)) wy) := Hid.mk' (fun j hj wy => by
            rw [hs.out]
            exact index_of (by rw [txt_cons, List.getElem?_append_left hj, List.getElem?_eq_getElem hj]) wy)
          obtain ⟨hnW, hWn, hdr'⟩ := drop_cons (hdr.out.trans (told_some c u m' T'))
          have hdr' := Hid.mk' hdr'
          have hWn := Hid.mk' hWn
          have hnl : n + 1 ≤ W.length := hnW
          have hnW' : (n : Int) < (W.length : Int) := by omega
          obtain ⟨k, hk⟩ : ∃ k, c.length = k := ⟨_, rfl⟩
          simp only [tells, hk, Option.isSome_some, Option.isSome_none, Option.getD_some, Option.getD_none, if_true, Bool.false_eq_true, if_false] at aGz
          have hk0 := Hid.mk' hk
          rw [hk] at hk1 hk4 hcut hsl
          have hpos : (0 : Int) < (s.size : Int) := by omega
          have e1 : ¬ (k : Int) < 1 := by omega
          have e2 : ¬ (s.size : Int) < (k : Int) := by omega
          have e3 : (0 : Int) ≤ (k : Int) := by omega
          have e4 : (k : Int) ≤ (s.size : Int) := by omega
          clear hgd hl hga hk hdr hsl
          obtain ⟨cp, wC, hcvt, hBC, hgC, hcp1, hcp2⟩ := conv_new (P := Try.prog) wr 9 25 s Try.underlying9 Try.underlying25 Try.underlying5 (by omega)
          rw [hstl.out] at hBC
          have hlen0 : Hid ((txt ((c, some u, m') :: T')).length = s.size) := Hid.mk' (by rw [hs.out, str_size])
          have bC := Hid.mk' (hb.out.next hgC)
          have hBC := Hid.mk' hBC
          go_upto_region 27 with (first
            | (refine wpList_loadC _ rfl 24 _ rfl _ Try.underlying24 rfl SB (sC (m : Int) 0 0 0) infoS rfl hb.out.st ?_)
            | (go_at_call 8; refine (aGz.out s.size hlen0.out _ cp wC hBC.out hcp1 hcp2 (K.out _ _ hq.out bC.out.g)).mono ?_; rintro e wA ⟨rfl, hgA⟩)
            | (refine wpList_allocC _ rfl 28 rfl (gZ 0 0 0 0) (zeroG _) ?_; intro wB gB hgB)
            | (refine wpList_storeC _ rfl 28 _ _ rfl _ (gZ 0 0 0 0) (gM 0 (k : Int) 1 u (m' : Int)) infoG rfl (gC_one _ _ _ _ _ _ _ _ _) rfl rfl gB ?_; intro w4 g4 hg4))
          have b4 := Hid.mk' (bC.out.next (grownBy_new (gt hgA hgB) hg4 (fun k hk => by have h5 := Option.some.inj hk; have h6 := hgA.size; omega)))
          clear hcvt hBC hgC hcp1 hcp2 hgA hgB hg4 gB bC hb aGz hlen0
          generalize wA.heap.size = GB at *
          have c0 := g4.cell 0 (v := .int .i64 0) rfl
          have c1 := g4.cell 1 (v := .int .i64 (k : Int)) rfl
          have c2 := g4.cell 2 (v := .int .i64 1) rfl
          have c3 := g4.cell 3 (v := .int .i32 u) rfl
          have c5 := g4.cell 5 (v := .int .i64 (m' : Int)) rfl
          have c6 := g4.cell 6 (v := .int .i64 0) rfl
          have c7 := g4.cell 7 (v := .int .u32 0) rfl
          have c8 := g4.cell 8 (v := .int .i32 0) rfl
          go_upto_region 30 with (fail)
          go_loopw [16] (fun t16 wy => ∃ j : Nat, j ≤ k ∧ t16 = .int .i64 (j : Int) ∧ Hid (wy = w4)) (fun t16 _ => k - (intOf t16).toNat)
          case atStart => exact ⟨0, by omega, rfl, Hid.mk' rfl⟩
          case round =>
            obtain ⟨j, hj, rfl, hwy⟩ := hrel
            have hwy2 := hwy.out
            clear hwy
            subst hwy2
            by_cases hlt : j < k
            · have hlt' : (j : Int) < (k : Int) := by omega
              have hjc : j < c.length := by rw [hk0.out]; exact hlt
              have hx := hix.out j hjc
              have hc8 : ¬ (128 : Int) ≤ (c[j].toNat : Int) := by have := h7.out _ (List.getElem_mem hjc); omega
              generalize (c[j].toNat : Int) = v at hx hc8
              go_wp2
              go_roundw
              case rel => exact ⟨j + 1, by omega, by go_num, Hid.mk' (by first | rfl | trivial)⟩
              case measure => simp [intOf]; omega
            · obtain rfl : j = k := by omega
              go_upto_region 35 with (fail)
              obtain ⟨b1, o1, hr1, hb1, x0⟩ := rucell b4.out.want.rd hnW
              rw [hWn.out] at x0
              subst hr1
              have hn0 : (0 : Int) ≤ (n : Int) := by omega
              have huu : (u != u) = false := by simp
              have uc1 := b4.out.want.cap_le
              have uc2 := b4.out.want.cap_max
              go_quiet (fail)
              clear c0 c1 c2 c3 c5 c6 c7 c8 x0
              have hgq : wr.grownBy (wr.drewN nq) none := ⟨rfl, rfl, rfl, Nat.le_refl _, fun _ _ _ => rfl⟩
              have b5 := Hid.mk' (b4.out.next hgq)
              have g5 := Hid.mk' (g4.kept0 hgq)
              generalize wr.drewN nq = w5 at *
              clear hgq b4 g4
              have c1 := g5.out.cell 1 (v := .int .i64 (j : Int)) rfl
              have c2 := g5.out.cell 2 (v := .int .i64 1) rfl
              go_upto_region 38 with fail
              have hS0 : (fun w' => w'.cell? ⟨GB, 1, none⟩ = some (.int .i64 (j : Int)) ∧ w'.cell? ⟨GB, 5, none⟩ = some (.int .i64 (m' : Int)) ∧ w'.cell? ⟨GB, 6, none⟩ = some (.int .i64 0) ∧ w'.cell? ⟨GB, 7, none⟩ = some (.int .u32 0) ∧ w'.cell? ⟨GB, 8, none⟩ = some (.int .i32 0)) w5.drew := ⟨(g5.out.kept0 (gd (grownBy_refl _ none))).cell 1 rfl, (g5.out.kept0 (gd (grownBy_refl _ none))).cell 5 rfl, (g5.out.kept0 (gd (grownBy_refl _ none))).cell 6 rfl, (g5.out.kept0 (gd (grownBy_refl _ none))).cell 7 rfl, (g5.out.kept0 (gd (grownBy_refl _ none))).cell 8 rfl⟩
              have b8x := Hid.mk' (b5.out.next (gd (grownBy_refl w5 none)))
              have gneS : Hid (some GB ≠ some SB) := Hid.mk' (by intro e; have h5 := Option.some.inj e; have := b5.out.st.ne g5.out (by decide); omega)
              have g8x := Hid.mk' (g5.out.kept0 (gd (grownBy_refl w5 none)))
              refine wp_region_held_drew (S := fun w' => w'.cell? ⟨GB, 1, none⟩ = some (.int .i64 (j : Int)) ∧ w'.cell? ⟨GB, 5, none⟩ = some (.int .i64 (m' : Int)) ∧ w'.cell? ⟨GB, 6, none⟩ = some (.int .i64 0) ∧ w'.cell? ⟨GB, 7, none⟩ = some (.int .u32 0) ∧ w'.cell? ⟨GB, 8, none⟩ = some (.int .i32 0)) (by kernel_rfl) hS0 (fun hHeld => ?_)
              refine wpAnyH_take (i := 0) (v := ?_) rfl (by kernel_rfl) (by kernel_rfl) (by kernel_rfl) (fun _ _ _ h => h) (Or.inl ⟨by rfl, ?_⟩) (by assumption) ?_; rotate_left
              · (intro w hSw; (try dsimp only at hSw); go_simp; try with_reducible rfl)
              try simp only [List.getElem_toArray, List.getElem_cons_zero, Act.put, List.setIfInBounds_toArray, List.set_cons_zero, List.set_cons_succ]
              refine wpAnyH_take (i := 1) (v := ?_) rfl (by kernel_rfl) (by kernel_rfl) (by kernel_rfl) (fun _ _ _ h => h) (Or.inl ⟨by rfl, ?_⟩) (by assumption) ?_; rotate_left
              · (intro w hSw; (try dsimp only at hSw); go_simp; try with_reducible rfl)
              try simp only [List.getElem_toArray, List.getElem_cons_zero, List.getElem_cons_succ, Act.put, List.setIfInBounds_toArray, List.set_cons_zero, List.set_cons_succ]
              refine wpAnyH_take (i := 2) (v := ?_) rfl (by kernel_rfl) (by kernel_rfl) (by kernel_rfl) (fun _ _ _ h => h) (Or.inl ⟨by rfl, ?_⟩) (by assumption) ?_; rotate_left
              · (intro w hSw; (try dsimp only at hSw); go_simp; try with_reducible rfl)
              try simp only [List.getElem_toArray, List.getElem_cons_zero, List.getElem_cons_succ, Act.put, List.setIfInBounds_toArray, List.set_cons_zero, List.set_cons_succ]
              refine wpAnyH_take (i := 3) (v := ?_) rfl (by kernel_rfl) (by kernel_rfl) (by kernel_rfl) (fun _ _ _ h => h) (Or.inl ⟨by rfl, ?_⟩) (by assumption) ?_; rotate_left
              · (intro w hSw; (try dsimp only at hSw); go_simp; try with_reducible rfl)
              try simp only [List.getElem_toArray, List.getElem_cons_zero, List.getElem_cons_succ, Act.put, List.setIfInBounds_toArray, List.set_cons_zero, List.set_cons_succ]
              refine wpAnyH_take (i := 4) (v := ?_) rfl (by kernel_rfl) (by kernel_rfl) (by kernel_rfl) (fun _ _ _ h => h) (Or.inl ⟨by rfl, ?_⟩) (by assumption) ?_; rotate_left
              · (intro w hSw; (try dsimp only at hSw); go_simp; try with_reducible rfl)
              try simp only [List.getElem_toArray, List.getElem_cons_zero, List.getElem_cons_succ, Act.put, List.setIfInBounds_toArray, List.set_cons_zero, List.set_cons_succ]
              refine wpAnyH_take (i := 5) (v := ?_) rfl (by kernel_rfl) (by kernel_rfl) (by kernel_rfl) (fun _ _ _ h => h) (Or.inl ⟨by rfl, ?_⟩) (by assumption) ?_; rotate_left
              · (intro w hSw; (try dsimp only at hSw); go_simp; try with_reducible rfl)
              try simp only [List.getElem_toArray, List.getElem_cons_zero, List.getElem_cons_succ, Act.put, List.setIfInBounds_toArray, List.set_cons_zero, List.set_cons_succ]
              refine wpAnyH_take (i := 6) (v := ?_) rfl (by kernel_rfl) (by kernel_rfl) (by kernel_rfl) (fun _ _ _ h => h) (Or.inl ⟨by rfl, ?_⟩) (by assumption) ?_; rotate_left
              · (intro w hSw; (try dsimp only at hSw); go_simp; try with_reducible rfl)
              try simp only [List.getElem_toArray, List.getElem_cons_zero, List.getElem_cons_succ, Act.put, List.setIfInBounds_toArray, List.set_cons_zero, List.set_cons_succ]
              refine wpAnyH_ready (rs := [7]) (by kernel_rfl) (by simp) ?_
              refine AllReadyH.cons rfl (fun K hK => ?_) AllReadyH.nil
              refine step_storeC (by rfl) 24 _ _ (by rfl) _ (sC (m : Int) 0 0 0) (sC (m' : Int) 0 0 0) infoS rfl (sC_one _ _ _ _) (by simp [Act.eval]) (by simp [Act.eval]) b8x.out.st ?_
              intro wF sF hgF
              have gF := Hid.mk' (g8x.out.kept hgF gneS.out)
              have bF := Hid.mk' (b8x.out.put sF hgF)
              refine hK.out _ _ ⟨gF.out.cell 1 rfl, gF.out.cell 5 rfl, gF.out.cell 6 rfl, gF.out.cell 7 rfl, gF.out.cell 8 rfl⟩ (fun hHeld => ?_)
              clear hK K
              try simp only [List.getElem_toArray, List.getElem_cons_zero, List.getElem_cons_succ, Act.put, List.setIfInBounds_toArray, List.set_cons_zero, List.set_cons_succ]
              refine wpAnyH_done (by kernel_rfl) ?_ _
              go_wp2_with fail
              go_roundw
              case rel => exact ⟨n + 1, T', m', str (txt T'), by go_num, by rw [← hcut.out], hnl, hsz'.out, hm'.out, Hid.mk' rfl, hdr', hl', hgd', bF⟩
              case measure => simp only [szOf]; rw [hcut.out]; exact hmeas.out
end Go.Proofs.Ytdobjijebalkkaa.C21
