/- IC21, ICj21, ICk21, joined. -/
import Derived.Test.YtdobjijebalkkaaIM21
import Derived.Test.YtdobjijebalkkaaBw
import Derived.Test.YtdobjijebalkkaaMem
import Derived.Test.YtdobjijebalkkaaConv
import Derived.Test.YtdobjijebalkkaaIY21
import Derived.Test.YtdobjijebalkkaaArgs
import Derived.Test.YtdobjijebalkkaaCs
import Derived.Test.YtdobjijebalkkaaCw
import Derived.Test.YtdobjijebalkkaaConvApp
import Derived.Test.YtdobjijebalkkaaRegion
import Derived.Deep.CutBlock
import Derived.Deep.RegionHeld3
import Derived.BigQuiet
/- Iso2022Cuts, plain: what is at the front of a text that was cut. -/
namespace Go.Proofs.Ytdobjijebalkkaa.C21
open Go.ChangeShapes Go.WideShapes Go.ChangeAt Go.RowKit Go.Proofs.Ytdobjijebalkkaa.Mem Go.Proofs.Ytdobjijebalkkaa.Cb Go.Proofs.Ytdobjijebalkkaa.Sp Go.Proofs.Ytdobjijebalkkaa.El Go.Proofs.Ytdobjijebalkkaa.Ru
set_option linter.unusedVariables false
set_option linter.unusedSimpArgs false

/-- A text that was cut: its first step is whole, or there are less than four bytes, which wait for more. -/
theorem cut_ways {k : Int} {m : Nat} {T : List Stp} {B : List UInt8} (hm : m < 3) (h : Ok k m T) (hB : ∃ j, B = (txt T).take j) (hne : B ≠ []) :
    (∃ (c B' : List UInt8) (K A : Int) (m' : Nat) (T' : List Stp), B = c ++ B' ∧ 1 ≤ c.length ∧ gE k m B = (0, (c.length : Int), K, A, (m' : Int)) ∧ m' < 3 ∧ Ok k m' T' ∧ ∃ j, B' = (txt T').take j) ∨ (gE k m B = (1, 0, 0, 0, 0) ∧ B.length < 4) := by
  obtain ⟨j, rfl⟩ := hB
  rcases T with _ | ⟨⟨c, a, m'⟩, T'⟩
  · exact absurd (by simp [txt]) hne
  · have h1 := h.1.1
    have hc : 1 ≤ c.length := h1.1
    have hc4 : c.length ≤ 4 := h1.2.1
    rw [txt_cons] at hne ⊢
    by_cases hj : c.length ≤ j
    · have e : (c ++ txt T').take j = c ++ (txt T').take (j - c.length) := by
        rw [List.take_append, List.take_of_length_le hj]
      refine .inl ⟨c, _, (if a.isSome then 1 else 0), a.getD 0, m', T', e, hc, ?_, good_less hm h.1, ⟨h.1.2, h.2.2⟩, _, rfl⟩
      show gE k m ((c ++ txt T').take j) = _
      rw [e]
      exact h1.2.2.2 _
    · have e : (c ++ txt T').take j = c.take j := List.take_append_of_le_length (by omega)
      refine .inr ⟨?_, ?_⟩
      · show gE k m ((c ++ txt T').take j) = _
        rw [e]
        refine h.2.1 j ?_ (show j < c.length by omega)
        rcases j with _ | j
        · exact absurd (by simp) hne
        · omega
      · show ((c ++ txt T').take j).length < 4
        rw [e, List.length_take]
        omega
def lnOf (v : Value) : Nat := match v with | .slice _ n _ => n | _ => 0
theorem toList_of (L : List UInt8) : (str L).toList = L := str_toList L
theorem str_take (L : List UInt8) (r : Nat) (h : r ≤ L.length) : (str L).extract 0 r = str (L.take r) := by
  apply ByteArray.ext
  apply Array.ext'
  rw [ByteArray.data_extract]
  simp only [str, List.extract_toArray]
  show L.extract 0 r = L.take r
  unfold List.extract
  simp
theorem bw_drew {w : World} {SB : Nat} {ro : Option Addr} {rc : Nat} {W : List Int} {m : Nat} {wx : World} (h : BW w SB ro rc W m wx) : wx.grownBy wx.drew none := ⟨rfl, rfl, rfl, Nat.le_refl _, fun _ _ _ => rfl⟩
theorem conv_bw {w : World} {SB : Nat} {ro : Option Addr} {rc : Nat} {W : List Int} {m : Nat} {wx : World} (h : BW w SB ro rc W m wx) (s : ByteArray) (hz : s.size ≤ 1000000) : ∃ c w' g, (convert 9 25 (.string s)).run Try.prog wx = .ok (.slice (some ⟨g, 0, none⟩) s.size c) w' ∧ Bytes w' (some ⟨g, 0, none⟩) s.toList ∧ wx.grownBy w' none ∧ s.size ≤ c ∧ c ≤ 9223372036854775807 ∧ SB < g := by
  obtain ⟨c, w', h1, h2, h3, h4, h5⟩ := conv_new (P := Try.prog) wx 9 25 s Try.underlying9 Try.underlying25 Try.underlying5 hz
  exact ⟨c, w', _, h1, h2, h3, h4, h5, h.st.lt⟩
theorem bytes_none {w : World} {a : Addr} : Bytes w (some a) [] := .inr ⟨_, rfl, fun j hj => by simp at hj⟩
end Go.Proofs.Ytdobjijebalkkaa.C21

/- Iso2022Cuts, JP: the walk. -/
namespace Go.Proofs.Ytdobjijebalkkaa.C21
open Go.ChangeShapes Go.WideShapes Go.ChangeAt Go.RowKit Go.Proofs.Ytdobjijebalkkaa.Mem Go.Proofs.Ytdobjijebalkkaa.Cb Go.Proofs.Ytdobjijebalkkaa.Sp Go.Proofs.Ytdobjijebalkkaa.El Go.Proofs.Ytdobjijebalkkaa.Ru
set_option linter.unusedVariables false
set_option linter.unusedSimpArgs false

set_option maxRecDepth 100000 in
set_option maxHeartbeats 4000000 in
theorem cuts_j {P : World → Prop} (C : Con P) (ao : Option Addr) (cap : Nat) (L : List Int) (len : Nat) (hlen : L.length = len) (at_ : Int) (w : World) (hw : P w) (hR : RuE.Rd w ao L) (hI : ∀ u ∈ L, I32 u) (hLc : len ≤ cap) (hcm : cap ≤ 140737488351232) :
    Calls Try.prog 6 #[.bool false, .slice ao len cap, .int .i64 at_] w fun e w' => e = .returned (.bool true) ∧ w.grownBy w' none := by
  have a0 := Hid.mk' (fun w hw => works_any C w hw)
  have aS := Hid.mk' (fun (m : Nat) (hm : m < 3) (u : Int) (hu : I32 u) (e : Int) (bs : List UInt8) (d : Int) (hS : sE 83 m u = (e, bs, d)) => (C.put 83 (by unfold I64; omega) (m : Int) 0 0 0 m (mo_is m hm) u hu e bs d hS).out)
  have aG := Hid.mk' (fun (m : Nat) (hm : m < 3) (L : List UInt8) (e n k a d : Int) (hG : gE 83 m L = (e, n, k, a, d)) => (C.got 83 (by unfold I64; omega) (m : Int) 0 0 0 m (mo_is m hm) L _ _ _ _ _ hG).out)
  have K := Hid.mk' (fun (a b : World) (h : P a) (g : a.grownBy b none) => C.keep h g)
  have hq := Hid.mk' hw
  have hR0 := Hid.mk' hR
  have hI0 := Hid.mk' hI
  have hl0 := Hid.mk' hlen
  clear hw C hR hI hlen
  go_enter Try.func6, Try.ntmps6
  go_upto_region 7 with (first
    | (go_at_call 16; refine (a0.out _ hq.out).mono ?_; rintro e w1 ⟨rfl, hg1, hp1⟩)
    | (refine wpList_allocC _ rfl 24 rfl (sC 0 0 0 0) (zeroS _) ?_; intro w2 s2 hg2)
    | (refine wpList_storeC _ rfl 24 _ _ rfl _ (sC 0 0 0 0) (sC 0 0 0 0) infoS rfl (sC_one _ _ _ _) rfl rfl s2 ?_; intro w3 s3 hg3))
  have hb3 : Hid (BW w w1.heap.size none 0 [] 0 w3) := Hid.mk' ⟨.inl ⟨rfl, rfl, rfl⟩, s3, grownBy_new (gt hg1 hg2) hg3 (fun k hk => by have h5 := Option.some.inj hk; have h6 := hg1.size; omega), (by intro g e; cases e), hg1.size⟩
  clear hg1 hp1 a0 hg2 hg3 s2 s3
  generalize w1.heap.size = SB at *
  go_upto_block 0 with (fail)
  go_cut [9, 10, 11] from 18 to 43 (fun t9 t10 t11 wx => ∃ (S : List Stp) (m : Nat) (s : ByteArray), t9 = .string s ∧ s.size ≤ 700 ∧ m < 3 ∧ Hid (s = str (txt S)) ∧ Hid (Ok 83 0 S) ∧ Hid (BW w SB none 0 [] m wx))
  case first =>
    go_wp2
    go_loopw [9, 10] (fun t9 t10 wx => ∃ (i : Nat) (S : List Stp) (m : Nat) (s : ByteArray), i ≤ 100 ∧ i ≤ len ∧ t10 = .int .i64 (i : Int) ∧ t9 = .string s ∧ s.size ≤ 7 * i ∧ m < 3 ∧ Hid (s = str (txt S)) ∧ Hid (lastM 0 S = m) ∧ Hid (Ok 83 0 S) ∧ Hid (BW w SB none 0 [] m wx)) (fun _ t10 _ => 100 - (intOf t10).toNat)
    case atStart => exact ⟨0, [], 0, ⟨#[]⟩, by omega, by omega, rfl, rfl, by simp [ByteArray.size], by omega, Hid.mk' rfl, Hid.mk' rfl, Hid.mk' (ok_nil _ _), hb3⟩
    case round =>
      obtain ⟨i, S, m, s, hi, hil, rfl, rfl, hsz, hm, hs, hm0, hgd, hb⟩ := hrel
      by_cases hlt : i < len
      · have hlt' : (i : Int) < (len : Int) := by omega
        by_cases hlt2 : i < 100
        · have hlt2' : (i : Int) < 100 := by omega
          have hiL : i < L.length := by rw [hl0.out]; exact hlt
          obtain ⟨b, o, rfl, hbw, x0⟩ := rucell hR0.out hiL
          have hzI : Hid (I32 L[i]) := Hid.mk' (hI0.out _ (List.getElem_mem hiL))
          generalize L[i] = z at x0 hzI
          have hx : Hid (∀ wx, w.grownBy wx none → wx.cell? ⟨b, o + i, none⟩ = some (.int .i32 z)) := Hid.mk' (fun wx hg => byte_kept x0 hbw hg)
          have hi0 : (0 : Int) ≤ (i : Int) := by omega
          have hqr := Hid.mk' (K.out _ _ hq.out hb.out.g)
          have hD : wr.grownBy wr.drew none := gd (grownBy_refl wr none)
          have K0 := K
          have hcell : Hid (∀ wx, wr.grownBy wx none → (fun w' => w'.cell? ⟨SB, 0, none⟩ = some (.int .i64 (m : Int)) ∧ w'.cell? ⟨SB, 1, none⟩ = some (.int .i64 0) ∧ w'.cell? ⟨SB, 2, none⟩ = some (.int .u32 0) ∧ w'.cell? ⟨SB, 3, none⟩ = some (.int .i32 0) ∧ w'.cell? ⟨b, o + i, none⟩ = some (.int .i32 z)) wx) := Hid.mk' (fun wx hg => ⟨(hb.out.st.kept0 hg).cell 0 rfl, (hb.out.st.kept0 hg).cell 1 rfl, (hb.out.st.kept0 hg).cell 2 rfl, (hb.out.st.kept0 hg).cell 3 rfl, hx.out _ (gt hb.out.g hg)⟩)
          clear x0 hbw
          rcases set_err (k := 83) (u := z) rfl hm with ⟨bs, md, hse⟩ | hse
          · have aSz := Hid.mk' (aS.out m hm z hzI.out _ _ _ hse)
            obtain ⟨S1, m1, rfl, hm1, hgd1, htx1, htl1, hlm1, hbl1, hbl0⟩ := set_good (k := 83) rfl hm hse
            have hbsz : (str bs).size = bs.length := str_size _
            obtain ⟨sB, hsB⟩ : ∃ sB, Hid (str bs = sB) := ⟨_, Hid.mk' rfl⟩
            rw [hsB.out] at aSz hbsz
            obtain ⟨s', hs'⟩ : ∃ s', s ++ sB = s' := ⟨_, rfl⟩
            have hs1 : Hid (s' = str (txt (S ++ S1))) := Hid.mk' (by rw [← hs', hs.out, ← hsB.out, str_app, txt_app, htx1])
            have hm01 : Hid (lastM 0 (S ++ S1) = m1) := Hid.mk' (by rw [lastM_app, hm0.out, hlm1])
            have hgd11 : Hid (Ok 83 0 (S ++ S1)) := Hid.mk' (ok_app hgd.out (by rw [hm0.out]; exact hgd1))
            have hsz1 : s'.size ≤ 7 * (i + 1) := by rw [← hs', ByteArray.size_append]; omega
            have hsz10 := Hid.mk' hsz1
            have hadd : ¬ 9223372036854775807 < s.size + sB.size := by omega
            clear hse hgd1 htx1 htl1 hlm1 hsz1 hbsz
            go_upto_region 11 with fail
            go_cut [11] from 18 to 43 (fun t11 wx => ∃ PB, t11 = .pointer (some ⟨PB, 0, none⟩) ∧ Hid (CA wx PB 35 (pM 0 sB (m1 : Int))) ∧ Hid (wr.grownBy wx none))
            case first =>
              refine wp_region_held_drew (S := fun w' => w'.cell? ⟨SB, 0, none⟩ = some (.int .i64 (m : Int)) ∧ w'.cell? ⟨SB, 1, none⟩ = some (.int .i64 0) ∧ w'.cell? ⟨SB, 2, none⟩ = some (.int .u32 0) ∧ w'.cell? ⟨SB, 3, none⟩ = some (.int .i32 0) ∧ w'.cell? ⟨b, o + i, none⟩ = some (.int .i32 z)) (by kernel_rfl) (hcell.out _ hD) (fun hHeld => ?_)
              refine wpAnyH_take (i := 0) (v := ?_) rfl (by kernel_rfl) (by kernel_rfl) (by kernel_rfl) (fun _ _ _ h => h) (Or.inl ⟨by rfl, ?_⟩) (by assumption) ?_; rotate_left
              · (intro w hSw; (try dsimp only at hSw); go_simp; try with_reducible rfl)
              try simp only [List.getElem_toArray, List.getElem_cons_zero, Act.put, List.setIfInBounds_toArray, List.set_cons_zero, List.set_cons_succ]
              refine wpAnyH_take (i := 1) (v := ?_) rfl (by kernel_rfl) (by kernel_rfl) (by kernel_rfl) (fun _ _ _ h => h) (Or.inl ⟨by rfl, ?_⟩) (by assumption) ?_; rotate_left
              · (intro w hSw; (try dsimp only at hSw); go_simp; try with_reducible rfl)
              try simp only [List.getElem_toArray, List.getElem_cons_zero, List.getElem_cons_succ, Act.put, List.setIfInBounds_toArray, List.set_cons_zero, List.set_cons_succ]
              refine wpAnyH_take (i := 2) (v := ?_) rfl (by kernel_rfl) (by kernel_rfl) (by kernel_rfl) (fun _ _ _ h => h) (Or.inl ⟨by rfl, ?_⟩) (by assumption) ?_; rotate_left
              · (intro w hSw; (try dsimp only at hSw); go_simp; try with_reducible rfl)
              try simp only [List.getElem_toArray, List.getElem_cons_zero, List.getElem_cons_succ, Act.put, List.setIfInBounds_toArray, List.set_cons_zero, List.set_cons_succ]
              refine wpAnyH_take (i := 3) (v := ?_) rfl (by kernel_rfl) (by kernel_rfl) (by kernel_rfl) (fun _ _ _ h => h) (Or.inl ⟨by rfl, ?_⟩) (by assumption) ?_; rotate_left
              · (intro w hSw; (try dsimp only at hSw); go_simp; try with_reducible rfl)
              try simp only [List.getElem_toArray, List.getElem_cons_zero, List.getElem_cons_succ, Act.put, List.setIfInBounds_toArray, List.set_cons_zero, List.set_cons_succ]
              refine wpAnyH_take (i := 4) (v := ?_) rfl (by kernel_rfl) (by kernel_rfl) (by kernel_rfl) (fun _ _ _ h => h) (Or.inl ⟨by rfl, ?_⟩) (by assumption) ?_; rotate_left
              · (intro w hSw; (try dsimp only at hSw); go_simp; try with_reducible rfl)
              try simp only [List.getElem_toArray, List.getElem_cons_zero, List.getElem_cons_succ, Act.put, List.setIfInBounds_toArray, List.set_cons_zero, List.set_cons_succ]
              refine wpAnyH_take (i := 5) (v := ?_) rfl (by kernel_rfl) (by kernel_rfl) (by kernel_rfl) (fun _ _ _ h => h) (Or.inl ⟨by rfl, ?_⟩) (by assumption) ?_; rotate_left
              · (intro w hSw; (try dsimp only at hSw); go_simp; try with_reducible rfl)
              try simp only [List.getElem_toArray, List.getElem_cons_zero, List.getElem_cons_succ, Act.put, List.setIfInBounds_toArray, List.set_cons_zero, List.set_cons_succ]
              refine wpAnyH_ready (rs := [6, 7]) (by kernel_rfl) (by simp) ?_
              refine AllReadyH.cons rfl (fun K hK => ?_) (AllReadyH.cons rfl (fun K hK => ?_) AllReadyH.nil)
              · go_simp
                refine (aSz.out wr.drew (K0.out _ _ hqr.out hD)).mono ?_
                rintro e wA ⟨rfl, hgc⟩
                try dsimp only
                have hrA : wr.grownBy wA none := gt hD hgc
                refine hK.out _ _ (hcell.out _ hrA) (fun hHeld => ?_)
                clear hK K
                try simp only [List.getElem_toArray, List.getElem_cons_zero, List.getElem_cons_succ, Act.put, List.setIfInBounds_toArray, List.set_cons_zero, List.set_cons_succ]
                refine wpAnyH_ready (rs := [7]) (by kernel_rfl) (by simp) ?_
                refine AllReadyH.cons rfl (fun K hK => ?_) AllReadyH.nil
                refine step_allocC (by rfl) 35 (by rfl) (pZ 0 ⟨#[]⟩) (zeroP _) ?_
                intro wB gB hgB
                have hrB : wr.grownBy wB none := gt hrA hgB
                refine hK.out _ _ (hcell.out _ hrB) (fun hHeld => ?_)
                clear hK K
                try simp only [List.getElem_toArray, List.getElem_cons_zero, List.getElem_cons_succ, Act.put, List.setIfInBounds_toArray, List.set_cons_zero, List.set_cons_succ]
                refine wpAnyH_ready (rs := [8]) (by kernel_rfl) (by simp) ?_
                refine AllReadyH.cons rfl (fun K hK => ?_) AllReadyH.nil
                refine step_storeC (by rfl) 35 _ _ (by rfl) _ (pZ 0 ⟨#[]⟩) (pM 0 sB (m1 : Int)) infoP rfl (pC_one _ _ _ _ _ _) (by simp [Act.eval]) (by simp [Act.eval]) gB ?_
                intro wF gF hgF
                have hrF : wr.grownBy wF none := grownBy_new hrB hgF (fun k hk => by have h5 := Option.some.inj hk; have h6 := hrA.size; (try simp at h5); omega)
                refine hK.out _ _ (hcell.out _ hrF) (fun hHeld => ?_)
                clear hK K
                try simp only [List.getElem_toArray, List.getElem_cons_zero, List.getElem_cons_succ, Act.put, List.setIfInBounds_toArray, List.set_cons_zero, List.set_cons_succ]
                refine wpAnyH_done (by kernel_rfl) ?_ _
                go_wp2_with fail
                go_meet
                exact ⟨_, rfl, Hid.mk' gF, Hid.mk' hrF⟩
              · refine step_allocC (by rfl) 35 (by rfl) (pZ 0 ⟨#[]⟩) (zeroP _) ?_
                intro wB gB hgB
                have hrB : wr.grownBy wB none := gt hD hgB
                refine hK.out _ _ (hcell.out _ hrB) (fun hHeld => ?_)
                clear hK K
                try simp only [List.getElem_toArray, List.getElem_cons_zero, List.getElem_cons_succ, Act.put, List.setIfInBounds_toArray, List.set_cons_zero, List.set_cons_succ]
                refine wpAnyH_ready (rs := [6]) (by kernel_rfl) (by simp) ?_
                refine AllReadyH.cons rfl (fun K hK => ?_) AllReadyH.nil
                go_simp
                refine (aSz.out wB (K0.out _ _ hqr.out hrB)).mono ?_
                rintro e wA ⟨rfl, hgc⟩
                try dsimp only
                have hrA : wr.grownBy wA none := gt hrB hgc
                refine hK.out _ _ (hcell.out _ hrA) (fun hHeld => ?_)
                clear hK K
                try simp only [List.getElem_toArray, List.getElem_cons_zero, List.getElem_cons_succ, Act.put, List.setIfInBounds_toArray, List.set_cons_zero, List.set_cons_succ]
                refine wpAnyH_ready (rs := [8]) (by kernel_rfl) (by simp) ?_
                refine AllReadyH.cons rfl (fun K hK => ?_) AllReadyH.nil
                refine step_storeC (by rfl) 35 _ _ (by rfl) _ (pZ 0 ⟨#[]⟩) (pM 0 sB (m1 : Int)) infoP rfl (pC_one _ _ _ _ _ _) (by simp [Act.eval]) (by simp [Act.eval]) (gB.kept0 hgc) ?_
                intro wF gF hgF
                have hrF : wr.grownBy wF none := grownBy_new hrA hgF (fun k hk => by have h5 := Option.some.inj hk; have h6 := hD.size; (try simp at h5); omega)
                refine hK.out _ _ (hcell.out _ hrF) (fun hHeld => ?_)
                clear hK K
                try simp only [List.getElem_toArray, List.getElem_cons_zero, List.getElem_cons_succ, Act.put, List.setIfInBounds_toArray, List.set_cons_zero, List.set_cons_succ]
                refine wpAnyH_done (by kernel_rfl) ?_ _
                go_wp2_with fail
                go_meet
                exact ⟨_, rfl, Hid.mk' gF, Hid.mk' hrF⟩
            case rest =>
              obtain ⟨PB, rfl, hPB, hgr⟩ := hcut
              rename_i w4
              have b4 := Hid.mk' (hb.out.next hgr.out)
              clear hcell hD hqr K0 aSz
              have y0 := hPB.out.cell 0 (v := .int .i64 0) rfl
              go_upto_region 13 with fail
              clear y0
              have hcl : Hid (∀ wx, CA wx PB 35 (pM 0 sB (m1 : Int)) → (fun w' => w'.cell? ⟨PB, 1, none⟩ = some (.string sB) ∧ w'.cell? ⟨PB, 2, none⟩ = some (.int .i64 (m1 : Int)) ∧ w'.cell? ⟨PB, 3, none⟩ = some (.int .i64 0) ∧ w'.cell? ⟨PB, 4, none⟩ = some (.int .u32 0) ∧ w'.cell? ⟨PB, 5, none⟩ = some (.int .i32 0)) wx) := Hid.mk' (fun wx hp => ⟨hp.cell 1 rfl, hp.cell 2 rfl, hp.cell 3 rfl, hp.cell 4 rfl, hp.cell 5 rfl⟩)
              have hD4 := bw_drew b4.out
              have hne : Hid (some PB ≠ some SB) := Hid.mk' (by intro e; have h5 := Option.some.inj e; have := b4.out.st.ne hPB.out (by decide); omega)
              refine wp_region_held_drew (S := fun w' => w'.cell? ⟨PB, 1, none⟩ = some (.string sB) ∧ w'.cell? ⟨PB, 2, none⟩ = some (.int .i64 (m1 : Int)) ∧ w'.cell? ⟨PB, 3, none⟩ = some (.int .i64 0) ∧ w'.cell? ⟨PB, 4, none⟩ = some (.int .u32 0) ∧ w'.cell? ⟨PB, 5, none⟩ = some (.int .i32 0)) (by kernel_rfl) (hcl.out _ (hPB.out.kept0 hD4)) (fun hHeld => ?_)
              refine wpAnyH_take (i := 0) (v := ?_) rfl (by kernel_rfl) (by kernel_rfl) (by kernel_rfl) (fun _ _ _ h => h) (Or.inl ⟨by rfl, ?_⟩) (by assumption) ?_; rotate_left
              · (intro w hSw; (try dsimp only at hSw); go_simp; try with_reducible rfl)
              try simp only [List.getElem_toArray, List.getElem_cons_zero, Act.put, List.setIfInBounds_toArray, List.set_cons_zero, List.set_cons_succ]
              refine wpAnyH_take (i := 1) (v := ?_) rfl (by kernel_rfl) (by kernel_rfl) (by kernel_rfl) (fun _ _ _ h => h) (Or.inl ⟨by rfl, ?_⟩) (by assumption) ?_; rotate_left
              · (intro w hSw; (try dsimp only at hSw); go_simp; try with_reducible rfl)
              try simp only [List.getElem_toArray, List.getElem_cons_zero, List.getElem_cons_succ, Act.put, List.setIfInBounds_toArray, List.set_cons_zero, List.set_cons_succ]
              refine wpAnyH_take (i := 2) (v := ?_) rfl (by kernel_rfl) (by kernel_rfl) (by kernel_rfl) (fun _ _ _ h => h) (Or.inl ⟨by rfl, ?_⟩) (by assumption) ?_; rotate_left
              · (intro w hSw; (try dsimp only at hSw); go_simp; try with_reducible rfl)
              try simp only [List.getElem_toArray, List.getElem_cons_zero, List.getElem_cons_succ, Act.put, List.setIfInBounds_toArray, List.set_cons_zero, List.set_cons_succ]
              refine wpAnyH_take (i := 3) (v := ?_) rfl (by kernel_rfl) (by kernel_rfl) (by kernel_rfl) (fun _ _ _ h => h) (Or.inl ⟨by rfl, ?_⟩) (by assumption) ?_; rotate_left
              · (intro w hSw; (try dsimp only at hSw); go_simp; try with_reducible rfl)
              try simp only [List.getElem_toArray, List.getElem_cons_zero, List.getElem_cons_succ, Act.put, List.setIfInBounds_toArray, List.set_cons_zero, List.set_cons_succ]
              refine wpAnyH_take (i := 4) (v := ?_) rfl (by kernel_rfl) (by kernel_rfl) (by kernel_rfl) (fun _ _ _ h => h) (Or.inl ⟨by rfl, ?_⟩) (by assumption) ?_; rotate_left
              · (intro w hSw; (try dsimp only at hSw); go_simp; try with_reducible rfl)
              try simp only [List.getElem_toArray, List.getElem_cons_zero, List.getElem_cons_succ, Act.put, List.setIfInBounds_toArray, List.set_cons_zero, List.set_cons_succ]
              refine wpAnyH_take (i := 5) (v := ?_) rfl (by kernel_rfl) (by kernel_rfl) (by kernel_rfl) (fun _ _ _ h => h) (Or.inl ⟨by rfl, ?_⟩) (by assumption) ?_; rotate_left
              · (intro w hSw; (try dsimp only at hSw); go_simp; try with_reducible rfl)
              try simp only [List.getElem_toArray, List.getElem_cons_zero, List.getElem_cons_succ, Act.put, List.setIfInBounds_toArray, List.set_cons_zero, List.set_cons_succ]
              refine wpAnyH_take (i := 6) (v := ?_) rfl (by kernel_rfl) (by kernel_rfl) (by kernel_rfl) (fun _ _ _ h => h) (Or.inl ⟨by rfl, ?_⟩) (by assumption) ?_; rotate_left
              · (intro w hSw; (try dsimp only at hSw); go_simp; try with_reducible rfl)
              try simp only [List.getElem_toArray, List.getElem_cons_zero, List.getElem_cons_succ, Act.put, List.setIfInBounds_toArray, List.set_cons_zero, List.set_cons_succ]
              refine wpAnyH_ready (rs := [7]) (by kernel_rfl) (by simp) ?_
              refine AllReadyH.cons rfl (fun K hK => ?_) AllReadyH.nil
              refine step_storeC (by rfl) 24 _ _ (by rfl) SB (sC (m : Int) 0 0 0) (sC (m1 : Int) 0 0 0) infoS rfl (sC_one _ _ _ _) (by simp [Act.eval]) (by simp [Act.eval]) (b4.out.st.kept0 hD4) ?_
              intro wF sF hgF
              have bF := Hid.mk' ((b4.out.next hD4).put sF hgF)
              refine hK.out _ _ (hcl.out _ ((hPB.out.kept0 hD4).kept hgF hne.out)) (fun hHeld => ?_)
              clear hK K
              try simp only [List.getElem_toArray, List.getElem_cons_zero, List.getElem_cons_succ, Act.put, List.setIfInBounds_toArray, List.set_cons_zero, List.set_cons_succ]
              refine wpAnyH_done (by kernel_rfl) ?_ _
              go_wp2_with fail
              go_roundw
              case rel => exact ⟨i + 1, S ++ S1, m1, s', by omega, by omega, by go_num, by first | rfl | (rw [hs']), hsz10.out, hm1, hs1, hm01, hgd11, bF⟩
              case measure => simp [intOf]; omega
          · have aSz : Hid (∀ w, P w → Calls Try.prog 14 #[.int .i64 83, stV (m : Int) 0 0 0, .int .i32 z] w fun e w' => e = .returned (.agg (pM 11 ⟨#[]⟩ 0)) ∧ w.grownBy w' none) := Hid.mk' (aS.out m hm z hzI.out _ _ _ hse)
            clear hse
            go_upto_region 11 with fail
            go_cut [11] from 18 to 43 (fun t11 wx => ∃ PB, t11 = .pointer (some ⟨PB, 0, none⟩) ∧ Hid (CA wx PB 35 (pM 11 ⟨#[]⟩ 0)) ∧ Hid (wr.grownBy wx none))
            case first =>
              refine wp_region_held_drew (S := fun w' => w'.cell? ⟨SB, 0, none⟩ = some (.int .i64 (m : Int)) ∧ w'.cell? ⟨SB, 1, none⟩ = some (.int .i64 0) ∧ w'.cell? ⟨SB, 2, none⟩ = some (.int .u32 0) ∧ w'.cell? ⟨SB, 3, none⟩ = some (.int .i32 0) ∧ w'.cell? ⟨b, o + i, none⟩ = some (.int .i32 z)) (by kernel_rfl) (hcell.out _ hD) (fun hHeld => ?_)
              refine wpAnyH_take (i := 0) (v := ?_) rfl (by kernel_rfl) (by kernel_rfl) (by kernel_rfl) (fun _ _ _ h => h) (Or.inl ⟨by rfl, ?_⟩) (by assumption) ?_; rotate_left
              · (intro w hSw; (try dsimp only at hSw); go_simp; try with_reducible rfl)
              try simp only [List.getElem_toArray, List.getElem_cons_zero, Act.put, List.setIfInBounds_toArray, List.set_cons_zero, List.set_cons_succ]
              refine wpAnyH_take (i := 1) (v := ?_) rfl (by kernel_rfl) (by kernel_rfl) (by kernel_rfl) (fun _ _ _ h => h) (Or.inl ⟨by rfl, ?_⟩) (by assumption) ?_; rotate_left
              · (intro w hSw; (try dsimp only at hSw); go_simp; try with_reducible rfl)
              try simp only [List.getElem_toArray, List.getElem_cons_zero, List.getElem_cons_succ, Act.put, List.setIfInBounds_toArray, List.set_cons_zero, List.set_cons_succ]
              refine wpAnyH_take (i := 2) (v := ?_) rfl (by kernel_rfl) (by kernel_rfl) (by kernel_rfl) (fun _ _ _ h => h) (Or.inl ⟨by rfl, ?_⟩) (by assumption) ?_; rotate_left
              · (intro w hSw; (try dsimp only at hSw); go_simp; try with_reducible rfl)
              try simp only [List.getElem_toArray, List.getElem_cons_zero, List.getElem_cons_succ, Act.put, List.setIfInBounds_toArray, List.set_cons_zero, List.set_cons_succ]
              refine wpAnyH_take (i := 3) (v := ?_) rfl (by kernel_rfl) (by kernel_rfl) (by kernel_rfl) (fun _ _ _ h => h) (Or.inl ⟨by rfl, ?_⟩) (by assumption) ?_; rotate_left
              · (intro w hSw; (try dsimp only at hSw); go_simp; try with_reducible rfl)
              try simp only [List.getElem_toArray, List.getElem_cons_zero, List.getElem_cons_succ, Act.put, List.setIfInBounds_toArray, List.set_cons_zero, List.set_cons_succ]
              refine wpAnyH_take (i := 4) (v := ?_) rfl (by kernel_rfl) (by kernel_rfl) (by kernel_rfl) (fun _ _ _ h => h) (Or.inl ⟨by rfl, ?_⟩) (by assumption) ?_; rotate_left
              · (intro w hSw; (try dsimp only at hSw); go_simp; try with_reducible rfl)
              try simp only [List.getElem_toArray, List.getElem_cons_zero, List.getElem_cons_succ, Act.put, List.setIfInBounds_toArray, List.set_cons_zero, List.set_cons_succ]
              refine wpAnyH_take (i := 5) (v := ?_) rfl (by kernel_rfl) (by kernel_rfl) (by kernel_rfl) (fun _ _ _ h => h) (Or.inl ⟨by rfl, ?_⟩) (by assumption) ?_; rotate_left
              · (intro w hSw; (try dsimp only at hSw); go_simp; try with_reducible rfl)
              try simp only [List.getElem_toArray, List.getElem_cons_zero, List.getElem_cons_succ, Act.put, List.setIfInBounds_toArray, List.set_cons_zero, List.set_cons_succ]
              refine wpAnyH_ready (rs := [6, 7]) (by kernel_rfl) (by simp) ?_
              refine AllReadyH.cons rfl (fun K hK => ?_) (AllReadyH.cons rfl (fun K hK => ?_) AllReadyH.nil)
              · go_simp
                refine (aSz.out wr.drew (K0.out _ _ hqr.out hD)).mono ?_
                rintro e wA ⟨rfl, hgc⟩
                try dsimp only
                have hrA : wr.grownBy wA none := gt hD hgc
                refine hK.out _ _ (hcell.out _ hrA) (fun hHeld => ?_)
                clear hK K
                try simp only [List.getElem_toArray, List.getElem_cons_zero, List.getElem_cons_succ, Act.put, List.setIfInBounds_toArray, List.set_cons_zero, List.set_cons_succ]
                refine wpAnyH_ready (rs := [7]) (by kernel_rfl) (by simp) ?_
                refine AllReadyH.cons rfl (fun K hK => ?_) AllReadyH.nil
                refine step_allocC (by rfl) 35 (by rfl) (pZ 0 ⟨#[]⟩) (zeroP _) ?_
                intro wB gB hgB
                have hrB : wr.grownBy wB none := gt hrA hgB
                refine hK.out _ _ (hcell.out _ hrB) (fun hHeld => ?_)
                clear hK K
                try simp only [List.getElem_toArray, List.getElem_cons_zero, List.getElem_cons_succ, Act.put, List.setIfInBounds_toArray, List.set_cons_zero, List.set_cons_succ]
                refine wpAnyH_ready (rs := [8]) (by kernel_rfl) (by simp) ?_
                refine AllReadyH.cons rfl (fun K hK => ?_) AllReadyH.nil
                refine step_storeC (by rfl) 35 _ _ (by rfl) _ (pZ 0 ⟨#[]⟩) (pM 11 ⟨#[]⟩ 0) infoP rfl (pC_one _ _ _ _ _ _) (by simp [Act.eval]) (by simp [Act.eval]) gB ?_
                intro wF gF hgF
                have hrF : wr.grownBy wF none := grownBy_new hrB hgF (fun k hk => by have h5 := Option.some.inj hk; have h6 := hrA.size; (try simp at h5); omega)
                refine hK.out _ _ (hcell.out _ hrF) (fun hHeld => ?_)
                clear hK K
                try simp only [List.getElem_toArray, List.getElem_cons_zero, List.getElem_cons_succ, Act.put, List.setIfInBounds_toArray, List.set_cons_zero, List.set_cons_succ]
                refine wpAnyH_done (by kernel_rfl) ?_ _
                go_wp2_with fail
                go_meet
                exact ⟨_, rfl, Hid.mk' gF, Hid.mk' hrF⟩
              · refine step_allocC (by rfl) 35 (by rfl) (pZ 0 ⟨#[]⟩) (zeroP _) ?_
                intro wB gB hgB
                have hrB : wr.grownBy wB none := gt hD hgB
                refine hK.out _ _ (hcell.out _ hrB) (fun hHeld => ?_)
                clear hK K
                try simp only [List.getElem_toArray, List.getElem_cons_zero, List.getElem_cons_succ, Act.put, List.setIfInBounds_toArray, List.set_cons_zero, List.set_cons_succ]
                refine wpAnyH_ready (rs := [6]) (by kernel_rfl) (by simp) ?_
                refine AllReadyH.cons rfl (fun K hK => ?_) AllReadyH.nil
                go_simp
                refine (aSz.out wB (K0.out _ _ hqr.out hrB)).mono ?_
                rintro e wA ⟨rfl, hgc⟩
                try dsimp only
                have hrA : wr.grownBy wA none := gt hrB hgc
                refine hK.out _ _ (hcell.out _ hrA) (fun hHeld => ?_)
                clear hK K
                try simp only [List.getElem_toArray, List.getElem_cons_zero, List.getElem_cons_succ, Act.put, List.setIfInBounds_toArray, List.set_cons_zero, List.set_cons_succ]
                refine wpAnyH_ready (rs := [8]) (by kernel_rfl) (by simp) ?_
                refine AllReadyH.cons rfl (fun K hK => ?_) AllReadyH.nil
                refine step_storeC (by rfl) 35 _ _ (by rfl) _ (pZ 0 ⟨#[]⟩) (pM 11 ⟨#[]⟩ 0) infoP rfl (pC_one _ _ _ _ _ _) (by simp [Act.eval]) (by simp [Act.eval]) (gB.kept0 hgc) ?_
                intro wF gF hgF
                have hrF : wr.grownBy wF none := grownBy_new hrA hgF (fun k hk => by have h5 := Option.some.inj hk; have h6 := hD.size; (try simp at h5); omega)
                refine hK.out _ _ (hcell.out _ hrF) (fun hHeld => ?_)
                clear hK K
                try simp only [List.getElem_toArray, List.getElem_cons_zero, List.getElem_cons_succ, Act.put, List.setIfInBounds_toArray, List.set_cons_zero, List.set_cons_succ]
                refine wpAnyH_done (by kernel_rfl) ?_ _
                go_wp2_with fail
                go_meet
                exact ⟨_, rfl, Hid.mk' gF, Hid.mk' hrF⟩
            case rest =>
              obtain ⟨PB, rfl, hPB, hgr⟩ := hcut
              rename_i w4
              have b4 := Hid.mk' (hb.out.next hgr.out)
              clear hcell hD hqr K0 aSz
              have y0 := hPB.out.cell 0 (v := .int .i64 11) rfl
              go_wp2
              go_roundw
              case rel => exact ⟨i + 1, S, m, s, by omega, by omega, by go_num, rfl, by omega, hm, hs, hm0, hgd, b4⟩
              case measure => simp [intOf]; omega
        · obtain rfl : i = 100 := by omega
          go_wp2
          go_meet
          exact ⟨S, m, s, rfl, by omega, hm, hs, hgd, hb⟩
      · obtain rfl : i = len := by omega
        go_wp2
        go_meet
        exact ⟨S, m, s, rfl, by omega, hm, hs, hgd, hb⟩
  case rest =>
    obtain ⟨S, m, s, rfl, hsz, hm, hs, hgd, hb⟩ := hcut
    have hss : s.size = (txt S).length := by rw [hs.out, str_size]
    obtain ⟨r, hr0, hrl⟩ := mod_fit at_ (s.size + 1) (by omega) (by omega)
    have hr : wrap64 ((IntKind.u64.wrap at_).tmod ((s.size : Int) + 1)) = (r : Int) := by simpa using hr0
    clear hr0
    have hex : s.extract 0 r = str ((txt S).take r) := by rw [hs.out]; exact str_take _ _ (by omega)
    have hexs : (s.extract 0 r).size = r := by rw [hex, str_size, List.length_take]; omega
    have hext : (s.extract 0 r).toList = (txt S).take r := by rw [hex, str_toList]
    obtain ⟨cc, w6, gg, hcv, hB6, hg6, hcc, hcx, hlt5⟩ := conv_bw hb.out (s.extract 0 r) (by omega)
    rw [hexs] at hcv hcc
    rw [hext] at hB6
    have b6 := Hid.mk' (hb.out.next hg6)
    have hlt5 := Hid.mk' hlt5
    have hlr : Hid (((txt S).take r).length = r) := Hid.mk' (by rw [List.length_take]; omega)
    clear hex hext hexs hg6 hs aS hss
    obtain ⟨x, hx⟩ : ∃ x, Hid (s.extract 0 r = x) := ⟨_, Hid.mk' rfl⟩
    rw [hx.out] at hcv
    have hx2 := hx.out
    have u1 : IntKind.u64.wrap ((s.size : Int) + 1) = (s.size : Int) + 1 := by rw [IntKind.wrap_u64]; omega
    have u2 : ¬ ((s.size : Int) + 1 = 0) := by omega
    have u3 : (r : Int) ≤ (s.size : Int) := by omega
    have u4 : (0 : Int) ≤ (r : Int) := by omega
    go_upto_region 15 with fail
    have B60 := Hid.mk' hB6
    clear hcv hB6 hr u1 u2 hx2
    go_upto_block 2 with (refine wpList_storeC _ rfl 24 _ _ rfl SB (sC (m : Int) 0 0 0) (sC 0 0 0 0) infoS rfl (sC_one _ _ _ _) rfl rfl b6.out.st ?_; intro w7 s7 hg7)
    have b7 := Hid.mk' (b6.out.put (m' := 0) s7 hg7)
    have B7 := Hid.mk' (B60.out.kept hg7 (.inr (by intro e; have h5 := Option.some.inj e; have h6 := hlt5.out; simp only at h5; omega)))
    clear s7 hg7 b6 B60 hb
    go_wp2
    try simp only [Act.put]
    go_loopw [12] (fun t12 wx => ∃ (B : List UInt8) (T : List Stp) (m n bc : Nat) (bo : Option Addr), t12 = .slice bo n bc ∧ n ≤ bc ∧ bc ≤ 9223372036854775807 ∧ m < 3 ∧ Hid (B.length = n) ∧ Hid (Bytes wx bo B) ∧ Hid (blk bo ≠ some SB) ∧ Hid (∃ j, B = (txt T).take j) ∧ Hid (Ok 83 m T) ∧ Hid (BW w SB none 0 [] m wx)) (fun t12 _ => lnOf t12)
    case atStart => exact ⟨(txt S).take r, S, 0, r, cc, _, rfl, hcc, hcx, by omega, hlr, B7, Hid.mk' (by intro e; have h5 := Option.some.inj e; have h6 := hlt5.out; simp only at h5; omega), Hid.mk' ⟨r, rfl⟩, hgd, b7⟩
    case round =>
      obtain ⟨B, T, m, n, bc, bo, rfl, hn1, hn2, hm, hBl, hBy, hbk, hj, hok, hb⟩ := hrel
      clear B7 b7 hlr hgd
      by_cases hn0 : n = 0
      · subst hn0
        go_wp2
        go_ret
        exact ⟨rfl, hb.out.g⟩
      · have hne0 : B ≠ [] := by intro e; have := hBl.out; rw [e] at this; simp at this; omega
        have hpos : (0 : Int) < (n : Int) := by omega
        rcases cut_ways hm hok.out hj.out hne0 with ⟨c, B', kk, ka, m', T', hBe, hk1, hga, hm', hok', hj'⟩ | ⟨hga, hn4⟩
        · have aGz := Hid.mk' (aG.out m hm _ _ _ _ _ _ hga)
          have hok' := Hid.mk' hok'
          have hj' := Hid.mk' hj'
          obtain ⟨k, hk⟩ : ∃ k, c.length = k := ⟨_, rfl⟩
          have hln : n = k + B'.length := by rw [← hBl.out, hBe, List.length_append, hk]
          have hBl' : Hid (B'.length = n - k) := Hid.mk' (by omega)
          have hdrop : Hid (B.drop k = B') := Hid.mk' (by rw [hBe, ← hk, List.drop_left])
          rw [hk] at hk1 aGz
          have hkn : k ≤ n := by omega
          obtain ⟨b0, B0', hBc⟩ : ∃ b0 B0', B = b0 :: B0' := by cases B with | nil => exact absurd rfl hne0 | cons x y => exact ⟨x, y, rfl⟩
          obtain ⟨g, o, rfl, hy0⟩ := first_cell (by have := hBy.out; rwa [hBc] at this)
          clear hy0 hBc hga hBe hk hln hne0 hok hj
          have e1 : ¬ (k : Int) < 1 := by omega
          have e2 : ¬ (n : Int) < (k : Int) := by omega
          have e3 : (0 : Int) ≤ (k : Int) := by omega
          have e4 : (k : Int) ≤ (n : Int) := by omega
          have e5 : (n : Int) ≤ (bc : Int) := by omega
          have hqr := Hid.mk' (K.out _ _ hq.out hb.out.g)
          go_upto_region 18 with (first
            | (refine wpList_loadC _ rfl 24 _ rfl _ Try.underlying24 rfl SB (sC (m : Int) 0 0 0) infoS rfl hb.out.st ?_)
            | (go_at_call 8; refine (aGz.out n hBl.out _ bc wr hBy.out hn1 hn2 hqr.out).mono ?_; rintro e wA ⟨rfl, hgA⟩)
            | (refine wpList_allocC _ rfl 28 rfl (gZ 0 0 0 0) (zeroG _) ?_; intro wB gB hgB)
            | (refine wpList_storeC _ rfl 28 _ _ rfl _ (gZ 0 0 0 0) (gM 0 (k : Int) kk ka (m' : Int)) infoG rfl (gC_one _ _ _ _ _ _ _ _ _) rfl rfl gB ?_; intro w4 g4 hg4))
          have hr4 : Hid (wr.grownBy w4 none) := Hid.mk' (grownBy_new (gt hgA hgB) hg4 (fun k hk => by have h5 := Option.some.inj hk; have h6 := hgA.size; omega))
          have b4 := Hid.mk' (hb.out.next hr4.out)
          have g40 := Hid.mk' g4
          clear hgA hgB hg4 gB aGz hqr g4
          generalize wA.heap.size = GB at *
          by_cases hqk : bc = k
          · subst hqk
            obtain rfl : n = bc := by omega
            have hB0 : Hid (B' = []) := Hid.mk' (by have := hBl'.out; rw [Nat.sub_self] at this; exact List.length_eq_zero_iff.1 this)
            have c0 := g40.out.cell 0 (v := .int .i64 0) rfl
            have c1 := g40.out.cell 1 (v := .int .i64 (n : Int)) rfl
            go_upto_region 22 with fail
            clear c0 c1
            have hD4 : w4.grownBy w4.drew none := gd (grownBy_refl w4 none)
            have hcl : Hid (∀ wx, CA wx GB 28 (gM 0 (n : Int) kk ka (m' : Int)) → (fun w' => w'.cell? ⟨GB, 1, none⟩ = some (.int .i64 (n : Int)) ∧ w'.cell? ⟨GB, 5, none⟩ = some (.int .i64 (m' : Int)) ∧ w'.cell? ⟨GB, 6, none⟩ = some (.int .i64 0) ∧ w'.cell? ⟨GB, 7, none⟩ = some (.int .u32 0) ∧ w'.cell? ⟨GB, 8, none⟩ = some (.int .i32 0)) wx) := Hid.mk' (fun wx hp => ⟨hp.cell 1 rfl, hp.cell 5 rfl, hp.cell 6 rfl, hp.cell 7 rfl, hp.cell 8 rfl⟩)
            have hne : Hid (some GB ≠ some SB) := Hid.mk' (by intro e; have h5 := Option.some.inj e; have := b4.out.st.ne g40.out (by decide); omega)
            refine wp_region_held_drew (S := fun w' => w'.cell? ⟨GB, 1, none⟩ = some (.int .i64 (n : Int)) ∧ w'.cell? ⟨GB, 5, none⟩ = some (.int .i64 (m' : Int)) ∧ w'.cell? ⟨GB, 6, none⟩ = some (.int .i64 0) ∧ w'.cell? ⟨GB, 7, none⟩ = some (.int .u32 0) ∧ w'.cell? ⟨GB, 8, none⟩ = some (.int .i32 0)) (by kernel_rfl) (hcl.out _ (g40.out.kept0 hD4)) (fun hHeld => ?_)
            refine wpAnyH_take (i := 0) (v := ?_) rfl (by kernel_rfl) (by kernel_rfl) (by kernel_rfl) (fun _ _ _ h => h) (Or.inl ⟨by rfl, ?_⟩) (by assumption) ?_; rotate_left
            · (intro w hSw; (try dsimp only at hSw); go_simp; try with_reducible rfl)
            try simp only [List.getElem_toArray, List.getElem_cons_zero, Act.put, List.setIfInBounds_toArray, List.set_cons_zero, List.set_cons_succ]
            refine wpAnyH_take (i := 1) (v := ?_) rfl (by kernel_rfl) (by kernel_rfl) (by kernel_rfl) (fun _ _ _ h => h) (Or.inl ⟨by rfl, ?_⟩) (by assumption) ?_; rotate_left
            · (intro w hSw; (try dsimp only at hSw); go_simp; try with_reducible rfl)
            try simp only [List.getElem_toArray, List.getElem_cons_zero, List.getElem_cons_succ, Act.put, List.setIfInBounds_toArray, List.set_cons_zero, List.set_cons_succ]
            refine wpAnyH_take (i := 2) (v := ?_) rfl (by kernel_rfl) (by kernel_rfl) (by kernel_rfl) (fun _ _ _ h => h) (Or.inl ⟨by rfl, ?_⟩) (by assumption) ?_; rotate_left
            · (intro w hSw; (try dsimp only at hSw); go_simp; try with_reducible rfl)
            try simp only [List.getElem_toArray, List.getElem_cons_zero, List.getElem_cons_succ, Act.put, List.setIfInBounds_toArray, List.set_cons_zero, List.set_cons_succ]
            refine wpAnyH_take (i := 3) (v := ?_) rfl (by kernel_rfl) (by kernel_rfl) (by kernel_rfl) (fun _ _ _ h => h) (Or.inl ⟨by rfl, ?_⟩) (by assumption) ?_; rotate_left
            · (intro w hSw; (try dsimp only at hSw); go_simp; try with_reducible rfl)
            try simp only [List.getElem_toArray, List.getElem_cons_zero, List.getElem_cons_succ, Act.put, List.setIfInBounds_toArray, List.set_cons_zero, List.set_cons_succ]
            refine wpAnyH_take (i := 4) (v := ?_) rfl (by kernel_rfl) (by kernel_rfl) (by kernel_rfl) (fun _ _ _ h => h) (Or.inl ⟨by rfl, ?_⟩) (by assumption) ?_; rotate_left
            · (intro w hSw; (try dsimp only at hSw); go_simp; try with_reducible rfl)
            try simp only [List.getElem_toArray, List.getElem_cons_zero, List.getElem_cons_succ, Act.put, List.setIfInBounds_toArray, List.set_cons_zero, List.set_cons_succ]
            refine wpAnyH_take (i := 5) (v := ?_) rfl (by kernel_rfl) (by kernel_rfl) (by kernel_rfl) (fun _ _ _ h => h) (Or.inl ⟨by rfl, ?_⟩) (by assumption) ?_; rotate_left
            · (intro w hSw; (try dsimp only at hSw); go_simp; try with_reducible rfl)
            try simp only [List.getElem_toArray, List.getElem_cons_zero, List.getElem_cons_succ, Act.put, List.setIfInBounds_toArray, List.set_cons_zero, List.set_cons_succ]
            refine wpAnyH_take (i := 6) (v := ?_) rfl (by kernel_rfl) (by kernel_rfl) (by kernel_rfl) (fun _ _ _ h => h) (Or.inl ⟨by rfl, ?_⟩) (by assumption) ?_; rotate_left
            · (intro w hSw; (try dsimp only at hSw); go_simp; try with_reducible rfl)
            try simp only [List.getElem_toArray, List.getElem_cons_zero, List.getElem_cons_succ, Act.put, List.setIfInBounds_toArray, List.set_cons_zero, List.set_cons_succ]
            refine wpAnyH_ready (rs := [7]) (by kernel_rfl) (by simp) ?_
            refine AllReadyH.cons rfl (fun K hK => ?_) AllReadyH.nil
            refine step_storeC (by rfl) 24 _ _ (by rfl) SB (sC (m : Int) 0 0 0) (sC (m' : Int) 0 0 0) infoS rfl (sC_one _ _ _ _) (by simp [Act.eval]) (by simp [Act.eval]) (b4.out.st.kept0 hD4) ?_
            intro wF sF hgF
            have bF := Hid.mk' ((b4.out.next hD4).put sF hgF)
            have hByF := Hid.mk' (((hBy.out.kept0 hr4.out).kept0 hD4).kept hgF (.inr hbk.out))
            refine hK.out _ _ (hcl.out _ ((g40.out.kept0 hD4).kept hgF hne.out)) (fun hHeld => ?_)
            clear hK K
            try simp only [List.getElem_toArray, List.getElem_cons_zero, List.getElem_cons_succ, Act.put, List.setIfInBounds_toArray, List.set_cons_zero, List.set_cons_succ]
            refine wpAnyH_done (by kernel_rfl) ?_ _
            go_wp2_with fail
            go_roundw
            case rel => exact ⟨B', T', m', 0, 0, some ⟨g, o, none⟩, by first | rfl | simp | (simp; omega), by omega, by omega, hm', Hid.mk' (by have := hBl'.out; omega), Hid.mk' (by rw [hB0.out]; exact bytes_none), hbk, hj', hok', bF⟩
            case measure => simp [lnOf]; omega
          · have c0 := g40.out.cell 0 (v := .int .i64 0) rfl
            have c1 := g40.out.cell 1 (v := .int .i64 (k : Int)) rfl
            go_upto_region 22 with fail
            clear c0 c1
            have hD4 : w4.grownBy w4.drew none := gd (grownBy_refl w4 none)
            have hcl : Hid (∀ wx, CA wx GB 28 (gM 0 (k : Int) kk ka (m' : Int)) → (fun w' => w'.cell? ⟨GB, 1, none⟩ = some (.int .i64 (k : Int)) ∧ w'.cell? ⟨GB, 5, none⟩ = some (.int .i64 (m' : Int)) ∧ w'.cell? ⟨GB, 6, none⟩ = some (.int .i64 0) ∧ w'.cell? ⟨GB, 7, none⟩ = some (.int .u32 0) ∧ w'.cell? ⟨GB, 8, none⟩ = some (.int .i32 0)) wx) := Hid.mk' (fun wx hp => ⟨hp.cell 1 rfl, hp.cell 5 rfl, hp.cell 6 rfl, hp.cell 7 rfl, hp.cell 8 rfl⟩)
            have hne : Hid (some GB ≠ some SB) := Hid.mk' (by intro e; have h5 := Option.some.inj e; have := b4.out.st.ne g40.out (by decide); omega)
            refine wp_region_held_drew (S := fun w' => w'.cell? ⟨GB, 1, none⟩ = some (.int .i64 (k : Int)) ∧ w'.cell? ⟨GB, 5, none⟩ = some (.int .i64 (m' : Int)) ∧ w'.cell? ⟨GB, 6, none⟩ = some (.int .i64 0) ∧ w'.cell? ⟨GB, 7, none⟩ = some (.int .u32 0) ∧ w'.cell? ⟨GB, 8, none⟩ = some (.int .i32 0)) (by kernel_rfl) (hcl.out _ (g40.out.kept0 hD4)) (fun hHeld => ?_)
            refine wpAnyH_take (i := 0) (v := ?_) rfl (by kernel_rfl) (by kernel_rfl) (by kernel_rfl) (fun _ _ _ h => h) (Or.inl ⟨by rfl, ?_⟩) (by assumption) ?_; rotate_left
            · (intro w hSw; (try dsimp only at hSw); go_simp; try with_reducible rfl)
            try simp only [List.getElem_toArray, List.getElem_cons_zero, Act.put, List.setIfInBounds_toArray, List.set_cons_zero, List.set_cons_succ]
            refine wpAnyH_take (i := 1) (v := ?_) rfl (by kernel_rfl) (by kernel_rfl) (by kernel_rfl) (fun _ _ _ h => h) (Or.inl ⟨by rfl, ?_⟩) (by assumption) ?_; rotate_left
            · (intro w hSw; (try dsimp only at hSw); go_simp; try with_reducible rfl)
            try simp only [List.getElem_toArray, List.getElem_cons_zero, List.getElem_cons_succ, Act.put, List.setIfInBounds_toArray, List.set_cons_zero, List.set_cons_succ]
            refine wpAnyH_take (i := 2) (v := ?_) rfl (by kernel_rfl) (by kernel_rfl) (by kernel_rfl) (fun _ _ _ h => h) (Or.inl ⟨by rfl, ?_⟩) (by assumption) ?_; rotate_left
            · (intro w hSw; (try dsimp only at hSw); go_simp; try with_reducible rfl)
            try simp only [List.getElem_toArray, List.getElem_cons_zero, List.getElem_cons_succ, Act.put, List.setIfInBounds_toArray, List.set_cons_zero, List.set_cons_succ]
            refine wpAnyH_take (i := 3) (v := ?_) rfl (by kernel_rfl) (by kernel_rfl) (by kernel_rfl) (fun _ _ _ h => h) (Or.inl ⟨by rfl, ?_⟩) (by assumption) ?_; rotate_left
            · (intro w hSw; (try dsimp only at hSw); go_simp; try with_reducible rfl)
            try simp only [List.getElem_toArray, List.getElem_cons_zero, List.getElem_cons_succ, Act.put, List.setIfInBounds_toArray, List.set_cons_zero, List.set_cons_succ]
            refine wpAnyH_take (i := 4) (v := ?_) rfl (by kernel_rfl) (by kernel_rfl) (by kernel_rfl) (fun _ _ _ h => h) (Or.inl ⟨by rfl, ?_⟩) (by assumption) ?_; rotate_left
            · (intro w hSw; (try dsimp only at hSw); go_simp; try with_reducible rfl)
            try simp only [List.getElem_toArray, List.getElem_cons_zero, List.getElem_cons_succ, Act.put, List.setIfInBounds_toArray, List.set_cons_zero, List.set_cons_succ]
            refine wpAnyH_take (i := 5) (v := ?_) rfl (by kernel_rfl) (by kernel_rfl) (by kernel_rfl) (fun _ _ _ h => h) (Or.inl ⟨by rfl, ?_⟩) (by assumption) ?_; rotate_left
            · (intro w hSw; (try dsimp only at hSw); go_simp; try with_reducible rfl)
            try simp only [List.getElem_toArray, List.getElem_cons_zero, List.getElem_cons_succ, Act.put, List.setIfInBounds_toArray, List.set_cons_zero, List.set_cons_succ]
            refine wpAnyH_take (i := 6) (v := ?_) rfl (by kernel_rfl) (by kernel_rfl) (by kernel_rfl) (fun _ _ _ h => h) (Or.inl ⟨by rfl, ?_⟩) (by assumption) ?_; rotate_left
            · (intro w hSw; (try dsimp only at hSw); go_simp; try with_reducible rfl)
            try simp only [List.getElem_toArray, List.getElem_cons_zero, List.getElem_cons_succ, Act.put, List.setIfInBounds_toArray, List.set_cons_zero, List.set_cons_succ]
            refine wpAnyH_ready (rs := [7]) (by kernel_rfl) (by simp) ?_
            refine AllReadyH.cons rfl (fun K hK => ?_) AllReadyH.nil
            refine step_storeC (by rfl) 24 _ _ (by rfl) SB (sC (m : Int) 0 0 0) (sC (m' : Int) 0 0 0) infoS rfl (sC_one _ _ _ _) (by simp [Act.eval]) (by simp [Act.eval]) (b4.out.st.kept0 hD4) ?_
            intro wF sF hgF
            have bF := Hid.mk' ((b4.out.next hD4).put sF hgF)
            have hByF := Hid.mk' (((hBy.out.kept0 hr4.out).kept0 hD4).kept hgF (.inr hbk.out))
            refine hK.out _ _ (hcl.out _ ((g40.out.kept0 hD4).kept hgF hne.out)) (fun hHeld => ?_)
            clear hK K
            try simp only [List.getElem_toArray, List.getElem_cons_zero, List.getElem_cons_succ, Act.put, List.setIfInBounds_toArray, List.set_cons_zero, List.set_cons_succ]
            refine wpAnyH_done (by kernel_rfl) ?_ _
            go_wp2_with fail
            go_roundw
            case rel =>
              refine ⟨B', T', m', n - k, bc - k, some ⟨g, o + k, none⟩, by first | rfl | simp | (simp; omega), by omega, by omega, hm', hBl', Hid.mk' ?_, hbk, hj', hok', bF⟩
              have h3 := hByF.out.drop k bc (by rw [hBl.out]; exact hn1)
              rw [if_neg hqk, hdrop.out] at h3
              have h4 : Bytes wF (some ((⟨g, o, none⟩ : Addr).add k)) B' := h3
              rw [addr_add] at h4
              exact h4
            case measure => simp [lnOf]; omega
        · have aGz := Hid.mk' (aG.out m hm _ _ _ _ _ _ hga)
          have hn4' : (n : Int) < 4 := by rw [hBl.out] at hn4; omega
          clear hga hn4 hne0 hok hj
          have hqr := Hid.mk' (K.out _ _ hq.out hb.out.g)
          go_upto_region 18 with (first
            | (refine wpList_loadC _ rfl 24 _ rfl _ Try.underlying24 rfl SB (sC (m : Int) 0 0 0) infoS rfl hb.out.st ?_)
            | (go_at_call 8; refine (aGz.out n hBl.out _ bc wr hBy.out hn1 hn2 hqr.out).mono ?_; rintro e wA ⟨rfl, hgA⟩)
            | (refine wpList_allocC _ rfl 28 rfl (gZ 0 0 0 0) (zeroG _) ?_; intro wB gB hgB)
            | (refine wpList_storeC _ rfl 28 _ _ rfl _ (gZ 0 0 0 0) (gM 1 0 0 0 0) infoG rfl (gC_one _ _ _ _ _ _ _ _ _) rfl rfl gB ?_; intro w4 g4 hg4))
          have hr4 : Hid (wr.grownBy w4 none) := Hid.mk' (grownBy_new (gt hgA hgB) hg4 (fun k hk => by have h5 := Option.some.inj hk; have h6 := hgA.size; omega))
          have b4 := Hid.mk' (hb.out.next hr4.out)
          have g40 := Hid.mk' g4
          clear hgA hgB hg4 gB aGz hqr g4
          generalize wA.heap.size = GB at *
          have c0 := g40.out.cell 0 (v := .int .i64 1) rfl
          go_wp2
          go_ret
          exact ⟨rfl, b4.out.g⟩
end Go.Proofs.Ytdobjijebalkkaa.C21

/- Iso2022Cuts, KR: the walk. -/
namespace Go.Proofs.Ytdobjijebalkkaa.C21
open Go.ChangeShapes Go.WideShapes Go.ChangeAt Go.RowKit Go.Proofs.Ytdobjijebalkkaa.Mem Go.Proofs.Ytdobjijebalkkaa.Cb Go.Proofs.Ytdobjijebalkkaa.Sp Go.Proofs.Ytdobjijebalkkaa.El Go.Proofs.Ytdobjijebalkkaa.Ru
set_option linter.unusedVariables false
set_option linter.unusedSimpArgs false

set_option maxRecDepth 100000 in
set_option maxHeartbeats 4000000 in
theorem cuts_k {P : World → Prop} (C : Con P) (ao : Option Addr) (cap : Nat) (L : List Int) (len : Nat) (hlen : L.length = len) (at_ : Int) (w : World) (hw : P w) (hR : RuE.Rd w ao L) (hI : ∀ u ∈ L, I32 u) (hLc : len ≤ cap) (hcm : cap ≤ 140737488351232) :
    Calls Try.prog 6 #[.bool true, .slice ao len cap, .int .i64 at_] w fun e w' => e = .returned (.bool true) ∧ w.grownBy w' none := by
  have a0 := Hid.mk' (fun w hw => works_any C w hw)
  have aS := Hid.mk' (fun (m : Nat) (hm : m < 3) (u : Int) (hu : I32 u) (e : Int) (bs : List UInt8) (d : Int) (hS : sE 88 m u = (e, bs, d)) => (C.put 88 (by unfold I64; omega) (m : Int) 0 0 0 m (mo_is m hm) u hu e bs d hS).out)
  have aG := Hid.mk' (fun (m : Nat) (hm : m < 3) (L : List UInt8) (e n k a d : Int) (hG : gE 88 m L = (e, n, k, a, d)) => (C.got 88 (by unfold I64; omega) (m : Int) 0 0 0 m (mo_is m hm) L _ _ _ _ _ hG).out)
  have K := Hid.mk' (fun (a b : World) (h : P a) (g : a.grownBy b none) => C.keep h g)
  have hq := Hid.mk' hw
  have hR0 := Hid.mk' hR
  have hI0 := Hid.mk' hI
  have hl0 := Hid.mk' hlen
  clear hw C hR hI hlen
  go_enter Try.func6, Try.ntmps6
  go_upto_region 7 with (first
    | (go_at_call 16; refine (a0.out _ hq.out).mono ?_; rintro e w1 ⟨rfl, hg1, hp1⟩)
    | (refine wpList_allocC _ rfl 24 rfl (sC 0 0 0 0) (zeroS _) ?_; intro w2 s2 hg2)
    | (refine wpList_storeC _ rfl 24 _ _ rfl _ (sC 0 0 0 0) (sC 0 0 0 0) infoS rfl (sC_one _ _ _ _) rfl rfl s2 ?_; intro w3 s3 hg3))
  have hb3 : Hid (BW w w1.heap.size none 0 [] 0 w3) := Hid.mk' ⟨.inl ⟨rfl, rfl, rfl⟩, s3, grownBy_new (gt hg1 hg2) hg3 (fun k hk => by have h5 := Option.some.inj hk; have h6 := hg1.size; omega), (by intro g e; cases e), hg1.size⟩
  clear hg1 hp1 a0 hg2 hg3 s2 s3
  generalize w1.heap.size = SB at *
  go_upto_block 0 with (fail)
  go_cut [9, 10, 11] from 18 to 43 (fun t9 t10 t11 wx => ∃ (S : List Stp) (m : Nat) (s : ByteArray), t9 = .string s ∧ s.size ≤ 700 ∧ m < 3 ∧ Hid (s = str (txt S)) ∧ Hid (Ok 88 0 S) ∧ Hid (BW w SB none 0 [] m wx))
  case first =>
    go_wp2
    go_loopw [9, 10] (fun t9 t10 wx => ∃ (i : Nat) (S : List Stp) (m : Nat) (s : ByteArray), i ≤ 100 ∧ i ≤ len ∧ t10 = .int .i64 (i : Int) ∧ t9 = .string s ∧ s.size ≤ 7 * i ∧ m < 3 ∧ Hid (s = str (txt S)) ∧ Hid (lastM 0 S = m) ∧ Hid (Ok 88 0 S) ∧ Hid (BW w SB none 0 [] m wx)) (fun _ t10 _ => 100 - (intOf t10).toNat)
    case atStart => exact ⟨0, [], 0, ⟨#[]⟩, by omega, by omega, rfl, rfl, by simp [ByteArray.size], by omega, Hid.mk' rfl, Hid.mk' rfl, Hid.mk' (ok_nil _ _), hb3⟩
    case round =>
      obtain ⟨i, S, m, s, hi, hil, rfl, rfl, hsz, hm, hs, hm0, hgd, hb⟩ := hrel
      by_cases hlt : i < len
      · have hlt' : (i : Int) < (len : Int) := by omega
        by_cases hlt2 : i < 100
        · have hlt2' : (i : Int) < 100 := by omega
          have hiL : i < L.length := by rw [hl0.out]; exact hlt
          obtain ⟨b, o, rfl, hbw, x0⟩ := rucell hR0.out hiL
          have hzI : Hid (I32 L[i]) := Hid.mk' (hI0.out _ (List.getElem_mem hiL))
          generalize L[i] = z at x0 hzI
          have hx : Hid (∀ wx, w.grownBy wx none → wx.cell? ⟨b, o + i, none⟩ = some (.int .i32 z)) := Hid.mk' (fun wx hg => byte_kept x0 hbw hg)
          have hi0 : (0 : Int) ≤ (i : Int) := by omega
          have hqr := Hid.mk' (K.out _ _ hq.out hb.out.g)
          have hD : wr.grownBy wr.drew none := gd (grownBy_refl wr none)
          have K0 := K
          have hcell : Hid (∀ wx, wr.grownBy wx none → (fun w' => w'.cell? ⟨SB, 0, none⟩ = some (.int .i64 (m : Int)) ∧ w'.cell? ⟨SB, 1, none⟩ = some (.int .i64 0) ∧ w'.cell? ⟨SB, 2, none⟩ = some (.int .u32 0) ∧ w'.cell? ⟨SB, 3, none⟩ = some (.int .i32 0) ∧ w'.cell? ⟨b, o + i, none⟩ = some (.int .i32 z)) wx) := Hid.mk' (fun wx hg => ⟨(hb.out.st.kept0 hg).cell 0 rfl, (hb.out.st.kept0 hg).cell 1 rfl, (hb.out.st.kept0 hg).cell 2 rfl, (hb.out.st.kept0 hg).cell 3 rfl, hx.out _ (gt hb.out.g hg)⟩)
          clear x0 hbw
          rcases set_err (k := 88) (u := z) rfl hm with ⟨bs, md, hse⟩ | hse
          · have aSz := Hid.mk' (aS.out m hm z hzI.out _ _ _ hse)
            obtain ⟨S1, m1, rfl, hm1, hgd1, htx1, htl1, hlm1, hbl1, hbl0⟩ := set_good (k := 88) rfl hm hse
            have hbsz : (str bs).size = bs.length := str_size _
            obtain ⟨sB, hsB⟩ : ∃ sB, Hid (str bs = sB) := ⟨_, Hid.mk' rfl⟩
            rw [hsB.out] at aSz hbsz
            obtain ⟨s', hs'⟩ : ∃ s', s ++ sB = s' := ⟨_, rfl⟩
            have hs1 : Hid (s' = str (txt (S ++ S1))) := Hid.mk' (by rw [← hs', hs.out, ← hsB.out, str_app, txt_app, htx1])
            have hm01 : Hid (lastM 0 (S ++ S1) = m1) := Hid.mk' (by rw [lastM_app, hm0.out, hlm1])
            have hgd11 : Hid (Ok 88 0 (S ++ S1)) := Hid.mk' (ok_app hgd.out (by rw [hm0.out]; exact hgd1))
            have hsz1 : s'.size ≤ 7 * (i + 1) := by rw [← hs', ByteArray.size_append]; omega
            have hsz10 := Hid.mk' hsz1
            have hadd : ¬ 9223372036854775807 < s.size + sB.size := by omega
            clear hse hgd1 htx1 htl1 hlm1 hsz1 hbsz
            go_upto_region 11 with fail
            go_cut [11] from 18 to 43 (fun t11 wx => ∃ PB, t11 = .pointer (some ⟨PB, 0, none⟩) ∧ Hid (CA wx PB 35 (pM 0 sB (m1 : Int))) ∧ Hid (wr.grownBy wx none))
            case first =>
              refine wp_region_held_drew (S := fun w' => w'.cell? ⟨SB, 0, none⟩ = some (.int .i64 (m : Int)) ∧ w'.cell? ⟨SB, 1, none⟩ = some (.int .i64 0) ∧ w'.cell? ⟨SB, 2, none⟩ = some (.int .u32 0) ∧ w'.cell? ⟨SB, 3, none⟩ = some (.int .i32 0) ∧ w'.cell? ⟨b, o + i, none⟩ = some (.int .i32 z)) (by kernel_rfl) (hcell.out _ hD) (fun hHeld => ?_)
              refine wpAnyH_take (i := 0) (v := ?_) rfl (by kernel_rfl) (by kernel_rfl) (by kernel_rfl) (fun _ _ _ h => h) (Or.inl ⟨by rfl, ?_⟩) (by assumption) ?_; rotate_left
              · (intro w hSw; (try dsimp only at hSw); go_simp; try with_reducible rfl)
              try simp only [List.getElem_toArray, List.getElem_cons_zero, Act.put, List.setIfInBounds_toArray, List.set_cons_zero, List.set_cons_succ]
              refine wpAnyH_take (i := 1) (v := ?_) rfl (by kernel_rfl) (by kernel_rfl) (by kernel_rfl) (fun _ _ _ h => h) (Or.inl ⟨by rfl, ?_⟩) (by assumption) ?_; rotate_left
              · (intro w hSw; (try dsimp only at hSw); go_simp; try with_reducible rfl)
              try simp only [List.getElem_toArray, List.getElem_cons_zero, List.getElem_cons_succ, Act.put, List.setIfInBounds_toArray, List.set_cons_zero, List.set_cons_succ]
              refine wpAnyH_take (i := 2) (v := ?_) rfl (by kernel_rfl) (by kernel_rfl) (by kernel_rfl) (fun _ _ _ h => h) (Or.inl ⟨by rfl, ?_⟩) (by assumption) ?_; rotate_left
              · (intro w hSw; (try dsimp only at hSw); go_simp; try with_reducible rfl)
              try simp only [List.getElem_toArray, List.getElem_cons_zero, List.getElem_cons_succ, Act.put, List.setIfInBounds_toArray, List.set_cons_zero, List.set_cons_succ]
              refine wpAnyH_take (i := 3) (v := ?_) rfl (by kernel_rfl) (by kernel_rfl) (by kernel_rfl) (fun _ _ _ h => h) (Or.inl ⟨by rfl, ?_⟩) (by assumption) ?_; rotate_left
              · (intro w hSw; (try dsimp only at hSw); go_simp; try with_reducible rfl)
              try simp only [List.getElem_toArray, List.getElem_cons_zero, List.getElem_cons_succ, Act.put, List.setIfInBounds_toArray, List.set_cons_zero, List.set_cons_succ]
              refine wpAnyH_take (i := 4) (v := ?_) rfl (by kernel_rfl) (by kernel_rfl) (by kernel_rfl) (fun _ _ _ h => h) (Or.inl ⟨by rfl, ?_⟩) (by assumption) ?_; rotate_left
              · (intro w hSw; (try dsimp only at hSw); go_simp; try with_reducible rfl)
              try simp only [List.getElem_toArray, List.getElem_cons_zero, List.getElem_cons_succ, Act.put, List.setIfInBounds_toArray, List.set_cons_zero, List.set_cons_succ]
              refine wpAnyH_take (i := 5) (v := ?_) rfl (by kernel_rfl) (by kernel_rfl) (by kernel_rfl) (fun _ _ _ h => h) (Or.inl ⟨by rfl, ?_⟩) (by assumption) ?_; rotate_left
              · (intro w hSw; (try dsimp only at hSw); go_simp; try with_reducible rfl)
              try simp only [List.getElem_toArray, List.getElem_cons_zero, List.getElem_cons_succ, Act.put, List.setIfInBounds_toArray, List.set_cons_zero, List.set_cons_succ]
              refine wpAnyH_ready (rs := [6, 7]) (by kernel_rfl) (by simp) ?_
              refine AllReadyH.cons rfl (fun K hK => ?_) (AllReadyH.cons rfl (fun K hK => ?_) AllReadyH.nil)
              · go_simp
                refine (aSz.out wr.drew (K0.out _ _ hqr.out hD)).mono ?_
                rintro e wA ⟨rfl, hgc⟩
                try dsimp only
                have hrA : wr.grownBy wA none := gt hD hgc
                refine hK.out _ _ (hcell.out _ hrA) (fun hHeld => ?_)
                clear hK K
                try simp only [List.getElem_toArray, List.getElem_cons_zero, List.getElem_cons_succ, Act.put, List.setIfInBounds_toArray, List.set_cons_zero, List.set_cons_succ]
                refine wpAnyH_ready (rs := [7]) (by kernel_rfl) (by simp) ?_
                refine AllReadyH.cons rfl (fun K hK => ?_) AllReadyH.nil
                refine step_allocC (by rfl) 35 (by rfl) (pZ 0 ⟨#[]⟩) (zeroP _) ?_
                intro wB gB hgB
                have hrB : wr.grownBy wB none := gt hrA hgB
                refine hK.out _ _ (hcell.out _ hrB) (fun hHeld => ?_)
                clear hK K
                try simp only [List.getElem_toArray, List.getElem_cons_zero, List.getElem_cons_succ, Act.put, List.setIfInBounds_toArray, List.set_cons_zero, List.set_cons_succ]
                refine wpAnyH_ready (rs := [8]) (by kernel_rfl) (by simp) ?_
                refine AllReadyH.cons rfl (fun K hK => ?_) AllReadyH.nil
                refine step_storeC (by rfl) 35 _ _ (by rfl) _ (pZ 0 ⟨#[]⟩) (pM 0 sB (m1 : Int)) infoP rfl (pC_one _ _ _ _ _ _) (by simp [Act.eval]) (by simp [Act.eval]) gB ?_
                intro wF gF hgF
                have hrF : wr.grownBy wF none := grownBy_new hrB hgF (fun k hk => by have h5 := Option.some.inj hk; have h6 := hrA.size; (try simp at h5); omega)
                refine hK.out _ _ (hcell.out _ hrF) (fun hHeld => ?_)
                clear hK K
                try simp only [List.getElem_toArray, List.getElem_cons_zero, List.getElem_cons_succ, Act.put, List.setIfInBounds_toArray, List.set_cons_zero, List.set_cons_succ]
                refine wpAnyH_done (by kernel_rfl) ?_ _
                go_wp2_with fail
                go_meet
                exact ⟨_, rfl, Hid.mk' gF, Hid.mk' hrF⟩
              · refine step_allocC (by rfl) 35 (by rfl) (pZ 0 ⟨#[]⟩) (zeroP _) ?_
                intro wB gB hgB
                have hrB : wr.grownBy wB none := gt hD hgB
                refine hK.out _ _ (hcell.out _ hrB) (fun hHeld => ?_)
                clear hK K
                try simp only [List.getElem_toArray, List.getElem_cons_zero, List.getElem_cons_succ, Act.put, List.setIfInBounds_toArray, List.set_cons_zero, List.set_cons_succ]
                refine wpAnyH_ready (rs := [6]) (by kernel_rfl) (by simp) ?_
                refine AllReadyH.cons rfl (fun K hK => ?_) AllReadyH.nil
                go_simp
                refine (aSz.out wB (K0.out _ _ hqr.out hrB)).mono ?_
                rintro e wA ⟨rfl, hgc⟩
                try dsimp only
                have hrA : wr.grownBy wA none := gt hrB hgc
                refine hK.out _ _ (hcell.out _ hrA) (fun hHeld => ?_)
                clear hK K
                try simp only [List.getElem_toArray, List.getElem_cons_zero, List.getElem_cons_succ, Act.put, List.setIfInBounds_toArray, List.set_cons_zero, List.set_cons_succ]
                refine wpAnyH_ready (rs := [8]) (by kernel_rfl) (by simp) ?_
                refine AllReadyH.cons rfl (fun K hK => ?_) AllReadyH.nil
                refine step_storeC (by rfl) 35 _ _ (by rfl) _ (pZ 0 ⟨#[]⟩) (pM 0 sB (m1 : Int)) infoP rfl (pC_one _ _ _ _ _ _) (by simp [Act.eval]) (by simp [Act.eval]) (gB.kept0 hgc) ?_
                intro wF gF hgF
                have hrF : wr.grownBy wF none := grownBy_new hrA hgF (fun k hk => by have h5 := Option.some.inj hk; have h6 := hD.size; (try simp at h5); omega)
                refine hK.out _ _ (hcell.out _ hrF) (fun hHeld => ?_)
                clear hK K
                try simp only [List.getElem_toArray, List.getElem_cons_zero, List.getElem_cons_succ, Act.put, List.setIfInBounds_toArray, List.set_cons_zero, List.set_cons_succ]
                refine wpAnyH_done (by kernel_rfl) ?_ _
                go_wp2_with fail
                go_meet
                exact ⟨_, rfl, Hid.mk' gF, Hid.mk' hrF⟩
            case rest =>
              obtain ⟨PB, rfl, hPB, hgr⟩ := hcut
              rename_i w4
              have b4 := Hid.mk' (hb.out.next hgr.out)
              clear hcell hD hqr K0 aSz
              have y0 := hPB.out.cell 0 (v := .int .i64 0) rfl
              go_upto_region 13 with fail
              clear y0
              have hcl : Hid (∀ wx, CA wx PB 35 (pM 0 sB (m1 : Int)) → (fun w' => w'.cell? ⟨PB, 1, none⟩ = some (.string sB) ∧ w'.cell? ⟨PB, 2, none⟩ = some (.int .i64 (m1 : Int)) ∧ w'.cell? ⟨PB, 3, none⟩ = some (.int .i64 0) ∧ w'.cell? ⟨PB, 4, none⟩ = some (.int .u32 0) ∧ w'.cell? ⟨PB, 5, none⟩ = some (.int .i32 0)) wx) := Hid.mk' (fun wx hp => ⟨hp.cell 1 rfl, hp.cell 2 rfl, hp.cell 3 rfl, hp.cell 4 rfl, hp.cell 5 rfl⟩)
              have hD4 := bw_drew b4.out
              have hne : Hid (some PB ≠ some SB) := Hid.mk' (by intro e; have h5 := Option.some.inj e; have := b4.out.st.ne hPB.out (by decide); omega)
              refine wp_region_held_drew (S := fun w' => w'.cell? ⟨PB, 1, none⟩ = some (.string sB) ∧ w'.cell? ⟨PB, 2, none⟩ = some (.int .i64 (m1 : Int)) ∧ w'.cell? ⟨PB, 3, none⟩ = some (.int .i64 0) ∧ w'.cell? ⟨PB, 4, none⟩ = some (.int .u32 0) ∧ w'.cell? ⟨PB, 5, none⟩ = some (.int .i32 0)) (by kernel_rfl) (hcl.out _ (hPB.out.kept0 hD4)) (fun hHeld => ?_)
              refine wpAnyH_take (i := 0) (v := ?_) rfl (by kernel_rfl) (by kernel_rfl) (by kernel_rfl) (fun _ _ _ h => h) (Or.inl ⟨by rfl, ?_⟩) (by assumption) ?_; rotate_left
              · (intro w hSw; (try dsimp only at hSw); go_simp; try with_reducible rfl)
              try simp only [List.getElem_toArray, List.getElem_cons_zero, Act.put, List.setIfInBounds_toArray, List.set_cons_zero, List.set_cons_succ]
              refine wpAnyH_take (i := 1) (v := ?_) rfl (by kernel_rfl) (by kernel_rfl) (by kernel_rfl) (fun _ _ _ h => h) (Or.inl ⟨by rfl, ?_⟩) (by assumption) ?_; rotate_left
              · (intro w hSw; (try dsimp only at hSw); go_simp; try with_reducible rfl)
              try simp only [List.getElem_toArray, List.getElem_cons_zero, List.getElem_cons_succ, Act.put, List.setIfInBounds_toArray, List.set_cons_zero, List.set_cons_succ]
              refine wpAnyH_take (i := 2) (v := ?_) rfl (by kernel_rfl) (by kernel_rfl) (by kernel_rfl) (fun _ _ _ h => h) (Or.inl ⟨by rfl, ?_⟩) (by assumption) ?_; rotate_left
              · (intro w hSw; (try dsimp only at hSw); go_simp; try with_reducible rfl)
              try simp only [List.getElem_toArray, List.getElem_cons_zero, List.getElem_cons_succ, Act.put, List.setIfInBounds_toArray, List.set_cons_zero, List.set_cons_succ]
              refine wpAnyH_take (i := 3) (v := ?_) rfl (by kernel_rfl) (by kernel_rfl) (by kernel_rfl) (fun _ _ _ h => h) (Or.inl ⟨by rfl, ?_⟩) (by assumption) ?_; rotate_left
              · (intro w hSw; (try dsimp only at hSw); go_simp; try with_reducible rfl)
              try simp only [List.getElem_toArray, List.getElem_cons_zero, List.getElem_cons_succ, Act.put, List.setIfInBounds_toArray, List.set_cons_zero, List.set_cons_succ]
              refine wpAnyH_take (i := 4) (v := ?_) rfl (by kernel_rfl) (by kernel_rfl) (by kernel_rfl) (fun _ _ _ h => h) (Or.inl ⟨by rfl, ?_⟩) (by assumption) ?_; rotate_left
              · (intro w hSw; (try dsimp only at hSw); go_simp; try with_reducible rfl)
              try simp only [List.getElem_toArray, List.getElem_cons_zero, List.getElem_cons_succ, Act.put, List.setIfInBounds_toArray, List.set_cons_zero, List.set_cons_succ]
              refine wpAnyH_take (i := 5) (v := ?_) rfl (by kernel_rfl) (by kernel_rfl) (by kernel_rfl) (fun _ _ _ h => h) (Or.inl ⟨by rfl, ?_⟩) (by assumption) ?_; rotate_left
              · (intro w hSw; (try dsimp only at hSw); go_simp; try with_reducible rfl)
              try simp only [List.getElem_toArray, List.getElem_cons_zero, List.getElem_cons_succ, Act.put, List.setIfInBounds_toArray, List.set_cons_zero, List.set_cons_succ]
              refine wpAnyH_take (i := 6) (v := ?_) rfl (by kernel_rfl) (by kernel_rfl) (by kernel_rfl) (fun _ _ _ h => h) (Or.inl ⟨by rfl, ?_⟩) (by assumption) ?_; rotate_left
              · (intro w hSw; (try dsimp only at hSw); go_simp; try with_reducible rfl)
              try simp only [List.getElem_toArray, List.getElem_cons_zero, List.getElem_cons_succ, Act.put, List.setIfInBounds_toArray, List.set_cons_zero, List.set_cons_succ]
              refine wpAnyH_ready (rs := [7]) (by kernel_rfl) (by simp) ?_
              refine AllReadyH.cons rfl (fun K hK => ?_) AllReadyH.nil
              refine step_storeC (by rfl) 24 _ _ (by rfl) SB (sC (m : Int) 0 0 0) (sC (m1 : Int) 0 0 0) infoS rfl (sC_one _ _ _ _) (by simp [Act.eval]) (by simp [Act.eval]) (b4.out.st.kept0 hD4) ?_
              intro wF sF hgF
              have bF := Hid.mk' ((b4.out.next hD4).put sF hgF)
              refine hK.out _ _ (hcl.out _ ((hPB.out.kept0 hD4).kept hgF hne.out)) (fun hHeld => ?_)
              clear hK K
              try simp only [List.getElem_toArray, List.getElem_cons_zero, List.getElem_cons_succ, Act.put, List.setIfInBounds_toArray, List.set_cons_zero, List.set_cons_succ]
              refine wpAnyH_done (by kernel_rfl) ?_ _
              go_wp2_with fail
              go_roundw
              case rel => exact ⟨i + 1, S ++ S1, m1, s', by omega, by omega, by go_num, by first | rfl | (rw [hs']), hsz10.out, hm1, hs1, hm01, hgd11, bF⟩
              case measure => simp [intOf]; omega
          · have aSz : Hid (∀ w, P w → Calls Try.prog 14 #[.int .i64 88, stV (m : Int) 0 0 0, .int .i32 z] w fun e w' => e = .returned (.agg (pM 11 ⟨#[]⟩ 0)) ∧ w.grownBy w' none) := Hid.mk' (aS.out m hm z hzI.out _ _ _ hse)
            clear hse
            go_upto_region 11 with fail
            go_cut [11] from 18 to 43 (fun t11 wx => ∃ PB, t11 = .pointer (some ⟨PB, 0, none⟩) ∧ Hid (CA wx PB 35 (pM 11 ⟨#[]⟩ 0)) ∧ Hid (wr.grownBy wx none))
            case first =>
              refine wp_region_held_drew (S := fun w' => w'.cell? ⟨SB, 0, none⟩ = some (.int .i64 (m : Int)) ∧ w'.cell? ⟨SB, 1, none⟩ = some (.int .i64 0) ∧ w'.cell? ⟨SB, 2, none⟩ = some (.int .u32 0) ∧ w'.cell? ⟨SB, 3, none⟩ = some (.int .i32 0) ∧ w'.cell? ⟨b, o + i, none⟩ = some (.int .i32 z)) (by kernel_rfl) (hcell.out _ hD) (fun hHeld => ?_)
              refine wpAnyH_take (i := 0) (v := ?_) rfl (by kernel_rfl) (by kernel_rfl) (by kernel_rfl) (fun _ _ _ h => h) (Or.inl ⟨by rfl, ?_⟩) (by assumption) ?_; rotate_left
              · (intro w hSw; (try dsimp only at hSw); go_simp; try with_reducible rfl)
              try simp only [List.getElem_toArray, List.getElem_cons_zero, Act.put, List.setIfInBounds_toArray, List.set_cons_zero, List.set_cons_succ]
              refine wpAnyH_take (i := 1) (v := ?_) rfl (by kernel_rfl) (by kernel_rfl) (by kernel_rfl) (fun _ _ _ h => h) (Or.inl ⟨by rfl, ?_⟩) (by assumption) ?_; rotate_left
              · (intro w hSw; (try dsimp only at hSw); go_simp; try with_reducible rfl)
              try simp only [List.getElem_toArray, List.getElem_cons_zero, List.getElem_cons_succ, Act.put, List.setIfInBounds_toArray, List.set_cons_zero, List.set_cons_succ]
              refine wpAnyH_take (i := 2) (v := ?_) rfl (by kernel_rfl) (by kernel_rfl) (by kernel_rfl) (fun _ _ _ h => h) (Or.inl ⟨by rfl, ?_⟩) (by assumption) ?_; rotate_left
              · (intro w hSw; (try dsimp only at hSw); go_simp; try with_reducible rfl)
              try simp only [List.getElem_toArray, List.getElem_cons_zero, List.getElem_cons_succ, Act.put, List.setIfInBounds_toArray, List.set_cons_zero, List.set_cons_succ]
              refine wpAnyH_take (i := 3) (v := ?_) rfl (by kernel_rfl) (by kernel_rfl) (by kernel_rfl) (fun _ _ _ h => h) (Or.inl ⟨by rfl, ?_⟩) (by assumption) ?_; rotate_left
              · (intro w hSw; (try dsimp only at hSw); go_simp; try with_reducible rfl)
              try simp only [List.getElem_toArray, List.getElem_cons_zero, List.getElem_cons_succ, Act.put, List.setIfInBounds_toArray, List.set_cons_zero, List.set_cons_succ]
              refine wpAnyH_take (i := 4) (v := ?_) rfl (by kernel_rfl) (by kernel_rfl) (by kernel_rfl) (fun _ _ _ h => h) (Or.inl ⟨by rfl, ?_⟩) (by assumption) ?_; rotate_left
              · (intro w hSw; (try dsimp only at hSw); go_simp; try with_reducible rfl)
              try simp only [List.getElem_toArray, List.getElem_cons_zero, List.getElem_cons_succ, Act.put, List.setIfInBounds_toArray, List.set_cons_zero, List.set_cons_succ]
              refine wpAnyH_take (i := 5) (v := ?_) rfl (by kernel_rfl) (by kernel_rfl) (by kernel_rfl) (fun _ _ _ h => h) (Or.inl ⟨by rfl, ?_⟩) (by assumption) ?_; rotate_left
              · (intro w hSw; (try dsimp only at hSw); go_simp; try with_reducible rfl)
              try simp only [List.getElem_toArray, List.getElem_cons_zero, List.getElem_cons_succ, Act.put, List.setIfInBounds_toArray, List.set_cons_zero, List.set_cons_succ]
              refine wpAnyH_ready (rs := [6, 7]) (by kernel_rfl) (by simp) ?_
              refine AllReadyH.cons rfl (fun K hK => ?_) (AllReadyH.cons rfl (fun K hK => ?_) AllReadyH.nil)
              · go_simp
                refine (aSz.out wr.drew (K0.out _ _ hqr.out hD)).mono ?_
                rintro e wA ⟨rfl, hgc⟩
                try dsimp only
                have hrA : wr.grownBy wA none := gt hD hgc
                refine hK.out _ _ (hcell.out _ hrA) (fun hHeld => ?_)
                clear hK K
                try simp only [List.getElem_toArray, List.getElem_cons_zero, List.getElem_cons_succ, Act.put, List.setIfInBounds_toArray, List.set_cons_zero, List.set_cons_succ]
                refine wpAnyH_ready (rs := [7]) (by kernel_rfl) (by simp) ?_
                refine AllReadyH.cons rfl (fun K hK => ?_) AllReadyH.nil
                refine step_allocC (by rfl) 35 (by rfl) (pZ 0 ⟨#[]⟩) (zeroP _) ?_
                intro wB gB hgB
                have hrB : wr.grownBy wB none := gt hrA hgB
                refine hK.out _ _ (hcell.out _ hrB) (fun hHeld => ?_)
                clear hK K
                try simp only [List.getElem_toArray, List.getElem_cons_zero, List.getElem_cons_succ, Act.put, List.setIfInBounds_toArray, List.set_cons_zero, List.set_cons_succ]
                refine wpAnyH_ready (rs := [8]) (by kernel_rfl) (by simp) ?_
                refine AllReadyH.cons rfl (fun K hK => ?_) AllReadyH.nil
                refine step_storeC (by rfl) 35 _ _ (by rfl) _ (pZ 0 ⟨#[]⟩) (pM 11 ⟨#[]⟩ 0) infoP rfl (pC_one _ _ _ _ _ _) (by simp [Act.eval]) (by simp [Act.eval]) gB ?_
                intro wF gF hgF
                have hrF : wr.grownBy wF none := grownBy_new hrB hgF (fun k hk => by have h5 := Option.some.inj hk; have h6 := hrA.size; (try simp at h5); omega)
                refine hK.out _ _ (hcell.out _ hrF) (fun hHeld => ?_)
                clear hK K
                try simp only [List.getElem_toArray, List.getElem_cons_zero, List.getElem_cons_succ, Act.put, List.setIfInBounds_toArray, List.set_cons_zero, List.set_cons_succ]
                refine wpAnyH_done (by kernel_rfl) ?_ _
                go_wp2_with fail
                go_meet
                exact ⟨_, rfl, Hid.mk' gF, Hid.mk' hrF⟩
              · refine step_allocC (by rfl) 35 (by rfl) (pZ 0 ⟨#[]⟩) (zeroP _) ?_
                intro wB gB hgB
                have hrB : wr.grownBy wB none := gt hD hgB
                refine hK.out _ _ (hcell.out _ hrB) (fun hHeld => ?_)
                clear hK K
                try simp only [List.getElem_toArray, List.getElem_cons_zero, List.getElem_cons_succ, Act.put, List.setIfInBounds_toArray, List.set_cons_zero, List.set_cons_succ]
                refine wpAnyH_ready (rs := [6]) (by kernel_rfl) (by simp) ?_
                refine AllReadyH.cons rfl (fun K hK => ?_) AllReadyH.nil
                go_simp
                refine (aSz.out wB (K0.out _ _ hqr.out hrB)).mono ?_
                rintro e wA ⟨rfl, hgc⟩
                try dsimp only
                have hrA : wr.grownBy wA none := gt hrB hgc
                refine hK.out _ _ (hcell.out _ hrA) (fun hHeld => ?_)
                clear hK K
                try simp only [List.getElem_toArray, List.getElem_cons_zero, List.getElem_cons_succ, Act.put, List.setIfInBounds_toArray, List.set_cons_zero, List.set_cons_succ]
                refine wpAnyH_ready (rs := [8]) (by kernel_rfl) (by simp) ?_
                refine AllReadyH.cons rfl (fun K hK => ?_) AllReadyH.nil
                refine step_storeC (by rfl) 35 _ _ (by rfl) _ (pZ 0 ⟨#[]⟩) (pM 11 ⟨#[]⟩ 0) infoP rfl (pC_one _ _ _ _ _ _) (by simp [Act.eval]) (by simp [Act.eval]) (gB.kept0 hgc) ?_
                intro wF gF hgF
                have hrF : wr.grownBy wF none := grownBy_new hrA hgF (fun k hk => by have h5 := Option.some.inj hk; have h6 := hD.size; (try simp at h5); omega)
                refine hK.out _ _ (hcell.out _ hrF) (fun hHeld => ?_)
                clear hK K
                try simp only [List.getElem_toArray, List.getElem_cons_zero, List.getElem_cons_succ, Act.put, List.setIfInBounds_toArray, List.set_cons_zero, List.set_cons_succ]
                refine wpAnyH_done (by kernel_rfl) ?_ _
                go_wp2_with fail
                go_meet
                exact ⟨_, rfl, Hid.mk' gF, Hid.mk' hrF⟩
            case rest =>
              obtain ⟨PB, rfl, hPB, hgr⟩ := hcut
              rename_i w4
              have b4 := Hid.mk' (hb.out.next hgr.out)
              clear hcell hD hqr K0 aSz
              have y0 := hPB.out.cell 0 (v := .int .i64 11) rfl
              go_wp2
              go_roundw
              case rel => exact ⟨i + 1, S, m, s, by omega, by omega, by go_num, rfl, by omega, hm, hs, hm0, hgd, b4⟩
              case measure => simp [intOf]; omega
        · obtain rfl : i = 100 := by omega
          go_wp2
          go_meet
          exact ⟨S, m, s, rfl, by omega, hm, hs, hgd, hb⟩
      · obtain rfl : i = len := by omega
        go_wp2
        go_meet
        exact ⟨S, m, s, rfl, by omega, hm, hs, hgd, hb⟩
  case rest =>
    obtain ⟨S, m, s, rfl, hsz, hm, hs, hgd, hb⟩ := hcut
    have hss : s.size = (txt S).length := by rw [hs.out, str_size]
    obtain ⟨r, hr0, hrl⟩ := mod_fit at_ (s.size + 1) (by omega) (by omega)
    have hr : wrap64 ((IntKind.u64.wrap at_).tmod ((s.size : Int) + 1)) = (r : Int) := by simpa using hr0
    clear hr0
    have hex : s.extract 0 r = str ((txt S).take r) := by rw [hs.out]; exact str_take _ _ (by omega)
    have hexs : (s.extract 0 r).size = r := by rw [hex, str_size, List.length_take]; omega
    have hext : (s.extract 0 r).toList = (txt S).take r := by rw [hex, str_toList]
    obtain ⟨cc, w6, gg, hcv, hB6, hg6, hcc, hcx, hlt5⟩ := conv_bw hb.out (s.extract 0 r) (by omega)
    rw [hexs] at hcv hcc
    rw [hext] at hB6
    have b6 := Hid.mk' (hb.out.next hg6)
    have hlt5 := Hid.mk' hlt5
    have hlr : Hid (((txt S).take r).length = r) := Hid.mk' (by rw [List.length_take]; omega)
    clear hex hext hexs hg6 hs aS hss
    obtain ⟨x, hx⟩ : ∃ x, Hid (s.extract 0 r = x) := ⟨_, Hid.mk' rfl⟩
    rw [hx.out] at hcv
    have hx2 := hx.out
    have u1 : IntKind.u64.wrap ((s.size : Int) + 1) = (s.size : Int) + 1 := by rw [IntKind.wrap_u64]; omega
    have u2 : ¬ ((s.size : Int) + 1 = 0) := by omega
    have u3 : (r : Int) ≤ (s.size : Int) := by omega
    have u4 : (0 : Int) ≤ (r : Int) := by omega
    go_upto_region 15 with fail
    have B60 := Hid.mk' hB6
    clear hcv hB6 hr u1 u2 hx2
    go_upto_block 2 with (refine wpList_storeC _ rfl 24 _ _ rfl SB (sC (m : Int) 0 0 0) (sC 0 0 0 0) infoS rfl (sC_one _ _ _ _) rfl rfl b6.out.st ?_; intro w7 s7 hg7)
    have b7 := Hid.mk' (b6.out.put (m' := 0) s7 hg7)
    have B7 := Hid.mk' (B60.out.kept hg7 (.inr (by intro e; have h5 := Option.some.inj e; have h6 := hlt5.out; simp only at h5; omega)))
    clear s7 hg7 b6 B60 hb
    go_wp2
    try simp only [Act.put]
    go_loopw [12] (fun t12 wx => ∃ (B : List UInt8) (T : List Stp) (m n bc : Nat) (bo : Option Addr), t12 = .slice bo n bc ∧ n ≤ bc ∧ bc ≤ 9223372036854775807 ∧ m < 3 ∧ Hid (B.length = n) ∧ Hid (Bytes wx bo B) ∧ Hid (blk bo ≠ some SB) ∧ Hid (∃ j, B = (txt T).take j) ∧ Hid (Ok 88 m T) ∧ Hid (BW w SB none 0 [] m wx)) (fun t12 _ => lnOf t12)
    case atStart => exact ⟨(txt S).take r, S, 0, r, cc, _, rfl, hcc, hcx, by omega, hlr, B7, Hid.mk' (by intro e; have h5 := Option.some.inj e; have h6 := hlt5.out; simp only at h5; omega), Hid.mk' ⟨r, rfl⟩, hgd, b7⟩
    case round =>
      obtain ⟨B, T, m, n, bc, bo, rfl, hn1, hn2, hm, hBl, hBy, hbk, hj, hok, hb⟩ := hrel
      clear B7 b7 hlr hgd
      by_cases hn0 : n = 0
      · subst hn0
        go_wp2
        go_ret
        exact ⟨rfl, hb.out.g⟩
      · have hne0 : B ≠ [] := by intro e; have := hBl.out; rw [e] at this; simp at this; omega
        have hpos : (0 : Int) < (n : Int) := by omega
        rcases cut_ways hm hok.out hj.out hne0 with ⟨c, B', kk, ka, m', T', hBe, hk1, hga, hm', hok', hj'⟩ | ⟨hga, hn4⟩
        · have aGz := Hid.mk' (aG.out m hm _ _ _ _ _ _ hga)
          have hok' := Hid.mk' hok'
          have hj' := Hid.mk' hj'
          obtain ⟨k, hk⟩ : ∃ k, c.length = k := ⟨_, rfl⟩
          have hln : n = k + B'.length := by rw [← hBl.out, hBe, List.length_append, hk]
          have hBl' : Hid (B'.length = n - k) := Hid.mk' (by omega)
          have hdrop : Hid (B.drop k = B') := Hid.mk' (by rw [hBe, ← hk, List.drop_left])
          rw [hk] at hk1 aGz
          have hkn : k ≤ n := by omega
          obtain ⟨b0, B0', hBc⟩ : ∃ b0 B0', B = b0 :: B0' := by cases B with | nil => exact absurd rfl hne0 | cons x y => exact ⟨x, y, rfl⟩
          obtain ⟨g, o, rfl, hy0⟩ := first_cell (by have := hBy.out; rwa [hBc] at this)
          clear hy0 hBc hga hBe hk hln hne0 hok hj
          have e1 : ¬ (k : Int) < 1 := by omega
          have e2 : ¬ (n : Int) < (k : Int) := by omega
          have e3 : (0 : Int) ≤ (k : Int) := by omega
          have e4 : (k : Int) ≤ (n : Int) := by omega
          have e5 : (n : Int) ≤ (bc : Int) := by omega
          have hqr := Hid.mk' (K.out _ _ hq.out hb.out.g)
          go_upto_region 18 with (first
            | (refine wpList_loadC _ rfl 24 _ rfl _ Try.underlying24 rfl SB (sC (m : Int) 0 0 0) infoS rfl hb.out.st ?_)
            | (go_at_call 8; refine (aGz.out n hBl.out _ bc wr hBy.out hn1 hn2 hqr.out).mono ?_; rintro e wA ⟨rfl, hgA⟩)
            | (refine wpList_allocC _ rfl 28 rfl (gZ 0 0 0 0) (zeroG _) ?_; intro wB gB hgB)
            | (refine wpList_storeC _ rfl 28 _ _ rfl _ (gZ 0 0 0 0) (gM 0 (k : Int) kk ka (m' : Int)) infoG rfl (gC_one _ _ _ _ _ _ _ _ _) rfl rfl gB ?_; intro w4 g4 hg4))
          have hr4 : Hid (wr.grownBy w4 none) := Hid.mk' (grownBy_new (gt hgA hgB) hg4 (fun k hk => by have h5 := Option.some.inj hk; have h6 := hgA.size; omega))
          have b4 := Hid.mk' (hb.out.next hr4.out)
          have g40 := Hid.mk' g4
          clear hgA hgB hg4 gB aGz hqr g4
          generalize wA.heap.size = GB at *
          by_cases hqk : bc = k
          · subst hqk
            obtain rfl : n = bc := by omega
            have hB0 : Hid (B' = []) := Hid.mk' (by have := hBl'.out; rw [Nat.sub_self] at this; exact List.length_eq_zero_iff.1 this)
            have c0 := g40.out.cell 0 (v := .int .i64 0) rfl
            have c1 := g40.out.cell 1 (v := .int .i64 (n : Int)) rfl
            go_upto_region 22 with fail
            clear c0 c1
            have hD4 : w4.grownBy w4.drew none := gd (grownBy_refl w4 none)
            have hcl : Hid (∀ wx, CA wx GB 28 (gM 0 (n : Int) kk ka (m' : Int)) → (fun w' => w'.cell? ⟨GB, 1, none⟩ = some (.int .i64 (n : Int)) ∧ w'.cell? ⟨GB, 5, none⟩ = some (.int .i64 (m' : Int)) ∧ w'.cell? ⟨GB, 6, none⟩ = some (.int .i64 0) ∧ w'.cell? ⟨GB, 7, none⟩ = some (.int .u32 0) ∧ w'.cell? ⟨GB, 8, none⟩ = some (.int .i32 0)) wx) := Hid.mk' (fun wx hp => ⟨hp.cell 1 rfl, hp.cell 5 rfl, hp.cell 6 rfl, hp.cell 7 rfl, hp.cell 8 rfl⟩)
            have hne : Hid (some GB ≠ some SB) := Hid.mk' (by intro e; have h5 := Option.some.inj e; have := b4.out.st.ne g40.out (by decide); omega)
            refine wp_region_held_drew (S := fun w' => w'.cell? ⟨GB, 1, none⟩ = some (.int .i64 (n : Int)) ∧ w'.cell? ⟨GB, 5, none⟩ = some (.int .i64 (m' : Int)) ∧ w'.cell? ⟨GB, 6, none⟩ = some (.int .i64 0) ∧ w'.cell? ⟨GB, 7, none⟩ = some (.int .u32 0) ∧ w'.cell? ⟨GB, 8, none⟩ = some (.int .i32 0)) (by kernel_rfl) (hcl.out _ (g40.out.kept0 hD4)) (fun hHeld => ?_)
            refine wpAnyH_take (i := 0) (v := ?_) rfl (by kernel_rfl) (by kernel_rfl) (by kernel_rfl) (fun _ _ _ h => h) (Or.inl ⟨by rfl, ?_⟩) (by assumption) ?_; rotate_left
            · (intro w hSw; (try dsimp only at hSw); go_simp; try with_reducible rfl)
            try simp only [List.getElem_toArray, List.getElem_cons_zero, Act.put, List.setIfInBounds_toArray, List.set_cons_zero, List.set_cons_succ]
            refine wpAnyH_take (i := 1) (v := ?_) rfl (by kernel_rfl) (by kernel_rfl) (by kernel_rfl) (fun _ _ _ h => h) (Or.inl ⟨by rfl, ?_⟩) (by assumption) ?_; rotate_left
            · (intro w hSw; (try dsimp only at hSw); go_simp; try with_reducible rfl)
            try simp only [List.getElem_toArray, List.getElem_cons_zero, List.getElem_cons_succ, Act.put, List.setIfInBounds_toArray, List.set_cons_zero, List.set_cons_succ]
            refine wpAnyH_take (i := 2) (v := ?_) rfl (by kernel_rfl) (by kernel_rfl) (by kernel_rfl) (fun _ _ _ h => h) (Or.inl ⟨by rfl, ?_⟩) (by assumption) ?_; rotate_left
            · (intro w hSw; (try dsimp only at hSw); go_simp; try with_reducible rfl)
            try simp only [List.getElem_toArray, List.getElem_cons_zero, List.getElem_cons_succ, Act.put, List.setIfInBounds_toArray, List.set_cons_zero, List.set_cons_succ]
            refine wpAnyH_take (i := 3) (v := ?_) rfl (by kernel_rfl) (by kernel_rfl) (by kernel_rfl) (fun _ _ _ h => h) (Or.inl ⟨by rfl, ?_⟩) (by assumption) ?_; rotate_left
            · (intro w hSw; (try dsimp only at hSw); go_simp; try with_reducible rfl)
            try simp only [List.getElem_toArray, List.getElem_cons_zero, List.getElem_cons_succ, Act.put, List.setIfInBounds_toArray, List.set_cons_zero, List.set_cons_succ]
            refine wpAnyH_take (i := 4) (v := ?_) rfl (by kernel_rfl) (by kernel_rfl) (by kernel_rfl) (fun _ _ _ h => h) (Or.inl ⟨by rfl, ?_⟩) (by assumption) ?_; rotate_left
            · (intro w hSw; (try dsimp only at hSw); go_simp; try with_reducible rfl)
            try simp only [List.getElem_toArray, List.getElem_cons_zero, List.getElem_cons_succ, Act.put, List.setIfInBounds_toArray, List.set_cons_zero, List.set_cons_succ]
            refine wpAnyH_take (i := 5) (v := ?_) rfl (by kernel_rfl) (by kernel_rfl) (by kernel_rfl) (fun _ _ _ h => h) (Or.inl ⟨by rfl, ?_⟩) (by assumption) ?_; rotate_left
            · (intro w hSw; (try dsimp only at hSw); go_simp; try with_reducible rfl)
            try simp only [List.getElem_toArray, List.getElem_cons_zero, List.getElem_cons_succ, Act.put, List.setIfInBounds_toArray, List.set_cons_zero, List.set_cons_succ]
            refine wpAnyH_take (i := 6) (v := ?_) rfl (by kernel_rfl) (by kernel_rfl) (by kernel_rfl) (fun _ _ _ h => h) (Or.inl ⟨by rfl, ?_⟩) (by assumption) ?_; rotate_left
            · (intro w hSw; (try dsimp only at hSw); go_simp; try with_reducible rfl)
            try simp only [List.getElem_toArray, List.getElem_cons_zero, List.getElem_cons_succ, Act.put, List.setIfInBounds_toArray, List.set_cons_zero, List.set_cons_succ]
            refine wpAnyH_ready (rs := [7]) (by kernel_rfl) (by simp) ?_
            refine AllReadyH.cons rfl (fun K hK => ?_) AllReadyH.nil
            refine step_storeC (by rfl) 24 _ _ (by rfl) SB (sC (m : Int) 0 0 0) (sC (m' : Int) 0 0 0) infoS rfl (sC_one _ _ _ _) (by simp [Act.eval]) (by simp [Act.eval]) (b4.out.st.kept0 hD4) ?_
            intro wF sF hgF
            have bF := Hid.mk' ((b4.out.next hD4).put sF hgF)
            have hByF := Hid.mk' (((hBy.out.kept0 hr4.out).kept0 hD4).kept hgF (.inr hbk.out))
            refine hK.out _ _ (hcl.out _ ((g40.out.kept0 hD4).kept hgF hne.out)) (fun hHeld => ?_)
            clear hK K
            try simp only [List.getElem_toArray, List.getElem_cons_zero, List.getElem_cons_succ, Act.put, List.setIfInBounds_toArray, List.set_cons_zero, List.set_cons_succ]
            refine wpAnyH_done (by kernel_rfl) ?_ _
            go_wp2_with fail
            go_roundw
            case rel => exact ⟨B', T', m', 0, 0, some ⟨g, o, none⟩, by first | rfl | simp | (simp; omega), by omega, by omega, hm', Hid.mk' (by have := hBl'.out; omega), Hid.mk' (by rw [hB0.out]; exact bytes_none), hbk, hj', hok', bF⟩
            case measure => simp [lnOf]; omega
          · have c0 := g40.out.cell 0 (v := .int .i64 0) rfl
            have c1 := g40.out.cell 1 (v := .int .i64 (k : Int)) rfl
            go_upto_region 22 with fail
            clear c0 c1
            have hD4 : w4.grownBy w4.drew none := gd (grownBy_refl w4 none)
            have hcl : Hid (∀ wx, CA wx GB 28 (gM 0 (k : Int) kk ka (m' : Int)) → (fun w' => w'.cell? ⟨GB, 1, none⟩ = some (.int .i64 (k : Int)) ∧ w'.cell? ⟨GB, 5, none⟩ = some (.int .i64 (m' : Int)) ∧ w'.cell? ⟨GB, 6, none⟩ = some (.int .i64 0) ∧ w'.cell? ⟨GB, 7, none⟩ = some (.int .u32 0) ∧ w'.cell? ⟨GB, 8, none⟩ = some (.int .i32 0)) wx) := Hid.mk' (fun wx hp => ⟨hp.cell 1 rfl, hp.cell 5 rfl, hp.cell 6 rfl, hp.cell 7 rfl, hp.cell 8 rfl⟩)
            have hne : Hid (some GB ≠ some SB) := Hid.mk' (by intro e; have h5 := Option.some.inj e; have := b4.out.st.ne g40.out (by decide); omega)
            refine wp_region_held_drew (S := fun w' => w'.cell? ⟨GB, 1, none⟩ = some (.int .i64 (k : Int)) ∧ w'.cell? ⟨GB, 5, none⟩ = some (.int .i64 (m' : Int)) ∧ w'.cell? ⟨GB, 6, none⟩ = some (.int .i64 0) ∧ w'.cell? ⟨GB, 7, none⟩ = some (.int .u32 0) ∧ w'.cell? ⟨GB, 8, none⟩ = some (.int .i32 0)) (by kernel_rfl) (hcl.out _ (g40.out.kept0 hD4)) (fun hHeld => ?_)
            refine wpAnyH_take (i := 0) (v := ?_) rfl (by kernel_rfl) (by kernel_rfl) (by kernel_rfl) (fun _ _ _ h => h) (Or.inl ⟨by rfl, ?_⟩) (by assumption) ?_; rotate_left
            · (intro w hSw; (try dsimp only at hSw); go_simp; try with_reducible rfl)
            try simp only [List.getElem_toArray, List.getElem_cons_zero, Act.put, List.setIfInBounds_toArray, List.set_cons_zero, List.set_cons_succ]
            refine wpAnyH_take (i := 1) (v := ?_) rfl (by kernel_rfl) (by kernel_rfl) (by kernel_rfl) (fun _ _ _ h => h) (Or.inl ⟨by rfl, ?_⟩) (by assumption) ?_; rotate_left
            · (intro w hSw; (try dsimp only at hSw); go_simp; try with_reducible rfl)
            try simp only [List.getElem_toArray, List.getElem_cons_zero, List.getElem_cons_succ, Act.put, List.setIfInBounds_toArray, List.set_cons_zero, List.set_cons_succ]
            refine wpAnyH_take (i := 2) (v := ?_) rfl (by kernel_rfl) (by kernel_rfl) (by kernel_rfl) (fun _ _ _ h => h) (Or.inl ⟨by rfl, ?_⟩) (by assumption) ?_; rotate_left
            · (intro w hSw; (try dsimp only at hSw); go_simp; try with_reducible rfl)
            try simp only [List.getElem_toArray, List.getElem_cons_zero, List.getElem_cons_succ, Act.put, List.setIfInBounds_toArray, List.set_cons_zero, List.set_cons_succ]
            refine wpAnyH_take (i := 3) (v := ?_) rfl (by kernel_rfl) (by kernel_rfl) (by kernel_rfl) (fun _ _ _ h => h) (Or.inl ⟨by rfl, ?_⟩) (by assumption) ?_; rotate_left
            · (intro w hSw; (try dsimp only at hSw); go_simp; try with_reducible rfl)
            try simp only [List.getElem_toArray, List.getElem_cons_zero, List.getElem_cons_succ, Act.put, List.setIfInBounds_toArray, List.set_cons_zero, List.set_cons_succ]
            refine wpAnyH_take (i := 4) (v := ?_) rfl (by kernel_rfl) (by kernel_rfl) (by kernel_rfl) (fun _ _ _ h => h) (Or.inl ⟨by rfl, ?_⟩) (by assumption) ?_; rotate_left
            · (intro w hSw; (try dsimp only at hSw); go_simp; try with_reducible rfl)
            try simp only [List.getElem_toArray, List.getElem_cons_zero, List.getElem_cons_succ, Act.put, List.setIfInBounds_toArray, List.set_cons_zero, List.set_cons_succ]
            refine wpAnyH_take (i := 5) (v := ?_) rfl (by kernel_rfl) (by kernel_rfl) (by kernel_rfl) (fun _ _ _ h => h) (Or.inl ⟨by rfl, ?_⟩) (by assumption) ?_; rotate_left
            · (intro w hSw; (try dsimp only at hSw); go_simp; try with_reducible rfl)
            try simp only [List.getElem_toArray, List.getElem_cons_zero, List.getElem_cons_succ, Act.put, List.setIfInBounds_toArray, List.set_cons_zero, List.set_cons_succ]
            refine wpAnyH_take (i := 6) (v := ?_) rfl (by kernel_rfl) (by kernel_rfl) (by kernel_rfl) (fun _ _ _ h => h) (Or.inl ⟨by rfl, ?_⟩) (by assumption) ?_; rotate_left
            · (intro w hSw; (try dsimp only at hSw); go_simp; try with_reducible rfl)
            try simp only [List.getElem_toArray, List.getElem_cons_zero, List.getElem_cons_succ, Act.put, List.setIfInBounds_toArray, List.set_cons_zero, List.set_cons_succ]
            refine wpAnyH_ready (rs := [7]) (by kernel_rfl) (by simp) ?_
            refine AllReadyH.cons rfl (fun K hK => ?_) AllReadyH.nil
            refine step_storeC (by rfl) 24 _ _ (by rfl) SB (sC (m : Int) 0 0 0) (sC (m' : Int) 0 0 0) infoS rfl (sC_one _ _ _ _) (by simp [Act.eval]) (by simp [Act.eval]) (b4.out.st.kept0 hD4) ?_
            intro wF sF hgF
            have bF := Hid.mk' ((b4.out.next hD4).put sF hgF)
            have hByF := Hid.mk' (((hBy.out.kept0 hr4.out).kept0 hD4).kept hgF (.inr hbk.out))
            refine hK.out _ _ (hcl.out _ ((g40.out.kept0 hD4).kept hgF hne.out)) (fun hHeld => ?_)
            clear hK K
            try simp only [List.getElem_toArray, List.getElem_cons_zero, List.getElem_cons_succ, Act.put, List.setIfInBounds_toArray, List.set_cons_zero, List.set_cons_succ]
            refine wpAnyH_done (by kernel_rfl) ?_ _
            go_wp2_with fail
            go_roundw
            case rel =>
              refine ⟨B', T', m', n - k, bc - k, some ⟨g, o + k, none⟩, by first | rfl | simp | (simp; omega), by omega, by omega, hm', hBl', Hid.mk' ?_, hbk, hj', hok', bF⟩
              have h3 := hByF.out.drop k bc (by rw [hBl.out]; exact hn1)
              rw [if_neg hqk, hdrop.out] at h3
              have h4 : Bytes wF (some ((⟨g, o, none⟩ : Addr).add k)) B' := h3
              rw [addr_add] at h4
              exact h4
            case measure => simp [lnOf]; omega
        · have aGz := Hid.mk' (aG.out m hm _ _ _ _ _ _ hga)
          have hn4' : (n : Int) < 4 := by rw [hBl.out] at hn4; omega
          clear hga hn4 hne0 hok hj
          have hqr := Hid.mk' (K.out _ _ hq.out hb.out.g)
          go_upto_region 18 with (first
            | (refine wpList_loadC _ rfl 24 _ rfl _ Try.underlying24 rfl SB (sC (m : Int) 0 0 0) infoS rfl hb.out.st ?_)
            | (go_at_call 8; refine (aGz.out n hBl.out _ bc wr hBy.out hn1 hn2 hqr.out).mono ?_; rintro e wA ⟨rfl, hgA⟩)
            | (refine wpList_allocC _ rfl 28 rfl (gZ 0 0 0 0) (zeroG _) ?_; intro wB gB hgB)
            | (refine wpList_storeC _ rfl 28 _ _ rfl _ (gZ 0 0 0 0) (gM 1 0 0 0 0) infoG rfl (gC_one _ _ _ _ _ _ _ _ _) rfl rfl gB ?_; intro w4 g4 hg4))
          have hr4 : Hid (wr.grownBy w4 none) := Hid.mk' (grownBy_new (gt hgA hgB) hg4 (fun k hk => by have h5 := Option.some.inj hk; have h6 := hgA.size; omega))
          have b4 := Hid.mk' (hb.out.next hr4.out)
          have g40 := Hid.mk' g4
          clear hgA hgB hg4 gB aGz hqr g4
          generalize wA.heap.size = GB at *
          have c0 := g40.out.cell 0 (v := .int .i64 1) rfl
          go_wp2
          go_ret
          exact ⟨rfl, b4.out.g⟩
end Go.Proofs.Ytdobjijebalkkaa.C21
