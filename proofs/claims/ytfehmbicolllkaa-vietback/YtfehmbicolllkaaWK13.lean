/- VietBack: the walk. -/
import Derived.Test.YtfehmbicolllkaaWP13
import Derived.Test.YtfehmbicolllkaaTx13
import Derived.Deep.CutBlock
namespace Go.Proofs.Ytfehmbicolllkaa.C13
open Go.ChangeShapes Go.WideShapes Go.ChangeAt Go.RowKit Go.Proofs.Ytfehmbicolllkaa.Mem Go.Proofs.Ytfehmbicolllkaa.Cb Go.Proofs.Ytfehmbicolllkaa.El Go.Proofs.Ytfehmbicolllkaa.Ru
set_option linter.unusedVariables false
set_option linter.unusedSimpArgs false

set_option maxRecDepth 100000 in
set_option maxHeartbeats 4000000 in
theorem back_walk {P : World → Prop} (C : Con P) (ao : Option Addr) (cap : Nat) (L : List Int) (len : Nat) (hlen : L.length = len) (w : World) (hw : P w) (hR : RuE.Rd w ao L) (hI : ∀ u ∈ L, I32 u) (hLc : len ≤ cap) (hcm : cap ≤ 140737488351232) :
    Calls Try.prog 6 #[.slice ao len cap] w fun e w' => e = .returned (.bool true) ∧ w.grownBy w' none := by
  have a0 := Hid.mk' (fun w hw => works_any C w hw)
  have aS := Hid.mk' (fun (u : Int) (hu : I32 u) (w : World) (hw : P w) => C.set u hu w hw)
  have aC := Hid.mk' (fun (l m : Int) (hl : I32 l) (hm : I32 m) (w : World) (R : Option Nat) (hR : coR l m = R) (hw : P w) => C.compose l m hl hm w R (Hid.mk' hR) hw)
  have aF := Hid.mk' (fun (he : Int) (h : fitR 0 0 0 he = true) (w : World) (hw : P w) => C.fits 0 0 0 he w true (Hid.mk' h) hw)
  have aG : Hid (∀ (he : Int) (ao : Option Addr) (cap : Nat) (c : UInt8) (w : World), Bytes w ao [c] → 1 ≤ cap → cap ≤ 9223372036854775807 → P w → Calls Try.prog 15 #[stV 0 0 0 he, .slice ao 1 cap] w fun e w' => e = .returned (geV 0 0 0 he [c]) ∧ w.grownBy w' none) := Hid.mk' (fun he ao cap c w hB h1 h2 hw => C.get 0 0 0 he ao cap [c] 1 rfl w hB h1 h2 hw)
  have aD := Hid.mk' (fun (he z : Int) (ok : Bool) (h : drT 0 0 0 he = (z, ok)) (w : World) (hw : P w) => C.drain 0 0 0 he w z ok (Hid.mk' h) hw)
  have K := Hid.mk' (fun (a b : World) (h : P a) (g : a.grownBy b none) => C.keep h g)
  have hq := Hid.mk' hw
  have hR0 := Hid.mk' hR
  have hI0 := Hid.mk' hI
  have hl0 := Hid.mk' hlen
  clear hw C hR hI hlen
  go_enter Try.func6, Try.ntmps6
  go_upto_block 0 with (go_at_call 21; refine (a0.out _ hq.out).mono ?_; rintro e w1 ⟨rfl, hg1, hp1⟩)
  have hG1 := Hid.mk' hg1
  clear hg1 hp1 a0
  go_cut [3, 4, 5, 6, 7, 8] from 18 to 80 (fun t3 t4 t5 t6 t7 t8 wx => ∃ (W : List Int) (ro : Option Addr) (rc : Nat) (s : ByteArray), t3 = .slice ro W.length rc ∧ t4 = .string s ∧ W.length ≤ 200 ∧ s.size ≤ 400 ∧ Hid (RuE.Own wx ro rc W) ∧ Hid (s = str (txt W)) ∧ Hid (okW W) ∧ Hid (w.grownBy wx none) ∧ Hid (∀ g, blk ro = some g → w.heap.size ≤ g))
  case first =>
    go_wp2
    go_loopw [3, 4, 5] (fun t3 t4 t5 wx => ∃ (i : Nat) (W : List Int) (ro : Option Addr) (rc : Nat) (s : ByteArray), i ≤ 200 ∧ i ≤ len ∧ t5 = .int .i64 (i : Int) ∧ t3 = .slice ro W.length rc ∧ t4 = .string s ∧ W.length ≤ i ∧ s.size ≤ 2 * i ∧ Hid (RuE.Own wx ro rc W) ∧ Hid (s = str (txt W)) ∧ Hid (okW W) ∧ Hid (∀ u ∈ W, I32 u) ∧ Hid (w.grownBy wx none) ∧ Hid (∀ g, blk ro = some g → w.heap.size ≤ g)) (fun _ _ t5 _ => 200 - (intOf t5).toNat)
    case atStart => exact ⟨0, [], none, 0, ⟨#[]⟩, by omega, by omega, rfl, rfl, rfl, by simp, by simp [ByteArray.size], Hid.mk' (.inl ⟨rfl, rfl, rfl⟩), Hid.mk' rfl, Hid.mk' trivial, Hid.mk' (by simp), hG1, Hid.mk' (by intro g e; cases e)⟩
    case round =>
      obtain ⟨i, W, ro, rc, s, hi, hil, rfl, rfl, rfl, hWl, hsz, hO, hs, hok, hWI, hG, hbl⟩ := hrel
      by_cases hlt : i < len
      · have hlt' : (i : Int) < (len : Int) := by omega
        by_cases hlt2 : i < 200
        · have hlt2' : (i : Int) < 200 := by omega
          have hiL : i < L.length := by rw [hl0.out]; exact hlt
          obtain ⟨b, o, rfl, hb, x0⟩ := rucell (hR0.out.kept0 hG.out) hiL
          have hzI : Hid (I32 L[i]) := Hid.mk' (hI0.out _ (List.getElem_mem hiL))
          generalize L[i] = z at x0 hzI
          have hi0 : (0 : Int) ≤ (i : Int) := by omega
          have hqr := Hid.mk' (K.out _ _ hq.out hG.out)
          have aSz := Hid.mk' (fun (w : World) (hw : P w) => aS.out z hzI.out w hw)
          cases hse : seR z with
          | none =>
            rw [hse] at aSz
            simp only [seV] at aSz
            go_wp2_with (first
              | (go_at_call 19; refine (aSz.out wr hqr.out).mono ?_; rintro e w2 ⟨rfl, hg2⟩)
              | (refine wpList_allocC _ rfl 39 rfl (pC 0 ⟨#[]⟩) (zeroP _) ?_; intro w3 p3 hg3)
              | (refine wpList_storeC _ rfl 39 _ _ rfl _ (pC 0 ⟨#[]⟩) (pC 11 ⟨#[]⟩) infoP rfl (pC_one _ _) rfl rfl p3 ?_; intro w4 p4 hg4; have y0 := p4.cell 0 (v := .int .i64 11) rfl))
            have hg24 : Hid (wr.grownBy w4 none) := Hid.mk' (grownBy_new (gt hg2 hg3) hg4 (fun k hk => by have h5 := Option.some.inj hk; have h6 := hg2.size; omega))
            have hG4 : Hid (w.grownBy w4 none) := Hid.mk' (gt hG.out hg24.out)
            have hO4 := Hid.mk' (hO.out.kept0 hg24.out)
            go_roundw
            case rel => exact ⟨i + 1, W, ro, rc, s, by omega, by omega, by go_num, rfl, rfl, by omega, by omega, hO4, hs, hok, hWI, hG4, hbl⟩
            case measure => simp [intOf]; omega
          | some B =>
            rw [hse] at aSz
            simp only [seV] at aSz
            have hzs : Hid ((seR z).isSome = true) := Hid.mk' (by rw [hse]; rfl)
            have hBb : byt z = B := by rw [byt, hse]; rfl
            have hBl := byt_len hzs.out
            rw [hBb] at hBl
            obtain ⟨sB, hsB0⟩ : ∃ sB, Hid (str B = sB) := ⟨_, Hid.mk' rfl⟩
            have hsBB : Hid (str (byt z) = sB) := Hid.mk' (by rw [hBb]; exact hsB0.out)
            rw [hsB0.out] at aSz
            have hBl0 := Hid.mk' hBl
            clear hse hBb hBl
            go_upto_region 10 with (first
              | (go_at_call 19; refine (aSz.out wr hqr.out).mono ?_; rintro e w2 ⟨rfl, hg2⟩)
              | (refine wpList_allocC _ rfl 39 rfl (pC 0 ⟨#[]⟩) (zeroP _) ?_; intro w3 p3 hg3)
              | (refine wpList_storeC _ rfl 39 _ _ rfl _ (pC 0 ⟨#[]⟩) (pC 0 sB) infoP rfl (pC_one _ _) rfl rfl p3 ?_; intro w4 p4 hg4; have y0 := p4.cell 0 (v := .int .i64 0) rfl))
            have hg24 : Hid (wr.grownBy w4 none) := Hid.mk' (grownBy_new (gt hg2 hg3) hg4 (fun k hk => by have h5 := Option.some.inj hk; have h6 := hg2.size; omega))
            have hG4 : Hid (w.grownBy w4 none) := Hid.mk' (gt hG.out hg24.out)
            have hO4 := Hid.mk' (hO.out.kept0 hg24.out)
            have hPB : Hid (wr.heap.size ≤ w2.heap.size) := Hid.mk' hg2.size
            have p40 := Hid.mk' p4
            have x4 : Hid (w4.cell? ⟨b, o + i, none⟩ = some (.int .i32 z)) := Hid.mk' (byte_kept x0 hb hg24.out)
            clear hg2 hg3 hg4 p3 p4 y0 x0 hg24
            generalize w2.heap.size = PB at *
            rcases List.eq_nil_or_concat W with hWn | ⟨W0, lw, hWc⟩
            · have hW0 : W.length = 0 := by rw [hWn]; rfl
              have hlast : Hid (∀ v, W.getLast? = some v → coR v z = none) := Hid.mk' (by rw [hWn]; intro v h; cases h)
              have x5 := x4.out
              have hO5 := hO4
              have hG5 := hG4
              have p5 := p40
              obtain ⟨w5, hw5⟩ : ∃ z, z = w4 := ⟨_, rfl⟩
              subst hw5
              clear hWn
              have y1 := p5.out.cell 1 (v := .string sB) rfl
              have y2 := p5.out.cell 2 (v := .int .i64 0) rfl
              have y3 := p5.out.cell 3 (v := .int .i64 0) rfl
              have y4 := p5.out.cell 4 (v := .int .u32 0) rfl
              have y5 := p5.out.cell 5 (v := .int .i32 0) rfl
              have hPne : Hid (∀ g, blk ro = some g → ¬ PB = g) := Hid.mk' (fun g e => by have := hO.out.lt e; have := hPB.out; omega)
              rcases hBl0.out with hB1 | hB2
              · have hsB : sB.size = 1 := by rw [← hsB0.out, str_size]; exact hB1
                obtain ⟨s', hs'⟩ : ∃ s', s ++ sB = s' := ⟨_, rfl⟩
                have hs'0 : Hid (s' = str (txt (W ++ [z]))) := Hid.mk' (by rw [← hs', hs.out, ← hsBB.out, txt_snoc])
                have hs'z : s'.size ≤ 2 * (i + 1) := by rw [← hs', ByteArray.size_append]; omega
                have hok' : Hid (okW (W ++ [z])) := Hid.mk' (okW_snoc W z hok.out hzs.out hlast.out)
                have hWI' : Hid (∀ u ∈ W ++ [z], I32 u) := Hid.mk' (fun u hu => by
                  rcases List.mem_append.1 hu with h | h
                  · exact hWI.out u h
                  · simp at h; subst h; exact hzI.out)
                have hs'z0 := Hid.mk' hs'z
                clear hs'z
                go_wp2_with (at_builtin; refine wpList_rune _ rfl _ _ rfl ro rc W rfl (hO5.out.alloc _) _ rfl [z] (src_rune1 w5 z) (by simp; omega) (W ++ [z]) rfl ?_; intro ro' rc' w6 ho6 hg6 hat6; have y1' : w6.cell? ⟨PB, 1, none⟩ = some (.string sB) := (CA.kept (CA.kept0 p5.out (World.grownBy_alloc w5 (.cells #[.int .i32 z] 21) none)) hg6 (by intro e; exact hPne.out _ e.symm rfl)).cell 1 rfl)
                go_roundw
                case rel =>
                  refine ⟨i + 1, W ++ [z], ro', rc', s', by omega, by omega, by go_num, (by first | (simp; done) | (simp; exact List.length_eq_zero_iff.1 hW0)), rfl, by simp; omega, hs'z0.out, Hid.mk' ho6, hs'0, hok', hWI', Hid.mk' ?_, Hid.mk' ?_⟩
                  · exact grownBy_new (ga hG5.out) hg6 (fun k hk => hbl.out k hk)
                  · intro g e
                    rcases hat6 with rfl | rfl
                    · exact hbl.out g e
                    · have e1 := Option.some.inj e
                      have e2 := hG5.out.size
                      simp at e1
                      omega
                case measure => simp [intOf]; omega
              · have hsB : sB.size = 2 := by rw [← hsB0.out, str_size]; exact hB2
                obtain ⟨s', hs'⟩ : ∃ s', s ++ sB = s' := ⟨_, rfl⟩
                have hs'0 : Hid (s' = str (txt (W ++ [z]))) := Hid.mk' (by rw [← hs', hs.out, ← hsBB.out, txt_snoc])
                have hs'z : s'.size ≤ 2 * (i + 1) := by rw [← hs', ByteArray.size_append]; omega
                have hok' : Hid (okW (W ++ [z])) := Hid.mk' (okW_snoc W z hok.out hzs.out hlast.out)
                have hWI' : Hid (∀ u ∈ W ++ [z], I32 u) := Hid.mk' (fun u hu => by
                  rcases List.mem_append.1 hu with h | h
                  · exact hWI.out u h
                  · simp at h; subst h; exact hzI.out)
                have hs'z0 := Hid.mk' hs'z
                clear hs'z
                go_wp2_with (at_builtin; refine wpList_rune _ rfl _ _ rfl ro rc W rfl (hO5.out.alloc _) _ rfl [z] (src_rune1 w5 z) (by simp; omega) (W ++ [z]) rfl ?_; intro ro' rc' w6 ho6 hg6 hat6; have y1' : w6.cell? ⟨PB, 1, none⟩ = some (.string sB) := (CA.kept (CA.kept0 p5.out (World.grownBy_alloc w5 (.cells #[.int .i32 z] 21) none)) hg6 (by intro e; exact hPne.out _ e.symm rfl)).cell 1 rfl)
                go_roundw
                case rel =>
                  refine ⟨i + 1, W ++ [z], ro', rc', s', by omega, by omega, by go_num, (by first | (simp; done) | (simp; exact List.length_eq_zero_iff.1 hW0)), rfl, by simp; omega, hs'z0.out, Hid.mk' ho6, hs'0, hok', hWI', Hid.mk' ?_, Hid.mk' ?_⟩
                  · exact grownBy_new (ga hG5.out) hg6 (fun k hk => hbl.out k hk)
                  · intro g e
                    rcases hat6 with rfl | rfl
                    · exact hbl.out g e
                    · have e1 := Option.some.inj e
                      have e2 := hG5.out.size
                      simp at e1
                      omega
                case measure => simp [intOf]; omega
            · have hj : W.length = W0.length + 1 := by rw [hWc]; simp
              have hjl : Hid (W0.length < W.length) := Hid.mk' (by omega)
              have hlw : Hid (W[W0.length]'hjl.out = lw) := Hid.mk' (by subst hWc; simp)
              have hlwI : Hid (I32 lw) := Hid.mk' (hWI.out _ (by rw [hWc]; simp))
              have hlast : Hid (∀ v, coR lw z = none → W.getLast? = some v → coR v z = none) := Hid.mk' (fun v h e => by
                rw [hWc, List.concat_eq_append, List.getLast?_append] at e
                simp at e
                subst e
                exact h)
              obtain ⟨bw, ow, hro, hbw, q0⟩ := rucell hO4.out.rd hjl.out
              rw [hlw.out] at q0
              subst hro
              have hc1 := hO4.out.cap_le
              have hc2 := hO4.out.cap_max
              obtain ⟨j, hjj⟩ : ∃ j, W0.length = j := ⟨_, rfl⟩
              rw [hjj] at hj q0
              have e1 : (W.length : Int) - 1 = (j : Int) := by omega
              have e2 : IntKind.i64.wrap (j : Int) = (j : Int) := by rw [IntKind.wrap_i64]; omega
              have e3 : (0 : Int) ≤ (j : Int) := by omega
              have e4 : (j : Int) < (W.length : Int) := by omega
              have e5 : (0 : Int) < (W.length : Int) := by omega
              have hq4 := Hid.mk' (K.out _ _ hq.out hG4.out)
              have hS : Hid (∀ wx, w4.grownBy wx none → wx.cell? ⟨bw, ow + j, none⟩ = some (.int .i32 lw) ∧ wx.cell? ⟨b, o + i, none⟩ = some (.int .i32 z)) := Hid.mk' (fun wx hg => ⟨byte_kept q0 hbw hg, byte_kept x4.out (by have := hb; have := hG4.out.size; exact World.block_lt_of_cell? w4 _ x4.out) hg⟩)
              have hS0 := hS.out w4.drew (gd (grownBy_refl w4 none))
              clear hWc hjj hj q0
              cases hco : coR lw z with
              | some u =>
                have aCz := Hid.mk' (fun (w : World) (hw : P w) => aC.out lw z hlwI.out hzI.out w (some u) hco hw)
                clear hco
                go_upto_region 11 with fail
                go_region_held3 (fun w' => w'.cell? ⟨bw, ow + j, none⟩ = some (.int .i32 lw) ∧ w'.cell? ⟨b, o + i, none⟩ = some (.int .i32 z)) (first | assumption | exact hS0) (first
                  | (go_at_call 9; refine (aCz.out _ (K.out _ _ hq4.out (by (repeat (first | with_reducible exact grownBy_refl _ _ | (with_reducible refine gs ?_ ?_; first | omega | (simp; omega)) | with_reducible refine ga ?_ | with_reducible refine gd ?_ | with_reducible refine gdn ?_ | with_reducible refine gt ?_ (by assumption)))))).mono ?_; rintro e w5 ⟨rfl, hg5⟩; have hg45 : Hid (w4.grownBy w5 none) := Hid.mk' (by (repeat (first | with_reducible exact grownBy_refl _ _ | (with_reducible refine gs ?_ ?_; first | omega | (simp; omega)) | with_reducible refine ga ?_ | with_reducible refine gd ?_ | with_reducible refine gdn ?_ | with_reducible refine gt ?_ (by assumption)))); have hS5 := hS.out _ hg45.out))
                all_goals go_wp2_with fail
                all_goals go_roundw
                all_goals first | (simp [intOf]; omega) | exact ⟨i + 1, W, _, rc, s, by omega, by omega, by go_num, rfl, rfl, by omega, by omega, Hid.mk' (hO4.out.kept0 hg45.out), hs, hok, hWI, Hid.mk' (gt hG4.out hg45.out), hbl⟩
              | none =>
                have aCz := Hid.mk' (fun (w : World) (hw : P w) => aC.out lw z hlwI.out hzI.out w none hco hw)
                have hlast2 : Hid (∀ v, W.getLast? = some v → coR v z = none) := Hid.mk' (fun v h => hlast.out v hco h)
                clear hco
                go_upto_region 11 with fail
                go_region_held3 (fun w' => w'.cell? ⟨bw, ow + j, none⟩ = some (.int .i32 lw) ∧ w'.cell? ⟨b, o + i, none⟩ = some (.int .i32 z)) (first | assumption | exact hS0) (first
                  | (go_at_call 9; refine (aCz.out _ (K.out _ _ hq4.out (by (repeat (first | with_reducible exact grownBy_refl _ _ | (with_reducible refine gs ?_ ?_; first | omega | (simp; omega)) | with_reducible refine ga ?_ | with_reducible refine gd ?_ | with_reducible refine gdn ?_ | with_reducible refine gt ?_ (by assumption)))))).mono ?_; rintro e w5 ⟨rfl, hg5⟩; have hg45 : Hid (w4.grownBy w5 none) := Hid.mk' (by (repeat (first | with_reducible exact grownBy_refl _ _ | (with_reducible refine gs ?_ ?_; first | omega | (simp; omega)) | with_reducible refine ga ?_ | with_reducible refine gd ?_ | with_reducible refine gdn ?_ | with_reducible refine gt ?_ (by assumption)))); have hS5 := hS.out _ hg45.out))
                have x5 := hS5.2
                have hO5 := Hid.mk' (hO4.out.kept0 hg45.out)
                have hG5 : Hid (w.grownBy w5 none) := Hid.mk' (gt hG4.out hg45.out)
                have p5 := Hid.mk' (p40.out.kept0 hg45.out)
                clear hS5 hS0 hg5 aCz
                have y1 := p5.out.cell 1 (v := .string sB) rfl
                have y2 := p5.out.cell 2 (v := .int .i64 0) rfl
                have y3 := p5.out.cell 3 (v := .int .i64 0) rfl
                have y4 := p5.out.cell 4 (v := .int .u32 0) rfl
                have y5 := p5.out.cell 5 (v := .int .i32 0) rfl
                have hPne : Hid (∀ g, blk (some ⟨bw, ow, none⟩) = some g → ¬ PB = g) := Hid.mk' (fun g e => by have := hO.out.lt e; have := hPB.out; omega)
                rcases hBl0.out with hB1 | hB2
                · have hsB : sB.size = 1 := by rw [← hsB0.out, str_size]; exact hB1
                  obtain ⟨s', hs'⟩ : ∃ s', s ++ sB = s' := ⟨_, rfl⟩
                  have hs'0 : Hid (s' = str (txt (W ++ [z]))) := Hid.mk' (by rw [← hs', hs.out, ← hsBB.out, txt_snoc])
                  have hs'z : s'.size ≤ 2 * (i + 1) := by rw [← hs', ByteArray.size_append]; omega
                  have hok' : Hid (okW (W ++ [z])) := Hid.mk' (okW_snoc W z hok.out hzs.out hlast2.out)
                  have hWI' : Hid (∀ u ∈ W ++ [z], I32 u) := Hid.mk' (fun u hu => by
                    rcases List.mem_append.1 hu with h | h
                    · exact hWI.out u h
                    · simp at h; subst h; exact hzI.out)
                  have hs'z0 := Hid.mk' hs'z
                  clear hs'z
                  go_wp2_with (at_builtin; refine wpList_rune _ rfl _ _ rfl (some ⟨bw, ow, none⟩) rc W rfl (hO5.out.alloc _) _ rfl [z] (src_rune1 w5 z) (by simp; omega) (W ++ [z]) rfl ?_; intro ro' rc' w6 ho6 hg6 hat6; have y1' : w6.cell? ⟨PB, 1, none⟩ = some (.string sB) := (CA.kept (CA.kept0 p5.out (World.grownBy_alloc w5 (.cells #[.int .i32 z] 21) none)) hg6 (by intro e; exact hPne.out _ e.symm rfl)).cell 1 rfl)
                  go_roundw
                  case rel =>
                    refine ⟨i + 1, W ++ [z], ro', rc', s', by omega, by omega, by go_num, (by first | (simp; done) | (simp; exact List.length_eq_zero_iff.1 hW0)), rfl, by simp; omega, hs'z0.out, Hid.mk' ho6, hs'0, hok', hWI', Hid.mk' ?_, Hid.mk' ?_⟩
                    · exact grownBy_new (ga hG5.out) hg6 (fun k hk => hbl.out k hk)
                    · intro g e
                      rcases hat6 with rfl | rfl
                      · exact hbl.out g e
                      · have e1 := Option.some.inj e
                        have e2 := hG5.out.size
                        simp at e1
                        omega
                  case measure => simp [intOf]; omega
                · have hsB : sB.size = 2 := by rw [← hsB0.out, str_size]; exact hB2
                  obtain ⟨s', hs'⟩ : ∃ s', s ++ sB = s' := ⟨_, rfl⟩
                  have hs'0 : Hid (s' = str (txt (W ++ [z]))) := Hid.mk' (by rw [← hs', hs.out, ← hsBB.out, txt_snoc])
                  have hs'z : s'.size ≤ 2 * (i + 1) := by rw [← hs', ByteArray.size_append]; omega
                  have hok' : Hid (okW (W ++ [z])) := Hid.mk' (okW_snoc W z hok.out hzs.out hlast2.out)
                  have hWI' : Hid (∀ u ∈ W ++ [z], I32 u) := Hid.mk' (fun u hu => by
                    rcases List.mem_append.1 hu with h | h
                    · exact hWI.out u h
                    · simp at h; subst h; exact hzI.out)
                  have hs'z0 := Hid.mk' hs'z
                  clear hs'z
                  go_wp2_with (at_builtin; refine wpList_rune _ rfl _ _ rfl (some ⟨bw, ow, none⟩) rc W rfl (hO5.out.alloc _) _ rfl [z] (src_rune1 w5 z) (by simp; omega) (W ++ [z]) rfl ?_; intro ro' rc' w6 ho6 hg6 hat6; have y1' : w6.cell? ⟨PB, 1, none⟩ = some (.string sB) := (CA.kept (CA.kept0 p5.out (World.grownBy_alloc w5 (.cells #[.int .i32 z] 21) none)) hg6 (by intro e; exact hPne.out _ e.symm rfl)).cell 1 rfl)
                  go_roundw
                  case rel =>
                    refine ⟨i + 1, W ++ [z], ro', rc', s', by omega, by omega, by go_num, (by first | (simp; done) | (simp; exact List.length_eq_zero_iff.1 hW0)), rfl, by simp; omega, hs'z0.out, Hid.mk' ho6, hs'0, hok', hWI', Hid.mk' ?_, Hid.mk' ?_⟩
                    · exact grownBy_new (ga hG5.out) hg6 (fun k hk => hbl.out k hk)
                    · intro g e
                      rcases hat6 with rfl | rfl
                      · exact hbl.out g e
                      · have e1 := Option.some.inj e
                        have e2 := hG5.out.size
                        simp at e1
                        omega
                  case measure => simp [intOf]; omega
        · obtain rfl : i = 200 := by omega
          go_wp2
          go_meet
          exact ⟨W, ro, rc, s, rfl, rfl, by omega, by omega, hO, hs, hok, hG, hbl⟩
      · obtain rfl : i = len := by omega
        go_wp2
        go_meet
        exact ⟨W, ro, rc, s, rfl, rfl, by omega, by omega, hO, hs, hok, hG, hbl⟩
  case rest =>
    obtain ⟨W, ro, rc, s, rfl, rfl, hWl, hsz, hO, hs, hok, hG, hbl⟩ := hcut
    obtain ⟨T, hT⟩ : ∃ T, Hid (txt W = T) := ⟨_, Hid.mk' rfl⟩
    have hback : Hid ((rdF 0 T).1 ++ pend (rdF 0 T).2 = W) := Hid.mk' (by
      have := back_plain W 0 hok.out fit_zero (fun h => absurd rfl h)
      rw [hT.out] at this
      simpa [pend] using this)
    have hleg : Hid (∀ c ∈ T, ¬ vsR c.toNat = 65533) := Hid.mk' (by rw [← hT.out]; exact txt_legal W hok.out)
    have hsT : Hid (s = str T) := Hid.mk' (by rw [hs.out, hT.out])
    obtain ⟨N, hN⟩ : ∃ N, s.size = N := ⟨_, rfl⟩
    have hTN : Hid (T.length = N) := Hid.mk' (by rw [← hN, hsT.out, str_size])
    have hN4 : N ≤ 400 := by omega
    have hold : Hid (∀ g, blk ro = some g → g < wc.heap.size) := Hid.mk' (fun g e => hO.out.lt e)
    clear hs hok hT hbl
    go_upto_region 19 with (first
      | (refine wpList_allocC _ rfl 29 rfl (sC 0 0 0 0) (zeroS _) ?_; intro w2 s2 hg2)
      | (refine wpList_storeC _ rfl 29 _ _ rfl _ (sC 0 0 0 0) (sC 0 0 0 0) infoS rfl (sC_one _ _ _ _) rfl rfl s2 ?_; intro w3 s3 hg3))
    have hb3 : Hid (B2 w ro rc W wc.heap.size none 0 [] 0 w3) := Hid.mk' (by
      have hg23 : wc.grownBy w3 none := grownBy_new hg2 hg3 (fun k hk => by have h5 := Option.some.inj hk; omega)
      exact ⟨.inl ⟨rfl, rfl, rfl⟩, hO.out.kept0 hg23, s3, gt hG.out hg23, hold.out, by intro g e; (cases e), hG.out.size⟩)
    clear hg2 hg3 s2 s3 hO hG hold
    generalize wc.heap.size = SB at *
    go_wp2
    go_loopw [9, 11] (fun t9 t11 wx => ∃ (i : Nat) (Gt : List Int) (r2 : Option Addr) (q2 : Nat) (he : Int), i ≤ N ∧ t11 = .int .i64 (i : Int) ∧ t9 = .slice r2 Gt.length q2 ∧ Gt.length ≤ 2 * i ∧ Hid (rdF 0 (T.take i) = (Gt, he)) ∧ Hid (fitR 0 0 0 he = true) ∧ Hid (B2 w ro rc W SB r2 q2 Gt he wx)) (fun _ t11 _ => N - (intOf t11).toNat)
    case atStart => exact ⟨0, [], none, 0, 0, by omega, rfl, rfl, by simp, Hid.mk' (by simp [rdF]), Hid.mk' fit_zero, hb3⟩
    case round =>
      obtain ⟨i, Gt, r2, q2, he, hi, rfl, rfl, hGl, hrd, hf, hb⟩ := hrel
      by_cases hlt : i < N
      · have hlt' : (i : Int) < (N : Int) := by omega
        have hiT : Hid (i < T.length) := Hid.mk' (by rw [hTN.out]; exact hlt)
        obtain ⟨c, hcT⟩ : ∃ c, Hid (T[i]'hiT.out = c) := ⟨_, Hid.mk' rfl⟩
        obtain ⟨v, hvv⟩ : ∃ v, Hid (vsR c.toNat = v) := ⟨_, Hid.mk' rfl⟩
        obtain ⟨k, a, b, h, hgt, hst0⟩ := gt_stp (he := he) (v := v) (by rw [← hvv.out, ← hcT.out]; exact hleg.out _ (List.getElem_mem _))
        have hge : Hid (geV 0 0 0 he [c] = vgV 0 1 k a b h) := Hid.mk' (by
          unfold geV
          rw [if_pos hf.out]
          show gtV he (vsR c.toNat) = _
          rw [hvv.out]
          exact hgt)
        obtain ⟨s1, hs1⟩ : ∃ s1, s.extract i (i + 1) = s1 := ⟨_, rfl⟩
        have hs1c : s1 = str [c] := by rw [← hs1, hsT.out, str_cut hiT.out, hcT.out]
        have hs1z : Hid (s1.size = 1) := Hid.mk' (by rw [hs1c, str_size]; rfl)
        have hs1l : Hid (s1.toList = [c]) := Hid.mk' (by rw [hs1c, ByteArray.toList_eq, str_data])
        have e1 : (i : Int) + 1 ≤ (N : Int) := by omega
        have e2 : (0 : Int) ≤ (i : Int) := by omega
        have e3 : IntKind.i64.wrap ((i : Int) + 1) = (i : Int) + 1 := by rw [IntKind.wrap_i64]; omega
        have e4 : (0 : Int) ≤ (i : Int) + 1 := by omega
        have e5 : (i : Int) ≤ (i : Int) + 1 := by omega
        have hst1 := Hid.mk' hst0
        have hcell : Hid (∀ wx, wr.grownBy wx none → (fun w' => w'.cell? ⟨SB, 0, none⟩ = some (.int .i64 0) ∧ w'.cell? ⟨SB, 1, none⟩ = some (.int .i64 0) ∧ w'.cell? ⟨SB, 2, none⟩ = some (.int .u32 0) ∧ w'.cell? ⟨SB, 3, none⟩ = some (.int .i32 he)) wx) := Hid.mk' (fun wx hg => ⟨(hb.out.st.kept0 hg).cell 0 rfl, (hb.out.st.kept0 hg).cell 1 rfl, (hb.out.st.kept0 hg).cell 2 rfl, (hb.out.st.kept0 hg).cell 3 rfl⟩)
        have hD : wr.grownBy wr.drew none := gd (grownBy_refl wr none)
        have hqr := Hid.mk' (K.out _ _ hq.out hb.out.g)
        have K0 := K
        clear hgt hst0 hs1c
        go_upto_region 22 with fail
        go_cut [12] from 82 to 137 (fun t12 wx => ∃ GB, t12 = .pointer (some ⟨GB, 0, none⟩) ∧ Hid (CA wx GB 34 (gC 0 1 k a b h)) ∧ Hid (wr.grownBy wx none))
        case first =>
          refine wp_region_held_drew (S := fun w' => w'.cell? ⟨SB, 0, none⟩ = some (.int .i64 0) ∧ w'.cell? ⟨SB, 1, none⟩ = some (.int .i64 0) ∧ w'.cell? ⟨SB, 2, none⟩ = some (.int .u32 0) ∧ w'.cell? ⟨SB, 3, none⟩ = some (.int .i32 he)) (by kernel_rfl) (hcell.out _ hD) (fun hHeld => ?_)
          refine wpAnyH_take (i := 0) (v := ?_) rfl (by kernel_rfl) (by kernel_rfl) (by kernel_rfl) (fun _ _ _ h => h) (Or.inl ⟨by rfl, ?_⟩) (by assumption) ?_; rotate_left
          · (intro w hSw; (try dsimp only at hSw); go_simp; try with_reducible rfl)
          try simp only [List.getElem_toArray, List.getElem_cons_zero, Act.put, List.setIfInBounds_toArray, List.set_cons_zero, List.set_cons_succ]
          refine wpAnyH_take (i := 1) (v := ?_) rfl (by kernel_rfl) (by kernel_rfl) (by kernel_rfl) (fun _ _ _ h => h) (Or.inl ⟨by rfl, ?_⟩) (by assumption) ?_; rotate_left
          · (intro w hSw; (try dsimp only at hSw); go_simp; try with_reducible rfl)
          try simp only [List.getElem_toArray, List.getElem_cons_zero, List.getElem_cons_succ, Act.put, List.setIfInBounds_toArray, List.set_cons_zero, List.set_cons_succ]
          refine wpAnyH_take (i := 2) (v := ?_) rfl (by kernel_rfl) (by kernel_rfl) (by kernel_rfl) (fun _ _ _ h => h) (Or.inl ⟨by rfl, ?_⟩) (by assumption) ?_; rotate_left
          · (intro w hSw; (try dsimp only at hSw); go_simp; try with_reducible rfl)
          try simp only [List.getElem_toArray, List.getElem_cons_zero, List.getElem_cons_succ, Act.put, List.setIfInBounds_toArray, List.set_cons_zero, List.set_cons_succ]
          refine wpAnyH_take (i := 3) (v := ?_) rfl (by kernel_rfl) (by kernel_rfl) (by kernel_rfl) (fun _ _ _ h => h) (Or.inl ⟨by rfl, ?_⟩) (by assumption) ?_; rotate_left
          · (intro w hSw; (try dsimp only at hSw); go_simp; try with_reducible rfl)
          try simp only [List.getElem_toArray, List.getElem_cons_zero, List.getElem_cons_succ, Act.put, List.setIfInBounds_toArray, List.set_cons_zero, List.set_cons_succ]
          refine wpAnyH_take (i := 4) (v := ?_) rfl (by kernel_rfl) (by kernel_rfl) (by kernel_rfl) (fun _ _ _ h => h) (Or.inl ⟨by rfl, ?_⟩) (by assumption) ?_; rotate_left
          · (intro w hSw; (try dsimp only at hSw); go_simp; try with_reducible rfl)
          try simp only [List.getElem_toArray, List.getElem_cons_zero, List.getElem_cons_succ, Act.put, List.setIfInBounds_toArray, List.set_cons_zero, List.set_cons_succ]
          refine wpAnyH_take (i := 5) (v := ?_) rfl (by kernel_rfl) (by kernel_rfl) (by kernel_rfl) (fun _ _ _ h => h) (Or.inl ⟨by rfl, ?_⟩) (by assumption) ?_; rotate_left
          · (intro w hSw; (try dsimp only at hSw); go_simp; try with_reducible rfl)
          try simp only [List.getElem_toArray, List.getElem_cons_zero, List.getElem_cons_succ, Act.put, List.setIfInBounds_toArray, List.set_cons_zero, List.set_cons_succ]
          refine wpAnyH_ready (rs := [6, 8]) (by kernel_rfl) (by simp) ?_
          refine AllReadyH.cons rfl (fun K hK => ?_) (AllReadyH.cons rfl (fun K hK => ?_) AllReadyH.nil)
          · obtain ⟨cp, wC, hcvt, hBC, hgC, hcp1, hcp2⟩ := conv_new (P := Try.prog) wr.drew 9 30 s1 Try.underlying9 Try.underlying30 Try.underlying5 (by have := hs1z.out; omega)
            rw [hs1z.out] at hcvt hcp1
            rw [hs1l.out] at hBC
            refine step_run (by rfl) (exec_convert _ _ _ (by rfl) (by simp [Act.eval]) hcvt) ?_
            have hrC : wr.grownBy wC none := gt hD hgC
            clear hcvt
            refine hK.out _ _ (hcell.out _ hrC) (fun hHeld => ?_)
            clear hK K
            try simp only [List.getElem_toArray, List.getElem_cons_zero, List.getElem_cons_succ, Act.put, List.setIfInBounds_toArray, List.set_cons_zero, List.set_cons_succ]
            refine wpAnyH_ready (rs := [7, 8]) (by kernel_rfl) (by simp) ?_
            refine AllReadyH.cons rfl (fun K hK => ?_) (AllReadyH.cons rfl (fun K hK => ?_) AllReadyH.nil)
            · go_simp
              refine (aG.out he _ cp c wC hBC hcp1 hcp2 (K0.out _ _ hqr.out hrC)).mono ?_
              rw [hge.out]
              rintro e wA ⟨rfl, hgc⟩
              try dsimp only
              have hrA : wr.grownBy wA none := gt hrC hgc
              refine hK.out _ _ (hcell.out _ hrA) (fun hHeld => ?_)
              clear hK K
              try simp only [List.getElem_toArray, List.getElem_cons_zero, List.getElem_cons_succ, Act.put, List.setIfInBounds_toArray, List.set_cons_zero, List.set_cons_succ]
              refine wpAnyH_ready (rs := [8]) (by kernel_rfl) (by simp) ?_
              refine AllReadyH.cons rfl (fun K hK => ?_) AllReadyH.nil
              refine step_allocC (by rfl) 34 (by rfl) (gC 0 0 0 0 0 0) (zeroG _) ?_
              intro wB gB hgB
              have hrB : wr.grownBy wB none := gt hrA hgB
              refine hK.out _ _ (hcell.out _ hrB) (fun hHeld => ?_)
              clear hK K
              try simp only [List.getElem_toArray, List.getElem_cons_zero, List.getElem_cons_succ, Act.put, List.setIfInBounds_toArray, List.set_cons_zero, List.set_cons_succ]
              refine wpAnyH_ready (rs := [9]) (by kernel_rfl) (by simp) ?_
              refine AllReadyH.cons rfl (fun K hK => ?_) AllReadyH.nil
              refine step_storeC (by rfl) 34 _ _ (by rfl) _ (gC 0 0 0 0 0 0) (gC 0 1 k a b h) infoG rfl (gC_one _ _ _ _ _ _) (by simp [Act.eval]) (by simp [Act.eval]) gB ?_
              intro wF gF hgF
              have hrF : wr.grownBy wF none := grownBy_new hrB hgF (fun k hk => by have h5 := Option.some.inj hk; have h6 := hrA.size; (try simp at h5); omega)
              refine hK.out _ _ (hcell.out _ hrF) (fun hHeld => ?_)
              clear hK K
              try simp only [List.getElem_toArray, List.getElem_cons_zero, List.getElem_cons_succ, Act.put, List.setIfInBounds_toArray, List.set_cons_zero, List.set_cons_succ]
              refine wpAnyH_done (by kernel_rfl) ?_ _
              go_wp2_with fail
              go_meet
              exact ⟨_, rfl, Hid.mk' gF, Hid.mk' hrF⟩
            · refine step_allocC (by rfl) 34 (by rfl) (gC 0 0 0 0 0 0) (zeroG _) ?_
              intro wB gB hgB
              have hrB : wr.grownBy wB none := gt hrC hgB
              refine hK.out _ _ (hcell.out _ hrB) (fun hHeld => ?_)
              clear hK K
              try simp only [List.getElem_toArray, List.getElem_cons_zero, List.getElem_cons_succ, Act.put, List.setIfInBounds_toArray, List.set_cons_zero, List.set_cons_succ]
              refine wpAnyH_ready (rs := [7]) (by kernel_rfl) (by simp) ?_
              refine AllReadyH.cons rfl (fun K hK => ?_) AllReadyH.nil
              go_simp
              refine (aG.out he _ cp c wB (hBC.kept0 hgB) hcp1 hcp2 (K0.out _ _ hqr.out hrB)).mono ?_
              rw [hge.out]
              rintro e wA ⟨rfl, hgc⟩
              try dsimp only
              have hrA : wr.grownBy wA none := gt hrB hgc
              refine hK.out _ _ (hcell.out _ hrA) (fun hHeld => ?_)
              clear hK K
              try simp only [List.getElem_toArray, List.getElem_cons_zero, List.getElem_cons_succ, Act.put, List.setIfInBounds_toArray, List.set_cons_zero, List.set_cons_succ]
              refine wpAnyH_ready (rs := [9]) (by kernel_rfl) (by simp) ?_
              refine AllReadyH.cons rfl (fun K hK => ?_) AllReadyH.nil
              refine step_storeC (by rfl) 34 _ _ (by rfl) _ (gC 0 0 0 0 0 0) (gC 0 1 k a b h) infoG rfl (gC_one _ _ _ _ _ _) (by simp [Act.eval]) (by simp [Act.eval]) (gB.kept0 hgc) ?_
              intro wF gF hgF
              have hrF : wr.grownBy wF none := grownBy_new hrA hgF (fun k hk => by have h5 := Option.some.inj hk; have h6 := hrC.size; (try simp at h5); omega)
              refine hK.out _ _ (hcell.out _ hrF) (fun hHeld => ?_)
              clear hK K
              try simp only [List.getElem_toArray, List.getElem_cons_zero, List.getElem_cons_succ, Act.put, List.setIfInBounds_toArray, List.set_cons_zero, List.set_cons_succ]
              refine wpAnyH_done (by kernel_rfl) ?_ _
              go_wp2_with fail
              go_meet
              exact ⟨_, rfl, Hid.mk' gF, Hid.mk' hrF⟩
          · refine step_allocC (by rfl) 34 (by rfl) (gC 0 0 0 0 0 0) (zeroG _) ?_
            intro wB gB hgB
            have hrB : wr.grownBy wB none := gt hD hgB
            refine hK.out _ _ (hcell.out _ hrB) (fun hHeld => ?_)
            clear hK K
            try simp only [List.getElem_toArray, List.getElem_cons_zero, List.getElem_cons_succ, Act.put, List.setIfInBounds_toArray, List.set_cons_zero, List.set_cons_succ]
            refine wpAnyH_ready (rs := [6]) (by kernel_rfl) (by simp) ?_
            refine AllReadyH.cons rfl (fun K hK => ?_) AllReadyH.nil
            obtain ⟨cp, wC, hcvt, hBC, hgC, hcp1, hcp2⟩ := conv_new (P := Try.prog) wB 9 30 s1 Try.underlying9 Try.underlying30 Try.underlying5 (by have := hs1z.out; omega)
            rw [hs1z.out] at hcvt hcp1
            rw [hs1l.out] at hBC
            refine step_run (by rfl) (exec_convert _ _ _ (by rfl) (by simp [Act.eval]) hcvt) ?_
            have hrC : wr.grownBy wC none := gt hrB hgC
            clear hcvt
            refine hK.out _ _ (hcell.out _ hrC) (fun hHeld => ?_)
            clear hK K
            try simp only [List.getElem_toArray, List.getElem_cons_zero, List.getElem_cons_succ, Act.put, List.setIfInBounds_toArray, List.set_cons_zero, List.set_cons_succ]
            refine wpAnyH_ready (rs := [7]) (by kernel_rfl) (by simp) ?_
            refine AllReadyH.cons rfl (fun K hK => ?_) AllReadyH.nil
            go_simp
            refine (aG.out he _ cp c wC hBC hcp1 hcp2 (K0.out _ _ hqr.out hrC)).mono ?_
            rw [hge.out]
            rintro e wA ⟨rfl, hgc⟩
            try dsimp only
            have hrA : wr.grownBy wA none := gt hrC hgc
            refine hK.out _ _ (hcell.out _ hrA) (fun hHeld => ?_)
            clear hK K
            try simp only [List.getElem_toArray, List.getElem_cons_zero, List.getElem_cons_succ, Act.put, List.setIfInBounds_toArray, List.set_cons_zero, List.set_cons_succ]
            refine wpAnyH_ready (rs := [9]) (by kernel_rfl) (by simp) ?_
            refine AllReadyH.cons rfl (fun K hK => ?_) AllReadyH.nil
            refine step_storeC (by rfl) 34 _ _ (by rfl) _ (gC 0 0 0 0 0 0) (gC 0 1 k a b h) infoG rfl (gC_one _ _ _ _ _ _) (by simp [Act.eval]) (by simp [Act.eval]) ((gB.kept0 hgC).kept0 hgc) ?_
            intro wF gF hgF
            have hrF : wr.grownBy wF none := grownBy_new hrA hgF (fun k hk => by have h5 := Option.some.inj hk; have h6 := hD.size; (try simp at h5); omega)
            refine hK.out _ _ (hcell.out _ hrF) (fun hHeld => ?_)
            clear hK K
            try simp only [List.getElem_toArray, List.getElem_cons_zero, List.getElem_cons_succ, Act.put, List.setIfInBounds_toArray, List.set_cons_zero, List.set_cons_succ]
            refine wpAnyH_done (by kernel_rfl) ?_ _
            go_wp2_with fail
            go_meet
            exact ⟨_, rfl, Hid.mk' gF, Hid.mk' hrF⟩
        case rest =>
          obtain ⟨GB, rfl, hGB, hgr⟩ := hcut
          have g4 := hGB.out
          have b4 := Hid.mk' (hb.out.next hgr.out)
          clear hGB hgr hcell hD hqr K0 hge hb hs1 hs1z hs1l e1 e3 e4 e5
          rename_i w4
          rcases hst1.out with ⟨rfl, hst⟩ | ⟨rfl, hst⟩ | ⟨rfl, hst⟩
          · have hst := Hid.mk' hst
            have c0 := g4.cell 0 (v := .int .i64 0) rfl
            have c1 := g4.cell 1 (v := .int .i64 1) rfl
            have c2 := g4.cell 2 (v := .int .i64 0) rfl
            have c3 := g4.cell 3 (v := .int .i32 a) rfl
            have c4 := g4.cell 4 (v := .int .i32 b) rfl
            have c5 := g4.cell 5 (v := .int .i64 0) rfl
            have c6 := g4.cell 6 (v := .int .i64 0) rfl
            have c7 := g4.cell 7 (v := .int .u32 0) rfl
            have c8 := g4.cell 8 (v := .int .i32 h) rfl
            go_upto_region 25 with (go_at_call 17; refine (aF.out h (by have := stp_fit hf.out v; rw [hst.out] at this; exact this) _ (K.out _ _ hq.out b4.out.g)).mono ?_; rintro e w5 ⟨rfl, hg5⟩; have b5 := Hid.mk' (b4.out.next hg5); have g5 := g4.kept0 hg5)
            clear c0 c1 c2 c3 c4 c5 c6 c7 c8
            clear g4 b4 hg5
            have c0 := g5.cell 0 (v := .int .i64 0) rfl
            have c1 := g5.cell 1 (v := .int .i64 1) rfl
            have c2 := g5.cell 2 (v := .int .i64 0) rfl
            have c3 := g5.cell 3 (v := .int .i32 a) rfl
            have c4 := g5.cell 4 (v := .int .i32 b) rfl
            have c5 := g5.cell 5 (v := .int .i64 0) rfl
            have c6 := g5.cell 6 (v := .int .i64 0) rfl
            have c7 := g5.cell 7 (v := .int .u32 0) rfl
            have c8 := g5.cell 8 (v := .int .i32 h) rfl
            go_wp2_with (refine wpList_storeC _ rfl 29 _ _ rfl SB (sC 0 0 0 he) (sC 0 0 0 h) infoS rfl (sC_one _ _ _ _) rfl rfl b5.out.st ?_; intro wZ SZ hgZ)
            go_roundw
            case rel => exact ⟨i + 1, Gt, r2, q2, h, by omega, by go_num, rfl, (by have := hGl; omega), Hid.mk' (by rw [take_snoc hiT.out, rdF_snoc, hrd.out, hcT.out, hvv.out, hst.out]; simp), Hid.mk' (by have := stp_fit hf.out v; rw [hst.out] at this; exact this), Hid.mk' (b5.out.put SZ hgZ)⟩
            case measure => simp [intOf]; omega
          · have hst := Hid.mk' hst
            have c0 := g4.cell 0 (v := .int .i64 0) rfl
            have c1 := g4.cell 1 (v := .int .i64 1) rfl
            have c2 := g4.cell 2 (v := .int .i64 1) rfl
            have c3 := g4.cell 3 (v := .int .i32 a) rfl
            have c4 := g4.cell 4 (v := .int .i32 b) rfl
            have c5 := g4.cell 5 (v := .int .i64 0) rfl
            have c6 := g4.cell 6 (v := .int .i64 0) rfl
            have c7 := g4.cell 7 (v := .int .u32 0) rfl
            have c8 := g4.cell 8 (v := .int .i32 h) rfl
            go_upto_region 25 with (go_at_call 17; refine (aF.out h (by have := stp_fit hf.out v; rw [hst.out] at this; exact this) _ (K.out _ _ hq.out b4.out.g)).mono ?_; rintro e w5 ⟨rfl, hg5⟩; have b5 := Hid.mk' (b4.out.next hg5); have g5 := g4.kept0 hg5)
            clear c0 c1 c2 c3 c4 c5 c6 c7 c8
            clear g4 b4 hg5
            have c0 := g5.cell 0 (v := .int .i64 0) rfl
            have c1 := g5.cell 1 (v := .int .i64 1) rfl
            have c2 := g5.cell 2 (v := .int .i64 1) rfl
            have c3 := g5.cell 3 (v := .int .i32 a) rfl
            have c4 := g5.cell 4 (v := .int .i32 b) rfl
            have c5 := g5.cell 5 (v := .int .i64 0) rfl
            have c6 := g5.cell 6 (v := .int .i64 0) rfl
            have c7 := g5.cell 7 (v := .int .u32 0) rfl
            have c8 := g5.cell 8 (v := .int .i32 h) rfl
            obtain ⟨R6, hR6⟩ : ∃ R, Hid (Gt ++ [a] = R) := ⟨_, Hid.mk' rfl⟩
            have hl6 : R6.length ≤ 2 * i + 1 := by rw [← hR6.out, List.length_append]; simp; omega
            go_upto_region 27 with (at_builtin; refine wpList_rune _ rfl _ _ rfl r2 q2 (Gt) rfl (b5.out.got.alloc _) _ rfl [a] (src_rune1 w5 a) (by simp; omega) R6 hR6.out ?_; intro r6 q6 w6 ho6 hg6 hat6; have b6 := Hid.mk' (b5.out.app ho6 hg6 hat6); have g6 := b5.out.keepG g5 hg6)
            clear c0 c1 c2 c3 c4 c5 c6 c7 c8
            clear g5 b5 ho6 hg6 hat6
            have c0 := g6.cell 0 (v := .int .i64 0) rfl
            have c1 := g6.cell 1 (v := .int .i64 1) rfl
            have c2 := g6.cell 2 (v := .int .i64 1) rfl
            have c3 := g6.cell 3 (v := .int .i32 a) rfl
            have c4 := g6.cell 4 (v := .int .i32 b) rfl
            have c5 := g6.cell 5 (v := .int .i64 0) rfl
            have c6 := g6.cell 6 (v := .int .i64 0) rfl
            have c7 := g6.cell 7 (v := .int .u32 0) rfl
            have c8 := g6.cell 8 (v := .int .i32 h) rfl
            go_wp2_with (refine wpList_storeC _ rfl 29 _ _ rfl SB (sC 0 0 0 he) (sC 0 0 0 h) infoS rfl (sC_one _ _ _ _) rfl rfl b6.out.st ?_; intro wZ SZ hgZ)
            go_roundw
            case rel => exact ⟨i + 1, R6, r6, q6, h, by omega, by go_num, rfl, (by have := hGl; omega), Hid.mk' (by rw [take_snoc hiT.out, rdF_snoc, hrd.out, hcT.out, hvv.out, hst.out]; rw [← hR6.out]), Hid.mk' (by have := stp_fit hf.out v; rw [hst.out] at this; exact this), Hid.mk' (b6.out.put SZ hgZ)⟩
            case measure => simp [intOf]; omega
          · have hst := Hid.mk' hst
            have c0 := g4.cell 0 (v := .int .i64 0) rfl
            have c1 := g4.cell 1 (v := .int .i64 1) rfl
            have c2 := g4.cell 2 (v := .int .i64 2) rfl
            have c3 := g4.cell 3 (v := .int .i32 a) rfl
            have c4 := g4.cell 4 (v := .int .i32 b) rfl
            have c5 := g4.cell 5 (v := .int .i64 0) rfl
            have c6 := g4.cell 6 (v := .int .i64 0) rfl
            have c7 := g4.cell 7 (v := .int .u32 0) rfl
            have c8 := g4.cell 8 (v := .int .i32 h) rfl
            go_upto_region 25 with (go_at_call 17; refine (aF.out h (by have := stp_fit hf.out v; rw [hst.out] at this; exact this) _ (K.out _ _ hq.out b4.out.g)).mono ?_; rintro e w5 ⟨rfl, hg5⟩; have b5 := Hid.mk' (b4.out.next hg5); have g5 := g4.kept0 hg5)
            clear c0 c1 c2 c3 c4 c5 c6 c7 c8
            clear g4 b4 hg5
            have c0 := g5.cell 0 (v := .int .i64 0) rfl
            have c1 := g5.cell 1 (v := .int .i64 1) rfl
            have c2 := g5.cell 2 (v := .int .i64 2) rfl
            have c3 := g5.cell 3 (v := .int .i32 a) rfl
            have c4 := g5.cell 4 (v := .int .i32 b) rfl
            have c5 := g5.cell 5 (v := .int .i64 0) rfl
            have c6 := g5.cell 6 (v := .int .i64 0) rfl
            have c7 := g5.cell 7 (v := .int .u32 0) rfl
            have c8 := g5.cell 8 (v := .int .i32 h) rfl
            obtain ⟨R6, hR6⟩ : ∃ R, Hid (Gt ++ [a] = R) := ⟨_, Hid.mk' rfl⟩
            have hl6 : R6.length ≤ 2 * i + 1 := by rw [← hR6.out, List.length_append]; simp; omega
            go_upto_region 27 with (at_builtin; refine wpList_rune _ rfl _ _ rfl r2 q2 (Gt) rfl (b5.out.got.alloc _) _ rfl [a] (src_rune1 w5 a) (by simp; omega) R6 hR6.out ?_; intro r6 q6 w6 ho6 hg6 hat6; have b6 := Hid.mk' (b5.out.app ho6 hg6 hat6); have g6 := b5.out.keepG g5 hg6)
            clear c0 c1 c2 c3 c4 c5 c6 c7 c8
            clear g5 b5 ho6 hg6 hat6
            have c0 := g6.cell 0 (v := .int .i64 0) rfl
            have c1 := g6.cell 1 (v := .int .i64 1) rfl
            have c2 := g6.cell 2 (v := .int .i64 2) rfl
            have c3 := g6.cell 3 (v := .int .i32 a) rfl
            have c4 := g6.cell 4 (v := .int .i32 b) rfl
            have c5 := g6.cell 5 (v := .int .i64 0) rfl
            have c6 := g6.cell 6 (v := .int .i64 0) rfl
            have c7 := g6.cell 7 (v := .int .u32 0) rfl
            have c8 := g6.cell 8 (v := .int .i32 h) rfl
            obtain ⟨R7, hR7⟩ : ∃ R, Hid (R6 ++ [b] = R) := ⟨_, Hid.mk' rfl⟩
            have hl7 : R7.length ≤ 2 * i + 2 := by rw [← hR7.out, List.length_append]; simp; omega
            go_upto_region 29 with (at_builtin; refine wpList_rune _ rfl _ _ rfl r6 q6 (R6) rfl (b6.out.got.alloc _) _ rfl [b] (src_rune1 w6 b) (by simp; omega) R7 hR7.out ?_; intro r7 q7 w7 ho7 hg7 hat7; have b7 := Hid.mk' (b6.out.app ho7 hg7 hat7); have g7 := b6.out.keepG g6 hg7)
            clear c0 c1 c2 c3 c4 c5 c6 c7 c8
            clear g6 b6 ho7 hg7 hat7
            have c0 := g7.cell 0 (v := .int .i64 0) rfl
            have c1 := g7.cell 1 (v := .int .i64 1) rfl
            have c2 := g7.cell 2 (v := .int .i64 2) rfl
            have c3 := g7.cell 3 (v := .int .i32 a) rfl
            have c4 := g7.cell 4 (v := .int .i32 b) rfl
            have c5 := g7.cell 5 (v := .int .i64 0) rfl
            have c6 := g7.cell 6 (v := .int .i64 0) rfl
            have c7 := g7.cell 7 (v := .int .u32 0) rfl
            have c8 := g7.cell 8 (v := .int .i32 h) rfl
            go_wp2_with (refine wpList_storeC _ rfl 29 _ _ rfl SB (sC 0 0 0 he) (sC 0 0 0 h) infoS rfl (sC_one _ _ _ _) rfl rfl b7.out.st ?_; intro wZ SZ hgZ)
            go_roundw
            case rel => exact ⟨i + 1, R7, r7, q7, h, by omega, by go_num, rfl, (by have := hGl; omega), Hid.mk' (by rw [take_snoc hiT.out, rdF_snoc, hrd.out, hcT.out, hvv.out, hst.out]; rw [← hR7.out, ← hR6.out]; simp), Hid.mk' (by have := stp_fit hf.out v; rw [hst.out] at this; exact this), Hid.mk' (b7.out.put SZ hgZ)⟩
            case measure => simp [intOf]; omega
      · obtain rfl : i = N := by omega
        have hGW : Hid (Gt ++ pend he = W) := Hid.mk' (by
          have h1 := hrd.out
          rw [List.take_of_length_le (by have := hTN.out; omega)] at h1
          have h2 := hback.out
          rw [h1] at h2
          exact h2)
        have x0 := hb.out.st.cell 0 (v := .int .i64 0) rfl
        have x1 := hb.out.st.cell 1 (v := .int .i64 0) rfl
        have x2 := hb.out.st.cell 2 (v := .int .u32 0) rfl
        have x3 := hb.out.st.cell 3 (v := .int .i32 he) rfl
        by_cases hz : he = 0
        · subst hz
          have hGW2 : Gt = W := by have := hGW.out; simpa [pend] using this
          subst hGW2
          clear hGW hback hrd
          go_upto_region 33 with (go_at_call 13; refine (aD.out 0 0 false dr_zero _ (K.out _ _ hq.out hb.out.g)).mono ?_; rintro e w5 ⟨rfl, hg5⟩)
          have b5 := Hid.mk' (hb.out.next hg5)
          clear x0 x1 x2 x3 hg5 hb
          have hg30 := Hid.mk' b5.out.got
          have hw30 := Hid.mk' b5.out.want
          have hG30 := Hid.mk' b5.out.g
          have u1 := b5.out.got.cap_le
          have u2 := b5.out.got.cap_max
          have u3 := b5.out.want.cap_le
          have u4 := b5.out.want.cap_max
          go_wp2
          go_loopw [15] (fun t15 wy => ∃ i : Nat, i ≤ Gt.length ∧ t15 = .int .i64 (i : Int) ∧ Hid (w5.grownBy wy none)) (fun t15 _ => Gt.length - (intOf t15).toNat)
          case atStart => exact ⟨0, by omega, rfl, Hid.mk' (grownBy_refl _ _)⟩
          case round =>
            obtain ⟨i, hi, rfl, hgx⟩ := hrel
            by_cases hlt : i < Gt.length
            · obtain ⟨b1, o1, hr1, hb1, x0⟩ := rucell (hg30.out.rd.kept0 hgx.out) hlt
              obtain ⟨b2, o2, hr2, hb2, y0⟩ := rucell (hw30.out.rd.kept0 hgx.out) hlt
              subst hr1
              subst hr2
              have hlt' : (i : Int) < (Gt.length : Int) := by omega
              have hi0 : (0 : Int) ≤ (i : Int) := by omega
              generalize Gt[i] = z at x0 y0
              go_wp2
              go_quiet (fail)
              go_wp2
              go_roundw
              case rel => exact ⟨i + 1, by omega, by go_num, Hid.mk' (grownBy_trans hgx.out ⟨rfl, rfl, rfl, Nat.le_refl _, fun _ _ _ => rfl⟩)⟩
              case measure => simp [intOf]; omega
            · obtain rfl : i = Gt.length := by omega
              go_wp2
              go_ret
              exact ⟨rfl, gt hG30.out hgx.out⟩
        · have hGW2 : Gt ++ [he] = W := by have := hGW.out; rwa [pend_of hz] at this
          have hdr := Hid.mk' (dr_held hf.out hz)
          clear hGW hback hrd
          have hWG : Hid (Gt ++ [he] = W) := Hid.mk' hGW2
          clear hGW2
          go_upto_region 33 with (first
            | (go_at_call 13; refine (aD.out he he true hdr.out _ (K.out _ _ hq.out hb.out.g)).mono ?_; rintro e w5 ⟨rfl, hg5⟩; have b5 := Hid.mk' (hb.out.next hg5))
            | (at_builtin; refine wpList_rune _ rfl _ _ rfl r2 q2 Gt rfl (b5.out.got.alloc _) _ rfl [he] (src_rune1 w5 he) (by simp; omega) W hWG.out ?_; intro r6 q6 w6 ho6 hg6 hat6; have b6 := Hid.mk' (b5.out.app ho6 hg6 hat6)))
          clear x0 x1 x2 x3 hg5 hb ho6 hg6 hat6 b5
          have hg30 := Hid.mk' b6.out.got
          have hw30 := Hid.mk' b6.out.want
          have hG30 := Hid.mk' b6.out.g
          have u1 := b6.out.got.cap_le
          have u2 := b6.out.got.cap_max
          have u3 := b6.out.want.cap_le
          have u4 := b6.out.want.cap_max
          go_wp2
          go_loopw [15] (fun t15 wy => ∃ i : Nat, i ≤ W.length ∧ t15 = .int .i64 (i : Int) ∧ Hid (w6.grownBy wy none)) (fun t15 _ => W.length - (intOf t15).toNat)
          case atStart => exact ⟨0, by omega, rfl, Hid.mk' (grownBy_refl _ _)⟩
          case round =>
            obtain ⟨i, hi, rfl, hgx⟩ := hrel
            by_cases hlt : i < W.length
            · obtain ⟨b1, o1, hr1, hb1, x0⟩ := rucell (hg30.out.rd.kept0 hgx.out) hlt
              obtain ⟨b2, o2, hr2, hb2, y0⟩ := rucell (hw30.out.rd.kept0 hgx.out) hlt
              subst hr1
              subst hr2
              have hlt' : (i : Int) < (W.length : Int) := by omega
              have hi0 : (0 : Int) ≤ (i : Int) := by omega
              generalize W[i] = z at x0 y0
              go_wp2
              go_quiet (fail)
              go_wp2
              go_roundw
              case rel => exact ⟨i + 1, by omega, by go_num, Hid.mk' (grownBy_trans hgx.out ⟨rfl, rfl, rfl, Nat.le_refl _, fun _ _ _ => rfl⟩)⟩
              case measure => simp [intOf]; omega
            · obtain rfl : i = W.length := by omega
              go_wp2
              go_ret
              exact ⟨rfl, gt hG30.out hgx.out⟩
end Go.Proofs.Ytfehmbicolllkaa.C13
