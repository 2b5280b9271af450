/- JohabSyllables: the walk. -/
import Derived.Test.YtdphkpjamclhjaaJX19
import Derived.Test.YtdphkpjamclhjaaCw
import Derived.Test.YtdphkpjamclhjaaConvApp
import Derived.BigQuiet
namespace Go.Proofs.Ytdphkpjamclhjaa.C19
open Go.ChangeShapes Go.WideShapes Go.ChangeAt Go.RowKit Go.Proofs.Ytdphkpjamclhjaa.Mem Go.Proofs.Ytdphkpjamclhjaa.Cb Go.Proofs.Ytdphkpjamclhjaa.Sp
set_option linter.unusedVariables false
set_option linter.unusedSimpArgs false

theorem sE_syl {n : Nat} (hn : n ≤ 11171) : sE ((n : Int) + 44032) = (0, [b8 (cdN n / 256), b8 (cdN n % 256)]) := by
  unfold sE
  rw [if_neg (by omega), if_neg (by omega), if_pos (by unfold C16.InS; omega), show ((n : Int) + 44032 - 44032).toNat = n by omega]
set_option maxRecDepth 100000 in
set_option maxHeartbeats 4000000 in
theorem syl_walk {P : World → Prop} (C : Con P) (a : Int) (w : World) (hw : P w) : Calls Try.prog 7 #[.int .i64 a] w fun e w' => e = .returned (.bool true) ∧ w.grownBy w' none := by
  obtain ⟨r, hr, hr19⟩ := mod_fit a 19 (by omega) (by omega)
  replace hr : wrap64 ((IntKind.u64.wrap a).tmod 19) = (r : Int) := hr
  have a0 := Hid.mk' (fun w hw => works_any C w hw)
  have K := Hid.mk' (fun (a b : World) (h : P a) (g : a.grownBy b none) => C.keep h g)
  have hq := Hid.mk' hw
  have hC := Hid.mk' C
  clear hw C
  go_enter Try.func7, Try.ntmps7
  go_upto_region 4 with (go_at_call 17; refine (a0.out _ hq.out).mono ?_; rintro e w1 ⟨rfl, hg1, hp1⟩; have hq1 := Hid.mk' hp1; have hG1 := Hid.mk' hg1)
  rw [hr]
  clear hg1 hp1 a0 hq hr
  obtain ⟨R0, hR0⟩ : ∃ q : Nat, (r : Int) * 588 = (q : Int) := ⟨r * 588, by omega⟩
  obtain ⟨R1, hR1⟩ : ∃ q : Nat, 44032 + (R0 : Int) = (q : Int) := ⟨44032 + R0, by omega⟩
  have hRN : Hid (r * 588 = R0) := Hid.mk' (by omega)
  have hb0 : (R0 : Int) ≤ 10584 := by omega
  have hb1 : (R1 : Int) ≤ 54616 := by omega
  go_wp2
  go_loopw [3, 4] (fun t3 t4 wx => ∃ (i q : Nat), i ≤ 588 ∧ t4 = .int .i64 (i : Int) ∧ t3 = .int .i64 (q : Int) ∧ Hid ((i = 0 ∧ q = 0) ∨ (0 < i ∧ q = cdN (r * 588 + (i - 1)))) ∧ Hid (w.grownBy wx none) ∧ Hid (P wx)) (fun _ t4 _ => 588 - (intOf t4).toNat)
  case atStart => exact ⟨0, 0, by omega, rfl, rfl, Hid.mk' (.inl ⟨rfl, rfl⟩), hG1, hq1⟩
  case round =>
    obtain ⟨i, q, hi, rfl, rfl, hl, hG, hp⟩ := hrel
    by_cases hlt : i < 588
    · have hlt' : (i : Int) < 588 := by omega
      obtain ⟨U, hU⟩ : ∃ U : Nat, (R1 : Int) + (i : Int) = (U : Int) := ⟨R1 + i, by omega⟩
      have hUb : (U : Int) ≤ 55203 := by omega
      have hUw : IntKind.i32.wrap (U : Int) = (U : Int) := by rw [IntKind.wrap_i32]; omega
      have hn : r * 588 + i ≤ 11171 := by omega
      have hUn : (U : Int) = ((r * 588 + i : Nat) : Int) + 44032 := by have := hRN.out; omega
      have hS : sE (U : Int) = (0, [b8 (cdN (r * 588 + i) / 256), b8 (cdN (r * 588 + i) % 256)]) := by rw [hUn]; exact sE_syl hn
      have k1 := (cdN_is hn).1
      have k2 := (cdN_is hn).2.1
      have hrise : q < cdN (r * 588 + i) := by
        rcases hl.out with ⟨_, h⟩ | ⟨h1, h⟩
        · omega
        · rw [h]
          have := cdN_rise (f := r) (i := i - 1) (by omega) (by omega)
          rwa [show i - 1 + 1 = i by omega] at this
      obtain ⟨cd, hcd⟩ : ∃ cd, Hid (cdN (r * 588 + i) = cd) := ⟨_, Hid.mk' rfl⟩
      rw [hcd.out] at hS k1 k2 hrise
      obtain ⟨x, hx⟩ : ∃ x, cd / 256 = x := ⟨_, rfl⟩
      obtain ⟨y, hy⟩ : ∃ y, cd % 256 = y := ⟨_, rfl⟩
      rw [hx, hy] at hS
      have hx2 : x < 256 := by omega
      have hy2 : y < 256 := by omega
      have b1 := hC.out.put (U : Int) (by unfold I32; omega) _ _ hS
      have hback := back_plain hS []
      rw [List.append_nil] at hback
      have b2 : Hid (∀ ao cap w, Bytes w ao [b8 x, b8 y] → 2 ≤ cap → cap ≤ 9223372036854775807 → P w → Calls Try.prog 9 #[.slice ao 2 cap] w fun e w' => e = .returned (gV 0 2 1 (U : Int)) ∧ w.grownBy w' none) := Hid.mk' (fun ao cap w h1 h2 h3 h4 => (hC.out.got _ _ _ _ _ hback).out 2 rfl ao cap w h1 h2 h3 h4)
      have hsz : (str [b8 x, b8 y]).size = 2 := str_size _
      have hsd : Hid ((str [b8 x, b8 y]).data.toList = [b8 x, b8 y]) := Hid.mk' (str_data _)
      have j0 := index_of (L := [b8 x, b8 y]) (i := 0) (c := b8 x) rfl
      have j1 := index_of (L := [b8 x, b8 y]) (i := 1) (c := b8 y) rfl
      rw [b8_nat hx2] at j0
      rw [b8_nat hy2] at j1
      simp only [Int.natCast_zero, Int.natCast_one, Int.cast_ofNat_Int, Int.ofNat_eq_natCast] at j0 j1
      generalize str [b8 x, b8 y] = s at *
      obtain ⟨X, hX⟩ : ∃ X : Nat, (x : Int) * 256 = (X : Int) := ⟨x * 256, by omega⟩
      have hXY : (X : Int) + (y : Int) = (cd : Int) := by omega
      have v1 : IntKind.i64.wrap (x : Int) = (x : Int) := by rw [IntKind.wrap_i64]; omega
      have v2 : IntKind.i64.wrap (y : Int) = (y : Int) := by rw [IntKind.wrap_i64]; omega
      have v3 : IntKind.i64.wrap (X : Int) = (X : Int) := by rw [IntKind.wrap_i64]; omega
      have v4 : IntKind.i64.wrap (cd : Int) = (cd : Int) := by rw [IntKind.wrap_i64]; omega
      have hle : ¬ (cd : Int) ≤ (q : Int) := by omega
      have hUU : ((U : Int) != (U : Int)) = false := by simp
      have hcdH := Hid.mk' hcd.out
      have hsz0 := Hid.mk' hsz
      clear hS hback hUn hx hy k1 k2 hrise hl hn
      go_upto_region 10 with (first
        | (go_at_call 11; refine (b1.out _ hp.out).mono ?_; rintro e w3 ⟨rfl, hg3⟩)
        | (refine wpList_allocC _ rfl 32 rfl (pZ 0 ⟨#[]⟩) (zeroP _) ?_; intro w4 p4 hg4)
        | (refine wpList_storeC _ rfl 32 _ _ rfl _ (pZ 0 ⟨#[]⟩) (pZ 0 s) infoP rfl (pC_one _ _ _ _ _ _) rfl rfl p4 ?_; intro w5 p5 hg5))
      have hG5 : Hid (wr.grownBy w5 none) := Hid.mk' (grownBy_new (gt hg3 hg4) hg5 (fun k hk => by have h5 := Option.some.inj hk; have h6 := hg3.size; omega))
      clear hg3 hg4 hg5 p4 b1
      generalize w3.heap.size = PB at *
      have y0 := p5.cell 0 (v := .int .i64 0) rfl
      have y1 := p5.cell 1 (v := .string s) rfl
      go_upto_region 12 with (fail)
      go_quiet (fail)
      clear y0 y1
      have hGq : Hid (w5.grownBy (w5.drewN nq) none) := Hid.mk' (grownBy_drewN _ _)
      have p6 := p5.kept0 hGq.out
      have hG6 : Hid (wr.grownBy (w5.drewN nq) none) := Hid.mk' (gt hG5.out hGq.out)
      clear p5 hG5 hGq
      generalize w5.drewN nq = w6 at *
      have y0 := p6.cell 0 (v := .int .i64 0) rfl
      have y1 := p6.cell 1 (v := .string s) rfl
      obtain ⟨c7, w7, hcvt, hE7, hg7⟩ := conv_own (P := Try.prog) w6 9 22 s Try.underlying9 Try.underlying22 Try.underlying5 (by have := hsz0.out; omega)
      rw [hsd.out] at hcvt hE7
      have hB7 := Hid.mk' hE7.bytes
      obtain ⟨hq71, hq72⟩ : 2 ≤ c7 ∧ c7 ≤ 9223372036854775807 := by
        obtain ⟨_, _, _, _, h1, h2, _, _⟩ := hE7
        simp only [maxLen] at h2
        exact ⟨h1, by omega⟩
      replace hcvt : (convert 9 22 (.string s)).run Try.prog w6 = .ok (.slice (some ⟨w6.heap.size, 0, none⟩) 2 c7) w7 := hcvt
      have hp7 := Hid.mk' (K.out _ _ hp.out (gt hG6.out hg7))
      clear hE7
      go_wp2_with (go_at_call 9; refine (b2.out _ c7 _ hB7.out hq71 hq72 hp7.out).mono ?_; rintro e w8 ⟨rfl, hg8⟩)
      go_roundw
      case rel => exact ⟨i + 1, cd, by omega, by go_num, rfl, Hid.mk' (.inr ⟨by omega, by rw [← hcdH.out]; rfl⟩), Hid.mk' (gt hG.out (gt (gt hG6.out hg7) hg8)), Hid.mk' (K.out _ _ hp7.out hg8)⟩
      all_goals (simp [intOf]; omega)
    · obtain rfl : i = 588 := by omega
      go_wp2_with fail
      go_ret
      exact ⟨rfl, hG.out⟩
end Go.Proofs.Ytdphkpjamclhjaa.C19
