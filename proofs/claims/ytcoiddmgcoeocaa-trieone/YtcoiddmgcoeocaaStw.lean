/- The stable sort's own walk. -/
import Derived.Test.YtcoiddmgcoeocaaStb
namespace Go.Proofs.Ytcoiddmgcoeocaa.Tr
open Go.ChangeShapes Go.WideShapes Go.ChangeAt Go.RowKit Go.Maps Go.Proofs.Ytcoiddmgcoeocaa.Mem Go.Proofs.Ytcoiddmgcoeocaa.El Go.Sort
set_option linter.unusedVariables false
set_option linter.unusedSimpArgs false

set_option maxRecDepth 100000 in
set_option maxHeartbeats 4000000 in
theorem stable_any (g N : Nat) (L : List Pr) (w0 w : World) (h : SW w0 g L w) (hN : L.length = N) (hN2 : N ≤ 65536) (hst : St L) :
    Calls Try.prog 49 #[.slice (some ⟨g, 0, none⟩) N N, .int .i64 (N : Int), .func (.func 40) #[] #[]] w fun e w' => e = .returned (.tuple #[]) ∧ ∃ D, SW w0 g D w' ∧ D.Perm L ∧ SL D := by
  have h0 : Hid (SK w0 g L L N w) := Hid.mk' ⟨h, hN, List.Perm.refl _, hst⟩
  clear h hN hst
  have hN7 : N ≤ 70000 := by omega
  go_enter Try.func49, Try.ntmps49
  go_wp2_with fail
  go_loopw [7, 8] (fun t7 t8 wx => ∃ (a b : Nat) (D : List Pr), a ≤ N ∧ a + 20 = b ∧ t7 = .int .i64 (a : Int) ∧ t8 = .int .i64 (b : Int) ∧ Hid (SK w0 g L D N wx) ∧ Hid (First D a)) (fun t7 _ _ => N - (intOf t7).toNat)
  case atStart => exact ⟨0, 20, L, by omega, rfl, rfl, rfl, h0, Hid.mk' (first_start L)⟩
  case round =>
    obtain ⟨a, b, D, haN, hab, rfl, rfl, hK, hF⟩ := hrel
    clear h0
    by_cases hb : b ≤ N
    · have hb' : (b : Int) ≤ (N : Int) := by omega
      have hab' : a ≤ b := by omega
      go_wp2_with (go_at_call 53; refine (hK.out.ins hab' hb hN7).mono ?_; rintro e w1 ⟨rfl, Z, hz1, hz2, hk1⟩)
      go_roundw
      case rel => exact ⟨b, b + 20, _, hb, rfl, rfl, by go_num, Hid.mk' hk1, Hid.mk' (by have := first_step hF.out (by rw [hK.out.len]; omega) (Z := Z) (by omega) hz2; rwa [hab] at this)⟩
      case measure => simp [intOf]; omega
    · have hb' : ¬ (b : Int) ≤ (N : Int) := by omega
      have hlen := Hid.mk' hK.out.len
      go_wp2_with (go_at_call 53; refine (hK.out.ins haN (Nat.le_refl N) hN7).mono ?_; rintro e w1 ⟨rfl, Z, hz1, hz2, hk1⟩)
      have hC : Hid (Chunks (D.take a ++ Z ++ D.drop N) 20) := Hid.mk' (by have := first_end hF.out (by rw [hlen.out]; exact haN) (by rw [hlen.out]; omega) (Z := Z) (by rw [hlen.out]; exact hz1) hz2; rwa [hlen.out] at this)
      have hK1 := Hid.mk' hk1
      clear hk1 hK hF hz1 hz2 hlen
      generalize D.take a ++ Z ++ D.drop N = D1 at *
      go_loopw [6] (fun t6 wx => ∃ (bs : Nat) (D : List Pr), 20 ≤ bs ∧ bs ≤ 140000 ∧ t6 = .int .i64 (bs : Int) ∧ Hid (SK w0 g L D N wx) ∧ Hid (Chunks D bs)) (fun t6 _ => N - (intOf t6).toNat)
      case atStart => exact ⟨20, D1, by omega, by omega, rfl, hK1, hC⟩
      case round =>
        obtain ⟨bs, D2, hbs, hbs2, rfl, hK2, hC2⟩ := hrel
        clear hK1 hC
        by_cases hlt : bs < N
        · have hlt' : (bs : Int) < (N : Int) := by omega
          obtain ⟨bb, hbb⟩ : ∃ bb, 2 * bs = bb := ⟨_, rfl⟩
          have hbb' : 2 * (bs : Int) = (bb : Int) := by omega
          have hbb2 : (bs : Int) * 2 = (bb : Int) := by omega
          have hbp : 0 < bs := by omega
          go_wp2_with fail
          go_loopw [7, 8] (fun t7 t8 wx => ∃ (a b : Nat) (D : List Pr), a ≤ N ∧ a + bb = b ∧ t7 = .int .i64 (a : Int) ∧ t8 = .int .i64 (b : Int) ∧ Hid (SK w0 g L D N wx) ∧ Hid (Half D bs a)) (fun t7 _ _ => N - (intOf t7).toNat)
          case atStart => exact ⟨0, bb, D2, by omega, by omega, rfl, by go_num, hK2, Hid.mk' (half_start hC2.out hbp)⟩
          case round =>
            obtain ⟨a1, b1, D3, ha1, hb1, rfl, rfl, hK3, hH⟩ := hrel
            clear hK2 hC2
            obtain ⟨m, hm⟩ : ∃ m, a1 + bs = m := ⟨_, rfl⟩
            have hm' : (a1 : Int) + (bs : Int) = (m : Int) := by omega
            have s1 := Hid.mk' (half_first hH.out).1
            have s2 := Hid.mk' (half_first hH.out).2
            rw [hm, hbb, hb1] at s2
            rw [hm] at s1
            have ham : a1 < m := by omega
            have hmb : m < b1 := by omega
            have hlen := Hid.mk' hK3.out.len
            by_cases hbN : b1 ≤ N
            · have hbN' : (b1 : Int) ≤ (N : Int) := by omega
              go_wp2_with (go_at_call 54; refine (hK3.out.sym ham hmb hbN hN7 s1.out s2.out).mono ?_; rintro e w1 ⟨rfl, Z1, hz1, hz2, hk1⟩)
              go_roundw
              case rel => exact ⟨b1, b1 + bb, _, hbN, rfl, rfl, by go_num, Hid.mk' hk1, Hid.mk' (by have := half_step hbp hH.out (by rw [hlen.out]; omega) (Z := Z1) (by omega) hz2; rwa [hbb, hb1] at this)⟩
              case measure => simp [intOf]; omega
            · have hbN' : ¬ (b1 : Int) ≤ (N : Int) := by omega
              by_cases hmN : m < N
              · have hmN' : (m : Int) < (N : Int) := by omega
                have s3 := Hid.mk' (si_mono s2.out (Nat.le_refl m) (show N ≤ b1 by omega))
                go_wp2_with (go_at_call 54; refine (hK3.out.sym ham hmN (Nat.le_refl N) hN7 s1.out s3.out).mono ?_; rintro e w1 ⟨rfl, Z1, hz1, hz2, hk1⟩)
                go_roundw
                case rel => exact ⟨bb, _, by omega, by omega, by go_num, Hid.mk' hk1, Hid.mk' (by have := half_end hbp hH.out (by rw [hlen.out]; exact ha1) (by rw [hlen.out]; omega) (Z := Z1) (by rw [hlen.out]; exact hz1) hz2; rwa [hlen.out, hbb] at this)⟩
                case measure => simp [intOf]; omega
              · have hmN' : ¬ (m : Int) < (N : Int) := by omega
                go_wp2_with fail
                go_roundw
                case rel => exact ⟨bb, D3, by omega, by omega, by go_num, hK3, Hid.mk' (by have := half_end0 hbp hH.out (by rw [hlen.out]; omega); rwa [hbb] at this)⟩
                case measure => simp [intOf]; omega
        · have hlt' : ¬ (bs : Int) < (N : Int) := by omega
          go_wp2_with fail
          go_end0
          exact ⟨rfl, D2, hK2.out.sw, hK2.out.perm, chunks_all hC2.out (by rw [hK2.out.len]; omega)⟩
set_option maxRecDepth 100000 in
set_option maxHeartbeats 1000000 in
theorem sortStable_any (g N : Nat) (L : List Pr) (w0 w : World) (h : SW w0 g L w) (hN : L.length = N) (hN2 : N ≤ 65536) (hst : St L) :
    Calls Try.prog 39 #[.slice (some ⟨g, 0, none⟩) N N, .func (.func 40) #[] #[]] w fun e w' => e = .returned (.tuple #[]) ∧ ∃ D, SW w0 g D w' ∧ D.Perm L ∧ SL D := by
  have hS := Hid.mk' (stable_any g N L w0 w h hN hN2 hst)
  clear h hN hst
  go_enter Try.func39, Try.ntmps39
  go_wp2_with (go_at_call 49; refine hS.out.mono ?_; rintro e w1 ⟨rfl, D, r1, r2, r3⟩)
  go_end0
  exact ⟨rfl, D, r1, r2, r3⟩
end Go.Proofs.Ytcoiddmgcoeocaa.Tr
