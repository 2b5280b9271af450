/- The document's Text of some scalars: a walk. -/
import Derived.Test.YtliaadlanpfjbaaDoorRefSet
import Derived.Test.YtliaadlanpfjbaaDoorTab
import Derived.Test.YtliaadlanpfjbaaDoorRu
namespace Go.Proofs.YtliaadlanpfjbaaDoor.Dn
open Go.ChangeShapes Go.WideShapes Go.ChangeAt Go.RowKit Go.Maps Go.Proofs.YtliaadlanpfjbaaDoor.Mem Go.Proofs.YtliaadlanpfjbaaDoor.Ucs Go.Proofs.YtliaadlanpfjbaaDoor.Ru
open Go.Proofs.YtliaadlanpfjbaaDoor.U8 hiding Hid.mk'
set_option linter.unusedVariables false
set_option linter.unusedSimpArgs false

theorem field_bytes (e : Int) (s : ByteArray) (w : World) : (Instr.field 52 (putV e s) 1).run Tryd.prog w = .ok (.string s) w := by kernel_rfl
theorem units_small (us : List Nat) : (units us).length ≤ 4 * us.length := by
  induction us with
  | nil => simp [units_nil]
  | cons u us ih =>
    have := unit_length u
    have h2 : uk u ≤ 3 := by unfold uk; repeat' split
                             all_goals omega
    rw [units_cons, List.length_append, List.length_cons]
    omega
set_option maxRecDepth 100000 in
set_option maxHeartbeats 1000000 in
theorem refText_any (ro : Option Addr) (rc : Nat) (us : List Nat) (hsc : Sc us) (n : Nat) (hn : us.length = n) (hnm : n ≤ 100000) (w : World) (hR : RuE.Rd w ro (ints us)) (hc : n ≤ rc) (hcm : rc ≤ 9223372036854775807) (S : ByteArray) (hS : Hid (str (units us) = S)) :
    Calls Tryd.prog 7 #[.slice ro n rc] w fun e w' => e = .returned (.string S) ∧ w.grownBy w' none := by
  have hR0 := Hid.mk' hR
  have hn0 := Hid.mk' hn
  have hsc0 := Hid.mk' hsc
  clear hR hn hsc
  go_enter Tryd.func7, Tryd.ntmps7
  go_wp2
  go_loopw [3, 4] (fun t3 t4 wx => ∃ (i : Nat) (s : ByteArray), i ≤ n ∧ t4 = .int .i64 (i : Int) ∧ t3 = .string s ∧ Hid (str (units (us.take i)) = s) ∧ Hid (w.grownBy wx none)) (fun _ t4 _ => n - (intOf t4).toNat)
  case atStart => exact ⟨0, ⟨#[]⟩, by omega, rfl, rfl, Hid.mk' rfl, Hid.mk' (grownBy_refl _ _)⟩
  case round =>
    obtain ⟨i, s, hi, rfl, rfl, hs, hG⟩ := hrel
    by_cases hlt : i < n
    · have hiL : i < us.length := by rw [hn0.out]; exact hlt
      obtain ⟨u, hu⟩ : ∃ u, Hid (us[i] = u) := ⟨_, Hid.mk' rfl⟩
      have hiI : i < (ints us).length := by rw [ints, List.length_map]; exact hiL
      obtain ⟨b, o, rfl, hb, x0⟩ := rucell (hR0.out.kept0 hG.out) hiI
      have e0 : (ints us)[i] = (u : Int) := by simp only [ints, List.getElem_map, hu.out]
      rw [e0] at x0
      obtain ⟨x, hx⟩ : ∃ x, Hid (str (unit u) = x) := ⟨_, Hid.mk' rfl⟩
      have a1 := Hid.mk' (fun w => refset_some u w (hsc0.out u (by rw [← hu.out]; exact List.getElem_mem hiL)))
      rw [hx.out] at a1
      have f1 := field_bytes 0 x
      have hs2 : Hid (str (units (us.take (i + 1))) = s ++ x) := Hid.mk' (by rw [List.take_succ_eq_append_getElem hiL, hu.out, units_append, ← hs.out, ← hx.out, str_append]; simp [units])
      have hlt' : (i : Int) < (n : Int) := by omega
      have hi0 : (0 : Int) ≤ (i : Int) := by omega
      have hss : s.size ≤ 400000 := by
        rw [← hs.out, str_size]
        have h1 := units_small (us.take i)
        rw [List.length_take] at h1
        omega
      have hxs : x.size ≤ 4 := by
        rw [← hx.out, str_size]
        have h1 := units_small [u]
        rw [units_cons, units_nil, List.append_nil] at h1
        exact h1
      generalize putV 0 x = pv at *
      clear e0 hu hiI hiL
      go_wp2_with (go_at_call 16; refine (a1.out _).mono ?_; rintro e w1 ⟨rfl, hg1⟩)
      go_roundw
      case rel => exact ⟨i + 1, s ++ x, by omega, by go_num, rfl, hs2, Hid.mk' (grownBy_trans hG.out hg1)⟩
      case measure => simp [intOf]; omega
    · obtain rfl : i = n := by omega
      have : Hid (s = S) := Hid.mk' (by rw [← hs.out, List.take_of_length_le (by rw [hn0.out]; exact Nat.le_refl _), hS.out])
      have := this.out
      subst this
      go_wp2
      go_ret
      exact ⟨rfl, hG.out⟩
end Go.Proofs.YtliaadlanpfjbaaDoor.Dn
