/- For all numbers u and v that are Go runes, ucs.Join undoes ucs.Split, ucs.Split undoes ucs.Join, ucs.Parse reads what ucs.Hex writes, and a number is a scalar, a high or a low surrogate, or none, never two of these; no condition. -/
import Derived.Test.YtdidchcinfbggaaRows
import Derived.WalkKit
import Derived.ProofKit
import Derived.OpenShut
import Derived.ShutString
import Derived.Test.YtdidchcinfbggaaWorks
import Derived.Test.YtdidchcinfbggaaAgain
namespace Go.Proofs.Ytdidchcinfbggaa.ucsBack
open Go.ChangeShapes Go.WideShapes Go.ChangeAt Go.RowKit
open Go.ChangeMaps (open_string shut_string)
set_option linter.unusedVariables false

theorem own : ownKnob Try.prog.godebug = none := by kernel_rfl

set_option maxHeartbeats 4000000 in
theorem walk (a0 : Int) (a1 : Int) (w0 : (Lit.int .i32 a0).wf = true) (w1 : (Lit.int .i32 a1).wf = true) (w : World) :
    Calls Try.prog 5 #[.int .i32 a0, .int .i32 a1] w fun e w' => e = .returned (.bool true) ∧ Grown w w' := by
  by_cases c0 : a0 < 0
  · have s := Ucs.scB_neg (u := a0) (by omega)
    have hi := Ucs.hiB_neg (u := a0) (by omega)
    have lo := Ucs.loB_neg (u := a0) (by omega)
    have sp := (Ucs.split_no (u := a0) (by omega)).1
    have jn := (Ucs.join_no (a := a0) (b := a1) (.inl hi)).1
    go_enter Try.func5, Try.ntmps5
    go_wp2_with (first | (go_at_call 24; refine (Ucs.works_any _).mono ?_; rintro e w' ⟨rfl, rfl⟩) | (go_at_call 20; refine (Ucs.split_any _ _).mono ?_; rintro e w' ⟨rfl, rfl⟩) | (go_at_call 18; refine (Ucs.join_any _ _ _).mono ?_; rintro e w' ⟨rfl, rfl⟩) | (go_at_call 8; refine (Ucs.scalar_any _ _).mono ?_; rintro e w' ⟨rfl, rfl⟩) | (go_at_call 10; refine (Ucs.plane_any _ _).mono ?_; rintro e w' ⟨rfl, rfl⟩) | (go_at_call 12; refine (Ucs.high_any _ _).mono ?_; rintro e w' ⟨rfl, rfl⟩) | (go_at_call 14; refine (Ucs.low_any _ _).mono ?_; rintro e w' ⟨rfl, rfl⟩) | (go_at_call 16; refine (Ucs.hex_any _ _).mono ?_; rintro e w' ⟨rfl, rfl⟩) | (go_at_call 22; refine (Ucs.parse_hex _ _).mono ?_; rintro e w1 ⟨rfl, hG⟩))
    go_ret
    exact ⟨rfl, hG⟩
  by_cases c1 : a0 < 55296
  · have cM : a0 ≤ 1114111 := by omega
    have s := Ucs.scB_pos (u := a0) (by omega) (by omega) (by omega)
    have hi := Ucs.hiB_neg (u := a0) (by omega)
    have lo := Ucs.loB_neg (u := a0) (by omega)
    have sp := (Ucs.split_no (u := a0) (by omega)).1
    have jn := (Ucs.join_no (a := a0) (b := a1) (.inl hi)).1
    have ag : Ucs.again a0 = a0 := by simp [Ucs.again, s]
    have z0 := Ucs.hex_size s
    have z1 := Ucs.cnt_ge a0
    have z2 := Ucs.cnt_le a0
    go_enter Try.func5, Try.ntmps5
    go_wp2_with (first | (go_at_call 24; refine (Ucs.works_any _).mono ?_; rintro e w' ⟨rfl, rfl⟩) | (go_at_call 20; refine (Ucs.split_any _ _).mono ?_; rintro e w' ⟨rfl, rfl⟩) | (go_at_call 18; refine (Ucs.join_any _ _ _).mono ?_; rintro e w' ⟨rfl, rfl⟩) | (go_at_call 8; refine (Ucs.scalar_any _ _).mono ?_; rintro e w' ⟨rfl, rfl⟩) | (go_at_call 10; refine (Ucs.plane_any _ _).mono ?_; rintro e w' ⟨rfl, rfl⟩) | (go_at_call 12; refine (Ucs.high_any _ _).mono ?_; rintro e w' ⟨rfl, rfl⟩) | (go_at_call 14; refine (Ucs.low_any _ _).mono ?_; rintro e w' ⟨rfl, rfl⟩) | (go_at_call 16; refine (Ucs.hex_any _ _).mono ?_; rintro e w' ⟨rfl, rfl⟩) | (go_at_call 22; refine (Ucs.parse_hex _ _).mono ?_; rintro e w1 ⟨rfl, hG⟩))
    go_ret
    exact ⟨rfl, hG⟩
  by_cases c2 : a0 ≤ 56319
  · have cM : a0 ≤ 1114111 := by omega
    have s := Ucs.scB_neg (u := a0) (by omega)
    have hi := Ucs.hiB_pos (u := a0) (by omega) (by omega)
    have lo := Ucs.loB_neg (u := a0) (by omega)
    have sp := (Ucs.split_no (u := a0) (by omega)).1
    cases lv : Ucs.loB a1
    · have jn := (Ucs.join_no (a := a0) (b := a1) (.inr lv)).1
      go_enter Try.func5, Try.ntmps5
      go_wp2_with (first | (go_at_call 24; refine (Ucs.works_any _).mono ?_; rintro e w' ⟨rfl, rfl⟩) | (go_at_call 20; refine (Ucs.split_any _ _).mono ?_; rintro e w' ⟨rfl, rfl⟩) | (go_at_call 18; refine (Ucs.join_any _ _ _).mono ?_; rintro e w' ⟨rfl, rfl⟩) | (go_at_call 8; refine (Ucs.scalar_any _ _).mono ?_; rintro e w' ⟨rfl, rfl⟩) | (go_at_call 10; refine (Ucs.plane_any _ _).mono ?_; rintro e w' ⟨rfl, rfl⟩) | (go_at_call 12; refine (Ucs.high_any _ _).mono ?_; rintro e w' ⟨rfl, rfl⟩) | (go_at_call 14; refine (Ucs.low_any _ _).mono ?_; rintro e w' ⟨rfl, rfl⟩) | (go_at_call 16; refine (Ucs.hex_any _ _).mono ?_; rintro e w' ⟨rfl, rfl⟩) | (go_at_call 22; refine (Ucs.parse_hex _ _).mono ?_; rintro e w1 ⟨rfl, hG⟩))
      go_ret
      exact ⟨rfl, hG⟩
    · have jn := (Ucs.join_yes (a := a0) (b := a1) hi lv).1
      obtain ⟨k1, k2, k3, k4⟩ := Ucs.join_split hi lv
      go_enter Try.func5, Try.ntmps5
      go_wp2_with (first | (go_at_call 24; refine (Ucs.works_any _).mono ?_; rintro e w' ⟨rfl, rfl⟩) | (go_at_call 20; refine (Ucs.split_any _ _).mono ?_; rintro e w' ⟨rfl, rfl⟩) | (go_at_call 18; refine (Ucs.join_any _ _ _).mono ?_; rintro e w' ⟨rfl, rfl⟩) | (go_at_call 8; refine (Ucs.scalar_any _ _).mono ?_; rintro e w' ⟨rfl, rfl⟩) | (go_at_call 10; refine (Ucs.plane_any _ _).mono ?_; rintro e w' ⟨rfl, rfl⟩) | (go_at_call 12; refine (Ucs.high_any _ _).mono ?_; rintro e w' ⟨rfl, rfl⟩) | (go_at_call 14; refine (Ucs.low_any _ _).mono ?_; rintro e w' ⟨rfl, rfl⟩) | (go_at_call 16; refine (Ucs.hex_any _ _).mono ?_; rintro e w' ⟨rfl, rfl⟩) | (go_at_call 22; refine (Ucs.parse_hex _ _).mono ?_; rintro e w1 ⟨rfl, hG⟩))
      go_ret
      exact ⟨rfl, hG⟩
  by_cases c3 : a0 ≤ 57343
  · have cM : a0 ≤ 1114111 := by omega
    have s := Ucs.scB_neg (u := a0) (by omega)
    have hi := Ucs.hiB_neg (u := a0) (by omega)
    have lo := Ucs.loB_pos (u := a0) (by omega) (by omega)
    have sp := (Ucs.split_no (u := a0) (by omega)).1
    have jn := (Ucs.join_no (a := a0) (b := a1) (.inl hi)).1
    go_enter Try.func5, Try.ntmps5
    go_wp2_with (first | (go_at_call 24; refine (Ucs.works_any _).mono ?_; rintro e w' ⟨rfl, rfl⟩) | (go_at_call 20; refine (Ucs.split_any _ _).mono ?_; rintro e w' ⟨rfl, rfl⟩) | (go_at_call 18; refine (Ucs.join_any _ _ _).mono ?_; rintro e w' ⟨rfl, rfl⟩) | (go_at_call 8; refine (Ucs.scalar_any _ _).mono ?_; rintro e w' ⟨rfl, rfl⟩) | (go_at_call 10; refine (Ucs.plane_any _ _).mono ?_; rintro e w' ⟨rfl, rfl⟩) | (go_at_call 12; refine (Ucs.high_any _ _).mono ?_; rintro e w' ⟨rfl, rfl⟩) | (go_at_call 14; refine (Ucs.low_any _ _).mono ?_; rintro e w' ⟨rfl, rfl⟩) | (go_at_call 16; refine (Ucs.hex_any _ _).mono ?_; rintro e w' ⟨rfl, rfl⟩) | (go_at_call 22; refine (Ucs.parse_hex _ _).mono ?_; rintro e w1 ⟨rfl, hG⟩))
    go_ret
    exact ⟨rfl, hG⟩
  by_cases c4 : 1114111 < a0
  · have cM : decide (a0 ≤ 1114111) = false := by simp; omega
    have s := Ucs.scB_neg (u := a0) (by omega)
    have hi := Ucs.hiB_neg (u := a0) (by omega)
    have lo := Ucs.loB_neg (u := a0) (by omega)
    have sp := (Ucs.split_no (u := a0) (by omega)).1
    have jn := (Ucs.join_no (a := a0) (b := a1) (.inl hi)).1
    go_enter Try.func5, Try.ntmps5
    go_wp2_with (first | (go_at_call 24; refine (Ucs.works_any _).mono ?_; rintro e w' ⟨rfl, rfl⟩) | (go_at_call 20; refine (Ucs.split_any _ _).mono ?_; rintro e w' ⟨rfl, rfl⟩) | (go_at_call 18; refine (Ucs.join_any _ _ _).mono ?_; rintro e w' ⟨rfl, rfl⟩) | (go_at_call 8; refine (Ucs.scalar_any _ _).mono ?_; rintro e w' ⟨rfl, rfl⟩) | (go_at_call 10; refine (Ucs.plane_any _ _).mono ?_; rintro e w' ⟨rfl, rfl⟩) | (go_at_call 12; refine (Ucs.high_any _ _).mono ?_; rintro e w' ⟨rfl, rfl⟩) | (go_at_call 14; refine (Ucs.low_any _ _).mono ?_; rintro e w' ⟨rfl, rfl⟩) | (go_at_call 16; refine (Ucs.hex_any _ _).mono ?_; rintro e w' ⟨rfl, rfl⟩) | (go_at_call 22; refine (Ucs.parse_hex _ _).mono ?_; rintro e w1 ⟨rfl, hG⟩))
    go_ret
    exact ⟨rfl, hG⟩
  have cM : a0 ≤ 1114111 := by omega
  have s := Ucs.scB_pos (u := a0) (by omega) (by omega) (by omega)
  have hi := Ucs.hiB_neg (u := a0) (by omega)
  have lo := Ucs.loB_neg (u := a0) (by omega)
  have jn := (Ucs.join_no (a := a0) (b := a1) (.inl hi)).1
  have ag : Ucs.again a0 = a0 := by simp [Ucs.again, s]
  have z0 := Ucs.hex_size s
  have z1 := Ucs.cnt_ge a0
  have z2 := Ucs.cnt_le a0
  by_cases c5 : a0 < 65536
  · have sp := (Ucs.split_no (u := a0) (by omega)).1
    go_enter Try.func5, Try.ntmps5
    go_wp2_with (first | (go_at_call 24; refine (Ucs.works_any _).mono ?_; rintro e w' ⟨rfl, rfl⟩) | (go_at_call 20; refine (Ucs.split_any _ _).mono ?_; rintro e w' ⟨rfl, rfl⟩) | (go_at_call 18; refine (Ucs.join_any _ _ _).mono ?_; rintro e w' ⟨rfl, rfl⟩) | (go_at_call 8; refine (Ucs.scalar_any _ _).mono ?_; rintro e w' ⟨rfl, rfl⟩) | (go_at_call 10; refine (Ucs.plane_any _ _).mono ?_; rintro e w' ⟨rfl, rfl⟩) | (go_at_call 12; refine (Ucs.high_any _ _).mono ?_; rintro e w' ⟨rfl, rfl⟩) | (go_at_call 14; refine (Ucs.low_any _ _).mono ?_; rintro e w' ⟨rfl, rfl⟩) | (go_at_call 16; refine (Ucs.hex_any _ _).mono ?_; rintro e w' ⟨rfl, rfl⟩) | (go_at_call 22; refine (Ucs.parse_hex _ _).mono ?_; rintro e w1 ⟨rfl, hG⟩))
    go_ret
    exact ⟨rfl, hG⟩
  · have sp := (Ucs.split_yes (u := a0) (by omega) (by omega)).1
    obtain ⟨k1, k2, k3, k4⟩ := Ucs.split_join (u := a0) (by omega) (by omega)
    have pl : 1 ≤ Ucs.plane a0 := by simp only [Ucs.plane, s, if_true]; omega
    go_enter Try.func5, Try.ntmps5
    go_wp2_with (first | (go_at_call 24; refine (Ucs.works_any _).mono ?_; rintro e w' ⟨rfl, rfl⟩) | (go_at_call 20; refine (Ucs.split_any _ _).mono ?_; rintro e w' ⟨rfl, rfl⟩) | (go_at_call 18; refine (Ucs.join_any _ _ _).mono ?_; rintro e w' ⟨rfl, rfl⟩) | (go_at_call 8; refine (Ucs.scalar_any _ _).mono ?_; rintro e w' ⟨rfl, rfl⟩) | (go_at_call 10; refine (Ucs.plane_any _ _).mono ?_; rintro e w' ⟨rfl, rfl⟩) | (go_at_call 12; refine (Ucs.high_any _ _).mono ?_; rintro e w' ⟨rfl, rfl⟩) | (go_at_call 14; refine (Ucs.low_any _ _).mono ?_; rintro e w' ⟨rfl, rfl⟩) | (go_at_call 16; refine (Ucs.hex_any _ _).mono ?_; rintro e w' ⟨rfl, rfl⟩) | (go_at_call 22; refine (Ucs.parse_hex _ _).mono ?_; rintro e w1 ⟨rfl, hG⟩))
    go_ret
    exact ⟨rfl, hG⟩

set_option maxRecDepth 100000 in
theorem lifted (os : Os) (started : os.Started) (H : Type) (enc : TypeId × Value → H) :
    ReturnsInHanded {} Try.checked os 5 .any (Rows.ucsBackSpec.pre6 enc Try.prog Try.f5 Rows.ucsBackRow.domain false) (Rows.ucsBackSpec.post enc Try.prog Try.f5 false true false false) := by
  refine returnsInHanded_of_change (C := Try.checked) own started (by kernel_rfl) Try.func5
    (ChangeSpec.witness6 (enc := enc) (C := Try.checked) false ⟨#[], #[.int .i32 0, .int .i32 0], []⟩ 8 (by kernel_rfl) (by kernel_rfl) (by kernel_rfl) (by kernel_rfl)) ?_
  intro W base args ds gs before hval0 hW hcnd _
  have hval : ∀ (j : Nat) t v, Try.f5.params[j]? = some t → args[j]? = some v → Value.okWide Try.prog W .any base t v := hval0
  have hW' := hW
  obtain ⟨p, q, hA0, hV, rfl, hfz, hnd⟩ := hW
  have hA : DataW.TrodAll enc Try.prog W 0 (fun _ => true) true Try.f5.params.toList args.toList ds p := hA0
  rw [Try.params5] at hA hval
  obtain ⟨v0, vs0, d0, ds0, p0, q0, hargs, rfl, rfl, h0, r0⟩ := trodAll_cons hA
  obtain ⟨v1, vs1, d1, ds1, p1, q1, rfl, rfl, rfl, h1, r1⟩ := trodAll_cons r0
  obtain ⟨rfl, rfl, rfl⟩ := trodAll_nil r1
  obtain rfl : args = #[v0, v1] := by cases args; simp_all
  obtain ⟨rfl, rfl⟩ := trodVars_none hV
  obtain ⟨a0, rfl, rfl, rfl, w0⟩ := open_int Try.underlying21 (hval 0 21 v0 rfl rfl) h0
  obtain ⟨a1, rfl, rfl, rfl, w1⟩ := open_int Try.underlying21 (hval 1 21 v1 rfl rfl) h1
  clear hA0 hval0
  simp only [List.append_nil] at hW'
  refine (walk a0 a1 w0 w1 W).mono fun e W' ⟨he, hg⟩ => ?_
  subst he
  exact ⟨_, rfl, post_of_same (pa := []) (pv := []) hW' (fun _ _ _ => (trodAll_cons_mk (shut_bool Try.underlying4 _) trodAll_mk0)) (fun sp _ => (trodAll_cons_mk (shut_int Try.underlying21 w0) (trodAll_cons_mk (shut_int Try.underlying21 w1) trodAll_mk0))) (fun _ _ => rfl) rfl
    (hg.frame _) hg.2.1 (ok_one (by kernel_rfl) rfl (okWide_bool_mk Try.underlying4 _))⟩

theorem over : Rows.ucsBackRow.holds Try.pinned (OpenSpec.ofChange Rows.ucsBackSpec) :=
  OpenClaim.holds_of_wide 5 Try.f5 rfl rfl rfl rfl rfl rfl rfl ⟨rfl, rfl, rfl, rfl, rfl⟩ rfl rfl rfl rfl rfl (by kernel_rfl) Try.func5 (by kernel_rfl)
    (of_decide_eq_true (by kernel_rfl)) (by unfold Func.isWrapper; first | (rw [if_pos (by decide +kernel)]; kernel_rfl) | (rw [if_neg (by decide +kernel)]; exact ⟨rfl, rfl⟩))
    (fun os started H enc _ => lifted os started H enc)

theorem proved : Rows.UcsBackSaid :=
  over
end Go.Proofs.Ytdidchcinfbggaa.ucsBack
namespace Go.Proofs.Ytdidchcinfbggaa
theorem ucsBack_holds : Rows.UcsBackSaid := ucsBack.proved
#print axioms ucsBack_holds
end Go.Proofs.Ytdidchcinfbggaa
