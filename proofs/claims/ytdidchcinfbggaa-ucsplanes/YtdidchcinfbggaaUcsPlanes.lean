/- For all numbers u, v, h and l that are Go runes, a greater scalar is of no lesser plane, and a pair of surrogates makes a scalar of a plane from 1 to 16, the greater pair the greater one; no condition. -/
import Derived.Test.YtdidchcinfbggaaRows
import Derived.WalkKit
import Derived.ProofKit
import Derived.OpenShut
import Derived.ShutString
import Derived.Test.YtdidchcinfbggaaWorks
namespace Go.Proofs.Ytdidchcinfbggaa.ucsPlanes
open Go.ChangeShapes Go.WideShapes Go.ChangeAt Go.RowKit
open Go.ChangeMaps (open_string shut_string)
set_option linter.unusedVariables false

theorem own : ownKnob Try.prog.godebug = none := by kernel_rfl

set_option maxHeartbeats 4000000 in
theorem walk (a0 : Int) (a1 : Int) (a2 : Int) (a3 : Int) (w0 : (Lit.int .i32 a0).wf = true) (w1 : (Lit.int .i32 a1).wf = true) (w2 : (Lit.int .i32 a2).wf = true) (w3 : (Lit.int .i32 a3).wf = true) (w : World) :
    Calls Try.prog 7 #[.int .i32 a0, .int .i32 a1, .int .i32 a2, .int .i32 a3] w fun e w' => e = .returned (.bool true) ∧ Grown w w' := by
  have hA : Ucs.scB a0 = false ∨ (Ucs.scB a0 = true ∧ Ucs.scB a1 = false) ∨ (Ucs.scB a0 = true ∧ Ucs.scB a1 = true ∧ ¬ a0 ≤ a1) ∨ (Ucs.scB a0 = true ∧ Ucs.scB a1 = true ∧ a0 ≤ a1 ∧ ¬ Ucs.plane a1 < Ucs.plane a0) := by
    cases h : Ucs.scB a0
    · left; rfl
    cases k : Ucs.scB a1
    · right; left; exact ⟨rfl, rfl⟩
    by_cases c : a0 ≤ a1
    · right; right; right
      refine ⟨rfl, rfl, c, ?_⟩
      simp only [Ucs.plane, h, k, if_true]
      omega
    · right; right; left; exact ⟨rfl, rfl, c⟩
  cases hj : Ucs.joinB a2 a3
  · rcases hA with h | ⟨h, k⟩ | ⟨h, k, c⟩ | ⟨h, k, c, d⟩
    all_goals
      go_enter Try.func7, Try.ntmps7
      go_wp2_with (first | (go_at_call 24; refine (Ucs.works_any _).mono ?_; rintro e w' ⟨rfl, rfl⟩) | (go_at_call 18; refine (Ucs.join_any _ _ _).mono ?_; rintro e w' ⟨rfl, rfl⟩) | (go_at_call 8; refine (Ucs.scalar_any _ _).mono ?_; rintro e w' ⟨rfl, rfl⟩) | (go_at_call 10; refine (Ucs.plane_any _ _).mono ?_; rintro e w' ⟨rfl, rfl⟩))
      go_ret
      exact ⟨rfl, Grown.refl _⟩
  · obtain ⟨⟨p1, p2⟩, q1, q2⟩ := Ucs.joinB_iff.1 hj
    have x0 := (Ucs.join_yes (Ucs.hiB_pos p1 p2) (Ucs.loB_pos q1 q2)).2
    have hy : Ucs.joinB a2 (a3 + 1) = false ∨ (Ucs.joinB a2 (a3 + 1) = true ∧ Ucs.joinV a2 (a3 + 1) = Ucs.joinV a2 a3 + 1) := by
      by_cases c : a3 + 1 ≤ 57343
      · have e := Ucs.join_yes (Ucs.hiB_pos p1 p2) (Ucs.loB_pos (u := a3 + 1) (by omega) c)
        right; exact ⟨e.1, by rw [e.2, x0]; omega⟩
      · left; exact (Ucs.join_no (.inr (Ucs.loB_neg (by omega)))).1
    have hz : Ucs.joinB (a2 + 1) a3 = false ∨ (Ucs.joinB (a2 + 1) a3 = true ∧ Ucs.joinV (a2 + 1) a3 = Ucs.joinV a2 a3 + 1024) := by
      by_cases c : a2 + 1 ≤ 56319
      · have e := Ucs.join_yes (Ucs.hiB_pos (u := a2 + 1) (by omega) c) (Ucs.loB_pos q1 q2)
        right; exact ⟨e.1, by rw [e.2, x0]; omega⟩
      · left; exact (Ucs.join_no (.inl (Ucs.hiB_neg (by omega)))).1
    have b1 : 65536 ≤ Ucs.joinV a2 a3 := by rw [x0]; omega
    have b2 : Ucs.joinV a2 a3 ≤ 1114111 := by rw [x0]; omega
    have hs : Ucs.scB (Ucs.joinV a2 a3) = true := Ucs.scB_pos (by omega) b2 (by omega)
    have hp : Ucs.plane (Ucs.joinV a2 a3) = Ucs.joinV a2 a3 / 65536 := by simp [Ucs.plane, hs]
    have g1 : 1 ≤ Ucs.plane (Ucs.joinV a2 a3) := by rw [hp]; omega
    have g2 : Ucs.plane (Ucs.joinV a2 a3) ≤ 16 := by rw [hp]; omega
    clear hp hs x0
    rcases hA with h | ⟨h, k⟩ | ⟨h, k, c⟩ | ⟨h, k, c, d⟩
    all_goals
      rcases hy with y1 | ⟨y1, y2⟩
      all_goals
        rcases hz with z1 | ⟨z1, z2⟩
        all_goals
          go_enter Try.func7, Try.ntmps7
          go_wp2_with (first | (go_at_call 24; refine (Ucs.works_any _).mono ?_; rintro e w' ⟨rfl, rfl⟩) | (go_at_call 18; refine (Ucs.join_any _ _ _).mono ?_; rintro e w' ⟨rfl, rfl⟩) | (go_at_call 8; refine (Ucs.scalar_any _ _).mono ?_; rintro e w' ⟨rfl, rfl⟩) | (go_at_call 10; refine (Ucs.plane_any _ _).mono ?_; rintro e w' ⟨rfl, rfl⟩))
          go_ret
          exact ⟨rfl, Grown.refl _⟩

set_option maxRecDepth 100000 in
theorem lifted (os : Os) (started : os.Started) (H : Type) (enc : TypeId × Value → H) :
    ReturnsInHanded {} Try.checked os 7 .any (Rows.ucsPlanesSpec.pre6 enc Try.prog Try.f7 Rows.ucsPlanesRow.domain false) (Rows.ucsPlanesSpec.post enc Try.prog Try.f7 false true false false) := by
  refine returnsInHanded_of_change (C := Try.checked) own started (by kernel_rfl) Try.func7
    (ChangeSpec.witness6 (enc := enc) (C := Try.checked) false ⟨#[], #[.int .i32 0, .int .i32 0, .int .i32 0, .int .i32 0], []⟩ 8 (by kernel_rfl) (by kernel_rfl) (by kernel_rfl) (by kernel_rfl)) ?_
  intro W base args ds gs before hval0 hW hcnd _
  have hval : ∀ (j : Nat) t v, Try.f7.params[j]? = some t → args[j]? = some v → Value.okWide Try.prog W .any base t v := hval0
  have hW' := hW
  obtain ⟨p, q, hA0, hV, rfl, hfz, hnd⟩ := hW
  have hA : DataW.TrodAll enc Try.prog W 0 (fun _ => true) true Try.f7.params.toList args.toList ds p := hA0
  rw [Try.params7] at hA hval
  obtain ⟨v0, vs0, d0, ds0, p0, q0, hargs, rfl, rfl, h0, r0⟩ := trodAll_cons hA
  obtain ⟨v1, vs1, d1, ds1, p1, q1, rfl, rfl, rfl, h1, r1⟩ := trodAll_cons r0
  obtain ⟨v2, vs2, d2, ds2, p2, q2, rfl, rfl, rfl, h2, r2⟩ := trodAll_cons r1
  obtain ⟨v3, vs3, d3, ds3, p3, q3, rfl, rfl, rfl, h3, r3⟩ := trodAll_cons r2
  obtain ⟨rfl, rfl, rfl⟩ := trodAll_nil r3
  obtain rfl : args = #[v0, v1, v2, v3] := by cases args; simp_all
  obtain ⟨rfl, rfl⟩ := trodVars_none hV
  obtain ⟨a0, rfl, rfl, rfl, w0⟩ := open_int Try.underlying21 (hval 0 21 v0 rfl rfl) h0
  obtain ⟨a1, rfl, rfl, rfl, w1⟩ := open_int Try.underlying21 (hval 1 21 v1 rfl rfl) h1
  obtain ⟨a2, rfl, rfl, rfl, w2⟩ := open_int Try.underlying21 (hval 2 21 v2 rfl rfl) h2
  obtain ⟨a3, rfl, rfl, rfl, w3⟩ := open_int Try.underlying21 (hval 3 21 v3 rfl rfl) h3
  clear hA0 hval0
  simp only [List.append_nil] at hW'
  refine (walk a0 a1 a2 a3 w0 w1 w2 w3 W).mono fun e W' ⟨he, hg⟩ => ?_
  subst he
  exact ⟨_, rfl, post_of_same (pa := []) (pv := []) hW' (fun _ _ _ => (trodAll_cons_mk (shut_bool Try.underlying4 _) trodAll_mk0)) (fun sp _ => (trodAll_cons_mk (shut_int Try.underlying21 w0) (trodAll_cons_mk (shut_int Try.underlying21 w1) (trodAll_cons_mk (shut_int Try.underlying21 w2) (trodAll_cons_mk (shut_int Try.underlying21 w3) trodAll_mk0))))) (fun _ _ => rfl) rfl
    (hg.frame _) hg.2.1 (ok_one (by kernel_rfl) rfl (okWide_bool_mk Try.underlying4 _))⟩

theorem over : Rows.ucsPlanesRow.holds Try.pinned (OpenSpec.ofChange Rows.ucsPlanesSpec) :=
  OpenClaim.holds_of_wide 7 Try.f7 rfl rfl rfl rfl rfl rfl rfl ⟨rfl, rfl, rfl, rfl, rfl⟩ rfl rfl rfl rfl rfl (by kernel_rfl) Try.func7 (by kernel_rfl)
    (of_decide_eq_true (by kernel_rfl)) (by unfold Func.isWrapper; first | (rw [if_pos (by decide +kernel)]; kernel_rfl) | (rw [if_neg (by decide +kernel)]; exact ⟨rfl, rfl⟩))
    (fun os started H enc _ => lifted os started H enc)

theorem proved : Rows.UcsPlanesSaid :=
  over
end Go.Proofs.Ytdidchcinfbggaa.ucsPlanes
namespace Go.Proofs.Ytdidchcinfbggaa
theorem ucsPlanes_holds : Rows.UcsPlanesSaid := ucsPlanes.proved
#print axioms ucsPlanes_holds
end Go.Proofs.Ytdidchcinfbggaa
