/- The document's Flat: a walk. -/
import Derived.Test.YtliaadlanpfjbaaRf12
import Derived.Test.YtliaadlanpfjbaaRu
namespace Go.Proofs.Ytliaadlanpfjbaa.C12
open Go.ChangeShapes Go.WideShapes Go.ChangeAt Go.RowKit Go.Proofs.Ytliaadlanpfjbaa.Mem Go.Proofs.Ytliaadlanpfjbaa.El Go.Proofs.Ytliaadlanpfjbaa.Ru
set_option linter.unusedVariables false
set_option linter.unusedSimpArgs false

/-- All bytes' scalars. -/
def flR (k : Int) : List Int := if k ∈ kinds then (List.range 256).map (fun b => (atR k b : Int)) else []

set_option maxRecDepth 100000 in
set_option maxHeartbeats 1000000 in
theorem refFlat_any (k : Int) (w : World) (F : List Int) (hF : Hid (flR k = F)) : Calls Try.prog 15 #[.int .i64 k] w fun e w' => ∃ ro rc, e = .returned (.slice ro F.length rc) ∧ RuE.Own w' ro rc F ∧ w.grownBy w' none ∧ (∀ g, blk ro = some g → w.heap.size ≤ g) := by
  by_cases hk : k ∈ kinds
  · have hH := Hid.mk' (has_any k true (Hid.mk' (decide_eq_true hk)))
    have hA := Hid.mk' (fun b hb w => at_any k hk b hb w)
    have hF2 : Hid ((List.range 256).map (fun b => (atR k b : Int)) = F) := Hid.mk' (by rw [← hF.out, flR, if_pos hk])
    clear hF hk
    go_enter Try.func15, Try.ntmps15
    go_wp2_with (go_at_call 13; refine (hH.out _).mono ?_; rintro e w1 ⟨rfl, rfl⟩)
    go_loopw [3, 4] (fun t3 t4 wx => ∃ (i rc : Nat) (ro : Option Addr) (D : List Int), i ≤ 256 ∧ t4 = .int .i64 (i : Int) ∧ t3 = .slice ro D.length rc ∧ D.length = i ∧ Hid (D = (List.range i).map (fun b => (atR k b : Int))) ∧ Hid (RuE.Own wx ro rc D) ∧ Hid (∀ g, blk ro = some g → w1.heap.size ≤ g) ∧ Hid (w1.grownBy wx none)) (fun _ t4 _ => 256 - (intOf t4).toNat)
    case atStart => exact ⟨0, 0, none, [], by omega, rfl, rfl, rfl, Hid.mk' rfl, Hid.mk' (.inl ⟨rfl, rfl, rfl⟩), Hid.mk' (by intro g e; cases e), Hid.mk' (grownBy_refl _ _)⟩
    case round =>
      obtain ⟨i, rc, ro, D, hi, rfl, rfl, hDl, hD, hO, hbl, hG⟩ := hrel
      have hDl0 := Hid.mk' hDl
      by_cases hlt : i < 256
      · have hlt' : (i : Int) < 256 := by omega
        obtain ⟨n, hn⟩ : ∃ n, Hid (atR k i = n) := ⟨_, Hid.mk' rfl⟩
        have hAi := Hid.mk' (hA.out i hlt)
        rw [hn.out] at hAi
        have hD2 : Hid (D ++ [(n : Int)] = (List.range (i + 1)).map (fun b => (atR k b : Int))) := Hid.mk' (by rw [hD.out, List.range_succ, List.map_append, List.map_cons, List.map_nil, hn.out])
        have hDm : D.length ≤ 256 := by omega
        clear hDl
        go_wp2_with (first
          | (go_at_call 20; refine (hAi.out _).mono ?_; rintro e w2 ⟨rfl, hg2⟩; have ho2 := hO.out.kept0 hg2)
          | (at_builtin; refine wpList_rune _ rfl _ _ rfl ro rc D rfl (ho2.alloc _) _ rfl [(n : Int)] (src_rune1 w2 n) (by simp; omega) (D ++ [(n : Int)]) rfl ?_; intro ro' rc' w3 ho3 hg3 hat3))
        go_roundw
        case rel =>
          refine ⟨i + 1, rc', ro', D ++ [(n : Int)], by omega, by go_num, by simp, by simp [hDl0.out], Hid.mk' hD2.out, Hid.mk' ho3, Hid.mk' ?_, Hid.mk' ?_⟩
          · intro g e
            rcases hat3 with rfl | rfl
            · exact hbl.out g e
            · have e1 := Option.some.inj e
              have e2 := hG.out.size
              have e3 := hg2.size
              simp at e1
              omega
          · exact grownBy_new (grownBy_trans (grownBy_trans hG.out hg2) (World.grownBy_alloc w2 _ none)) hg3 (fun g e => hbl.out g e)
        case measure => simp [intOf]; omega
      · obtain rfl : i = 256 := by omega
        have hDF : Hid (D = F) := Hid.mk' (by rw [hD.out]; exact hF2.out)
        go_wp2_with fail
        go_ret
        have e1 := hDF.out
        subst e1
        exact ⟨ro, rc, rfl, hO.out, hG.out, hbl.out⟩
  · have hH := Hid.mk' (has_any k false (Hid.mk' (decide_eq_false hk)))
    have : F = [] := by rw [← hF.out, flR, if_neg hk]
    subst this
    clear hF hk
    go_enter Try.func15, Try.ntmps15
    go_wp2_with (go_at_call 13; refine (hH.out _).mono ?_; rintro e w1 ⟨rfl, rfl⟩)
    go_ret
    exact ⟨none, 0, rfl, .inl ⟨rfl, rfl, rfl⟩, grownBy_refl _ _, by intro g e; cases e⟩
end Go.Proofs.Ytliaadlanpfjbaa.C12
