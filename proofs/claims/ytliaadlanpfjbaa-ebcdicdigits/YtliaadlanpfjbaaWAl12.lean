/- EbcdicAll: the walk. -/
import Derived.Test.YtliaadlanpfjbaaWDi12
import Derived.Test.YtliaadlanpfjbaaMq
namespace Go.Proofs.Ytliaadlanpfjbaa.C12
open Go.ChangeShapes Go.WideShapes Go.ChangeAt Go.RowKit Go.Maps Go.Proofs.Ytliaadlanpfjbaa.Mem Go.Proofs.Ytliaadlanpfjbaa.El Go.Proofs.Ytliaadlanpfjbaa.Ru Go.Proofs.Ytliaadlanpfjbaa.Mq
set_option linter.unusedVariables false
set_option linter.unusedSimpArgs false

/-- What was seen ahead of the byte i. -/
def seenL (k : Int) (i : Nat) : List Int := (List.range i).map (fun b => (atR k b : Int))
theorem seen_not {k : Int} (hk : k ∈ kinds) {i : Nat} (hi : i < 256) : (atR k i : Int) ∉ seenL k i := by
  intro h
  simp only [seenL, List.mem_map, List.mem_range] at h
  obtain ⟨b, hb, e⟩ := h
  have s1 := (byI_self hk hi).2
  have s2 := (byI_self hk (b := b) (by omega)).2
  rw [e, s1] at s2
  have := Option.some.inj s2
  omega
theorem FR_put (S : List Int) (u : Int) : FR (S ++ [u]) (.int .i32 u) = .lit (.bool true) ∧ ∀ x, WideAt.IsKeyLit x → x ≠ .int .i32 u → FR (S ++ [u]) x = FR S x := by
  constructor
  · simp [FR]
  · intro x _ hx
    unfold FR
    split
    · rename_i z _
      have : z ≠ u := fun e => hx (by rw [e])
      simp [this]
    · rfl
theorem seen_snoc (k : Int) (i : Nat) : seenL k (i + 1) = seenL k i ++ [(atR k i : Int)] := by simp [seenL, List.range_succ]

theorem make_set (w : World) : (Instr.makeMap 36 none).run Try.prog w = .ok (.map (some w.heap.size)) (w.alloc (.map #[] 0)) := by kernel_rfl
set_option maxRecDepth 100000 in
set_option maxHeartbeats 2000000 in
theorem all_walk {P : World → Prop} (C : Con P) (keepM : ∀ {w w' : World} {b : Nat}, P w → w.grownBy w' (some b) → (∃ es clock, w.heap[b]? = some (.map es clock)) → P w') (a : Int) (w : World) (hw : P w) : Calls Try.prog 6 #[.int .i64 a] w fun e w' => e = .returned (.bool true) ∧ w.grownBy w' none := by
  obtain ⟨r, hr0, hr3⟩ := mod_fit a 3 (by omega) (by omega)
  have hr : wrap64 ((IntKind.u64.wrap a).tmod 3) = (r : Int) := hr0
  clear hr0
  obtain ⟨k, hkr, hkm, hk⟩ := kinds_at r hr3
  have a0 := Hid.mk' (fun w hw => works_any C w hw)
  have K := Hid.mk' (fun (a b : World) (h : P a) (g : a.grownBy b none) => C.keep h g)
  have KM := Hid.mk' (fun (a b : World) (c : Nat) (h : P a) (g : a.grownBy b (some c)) (m : ∃ es clock, a.heap[c]? = some (.map es clock)) => keepM h g m)
  have hR : Hid (∀ i : Nat, i < 256 → ∃ u : Nat, Hid (atR k i = u) ∧ u ≤ 351 ∧ (∀ w, P w → Calls Try.prog 8 #[.int .i64 k, .int .u8 (i : Int)] w fun e w' => e = .returned (.tuple #[.int .i32 (u : Int), .bool true]) ∧ w.grownBy w' none) ∧ (∀ w, P w → Calls Try.prog 10 #[.int .i64 k, .int .i32 (u : Int)] w fun e w' => e = .returned (.tuple #[.int .u8 (i : Int), .bool true]) ∧ w.grownBy w' none) ∧ Hid ((u : Int) ∉ seenL k i)) := Hid.mk' (fun i hi => by
    obtain ⟨s1, s2⟩ := byI_self hkm hi
    have h3 := at_351 hkm hi
    exact ⟨atR k i, Hid.mk' rfl, h3, fun w hw => C.scalar k hk i hi w _ (Hid.mk' s1) hw, fun w hw => C.byte k hk _ (by unfold I32; omega) w _ (Hid.mk' s2) hw, Hid.mk' (seen_not hkm hi)⟩)
  have hq := Hid.mk' hw
  have hr3' : (r : Int) < 3 := by omega
  clear hk hkm hw C keepM
  go_enter Try.func6, Try.ntmps6
  go_upto_region 5 with (first
    | (go_at_call 17; refine (a0.out _ hq.out).mono ?_; rintro e w1 ⟨rfl, hg1, hp1⟩; have hq1 := Hid.mk' hp1; clear hp1)
    | (go_at_call 18; refine (kinds_row _).mono ?_; rintro e w2 ⟨g, rfl, hc, hg2⟩; have hq2 := Hid.mk' (K.out _ _ hq1.out hg2); have hc' := hc r k hkr; clear hc))
  have hG2 := Hid.mk' (gt hg1 hg2)
  clear hg1 hg2 hc' a0 hr
  have hmk := make_set w2
  go_wp2
  clear hmk
  have hM0 : Hid (MF (w2.alloc (.map #[] 0)) 21 4 w2.heap.size eBool (FR (seenL k 0)) 0) := Hid.mk' ((MF.made w2 21 4 eBool).mono (Nat.le_refl _) (fun kl _ => by
    unfold FR
    split
    · simp [seenL]
    · rfl))
  have hG3 := Hid.mk' (gt hG2.out (World.grownBy_alloc w2 (.map #[] 0) none))
  have hq3 := Hid.mk' (K.out _ _ hq2.out (World.grownBy_alloc w2 (.map #[] 0) none))
  have hsz : Hid (w.heap.size ≤ w2.heap.size) := Hid.mk' hG2.out.size
  generalize w2.alloc (.map #[] 0) = w3 at *
  generalize w2.heap.size = M at *
  go_loopw [6] (fun t6 wx => ∃ (i : Nat), i ≤ 256 ∧ t6 = .int .i64 (i : Int) ∧ Hid (MF wx 21 4 M eBool (FR (seenL k i)) i) ∧ Hid (w.grownBy wx none) ∧ Hid (P wx)) (fun t6 _ => 256 - (intOf t6).toNat)
  case atStart => exact ⟨0, by omega, rfl, hM0, hG3, hq3⟩
  case round =>
    obtain ⟨i, hi, rfl, hM, hG, hP⟩ := hrel
    clear hM0 hG3 hq3
    by_cases hlt : i < 256
    · have hlt' : (i : Int) < 256 := by omega
      obtain ⟨u, hu, hu351, b1, b2, hnot⟩ := hR.out i hlt
      have b1' := Hid.mk' b1
      have b2' := Hid.mk' b2
      have hu' : (u : Int) ≤ 351 := by omega
      have dn : ((i : Int) != (i : Int)) = false := by simp
      have hsn : Hid (seenL k (i + 1) = seenL k i ++ [(u : Int)]) := Hid.mk' (by rw [seen_snoc, hu.out])
      obtain ⟨S, hS⟩ : ∃ S, Hid (seenL k i = S) := ⟨_, Hid.mk' rfl⟩
      rw [hS.out] at hM hnot hsn
      have hdec : decide ((u : Int) ∈ S) = false := decide_eq_false hnot.out
      clear b1 b2 hnot hR
      go_upto_region 11 with (first
        | (go_at_call 8; refine (b1'.out _ hP.out).mono ?_; rintro e w6 ⟨rfl, hg6⟩; have hP6 := Hid.mk' (K.out _ _ hP.out hg6))
        | (go_at_call 10; refine (b2'.out _ hP6.out).mono ?_; rintro e w7 ⟨rfl, hg7⟩; have hP7 := Hid.mk' (K.out _ _ hP6.out hg7)))
      have hM7 := Hid.mk' ((hM.out.kept0 hg6).kept0 hg7)
      have hlk := look_rune hM7.out (u : Int) (by omega) (by omega)
      rw [hdec] at hlk
      go_wp2_with (at_mapUpdate; refine wpList_put _ rfl _ _ _ 36 rfl 21 4 kRune Try.underlying36 M i eBool (FR S) rfl hM7.out (by unfold maxLen; omega) _ _ (.int .i32 (u : Int)) rfl rfl (keyOf_int_mk Try.underlying21 (wf32 (by omega) (by omega))) trivial _ [] (plainElem_bool Try.underlying4 true) (FR (S ++ [(u : Int)])) (FR_put S u).1 (FR_put S u).2 ?_; intro w8 hm8 hg8)
      go_roundw
      case rel =>
        refine ⟨i + 1, by omega, by go_num, Hid.mk' (by rw [hsn.out]; exact hm8), Hid.mk' (grownBy_new (gt (gt hG.out hg6) hg7) hg8 (fun g e => by have := Option.some.inj e; have := hsz.out; omega)), Hid.mk' (KM.out _ _ _ hP7.out hg8 hM7.out.isMap)⟩
      all_goals (simp [intOf]; omega)
    · obtain rfl : i = 256 := by omega
      go_wp2
      go_ret
      exact ⟨rfl, hG.out⟩
end Go.Proofs.Ytliaadlanpfjbaa.C12
