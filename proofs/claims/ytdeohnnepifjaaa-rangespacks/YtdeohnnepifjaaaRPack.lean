/- The document's Pack: a walk. -/
import Derived.Test.YtdeohnnepifjaaaRRight
import Derived.Test.YtdeohnnepifjaaaStep
namespace Go.Proofs.Ytdeohnnepifjaaa.Rn
open Go.ChangeShapes Go.WideShapes Go.ChangeAt Go.RowKit Go.Proofs.Ytdeohnnepifjaaa.Mem Go.Proofs.Ytdeohnnepifjaaa.Ucs Go.Proofs.Ytdeohnnepifjaaa.El
set_option linter.unusedVariables false
set_option linter.unusedSimpArgs false

theorem packGo_head (f t a : Int) (M : List Pr) : ∃ t' R, packGo f t a M = (f, t', a) :: R := by
  induction M generalizing t with
  | nil => exact ⟨t, [], rfl⟩
  | cons q M ih =>
    unfold packGo
    split
    · exact ih q.1
    · exact ⟨t, _, rfl⟩
theorem last_bounds {L : List Pr} {T0 : List Rg} {f t a : Int} {M : List Pr} (hk : okP (-1) L = true) (e : T0 ++ packGo f t a M = packOf L) : 0 ≤ f ∧ f ≤ 16777215 ∧ 0 ≤ a ∧ a ≤ 1114111 := by
  obtain ⟨t', R, hh⟩ := packGo_head f t a M
  have hr := okFrom_right (packOf_ok hk) T0.length (by rw [← e, hh]; simp)
  have e2 : (packOf L)[T0.length]? = some (f, t', a) := by rw [← e, hh]; simp
  have e3 := List.getElem?_eq_some_iff.1 e2
  obtain ⟨h1, h2⟩ := e3
  rw [h2] at hr
  have := rightR_iff.1 hr
  omega

set_option maxRecDepth 100000 in
set_option maxHeartbeats 8000000 in
theorem packRef_any (ao : Option Addr) (cap : Nat) (L : List Pr) (w : World) (hB : PE.Rd w ao L) (hc : L.length ≤ cap) (hcm : cap ≤ 9223372036854775807) (E : Int) (hE : Hid (rightE L = E)) (Q : List Rg) (hQ : Hid (packR L = Q)) :
    Calls Try.prog 9 #[.slice ao L.length cap] w fun e w' => ∃ ro rc, e = .returned (.tuple #[.slice ro Q.length rc, .int .i64 E]) ∧ RE.Own w' ro rc Q ∧ w.grownBy w' none := by
  have hB0 : Hid (PE.Rd w ao L) := hB
  clear hB
  by_cases hE0 : E = 0
  · subst hE0
    obtain ⟨hl, hok⟩ := rightE_ok.1 hE.out
    have hK : Hid (okP (-1) L = true) := hok
    have HQ : Hid (packOf L = Q) := (by rw [← hQ.out]; unfold packR; rw [if_pos hE.out] : packOf L = Q)
    clear hok hQ
    go_enter Try.func9, Try.ntmps9
    go_wp2_with (go_at_call 23; refine (rightRef_any _ _ L _ hB0.out hc hcm 0 hE).mono ?_; rintro e w1 ⟨rfl, hg1⟩)
    have Hg1 : Hid (w.grownBy w1 none) := hg1
    clear hg1
    go_loopw [5, 6] (fun t5 t6 wx => ∃ (i rc : Nat) (ro : Option Addr) (T : List Rg), i ≤ L.length ∧ t6 = .int .i64 (i : Int) ∧ t5 = .slice ro T.length rc ∧ T.length ≤ i ∧ Hid (RE.Own wx ro rc T) ∧ Hid (∀ g, blk ro = some g → w.heap.size ≤ g) ∧ Hid (PInv L i T) ∧ Hid (w.grownBy wx none)) (fun _ t6 _ => L.length - (intOf t6).toNat)
    case atStart => exact ⟨0, 0, none, [], by omega, rfl, rfl, by simp, .inl ⟨rfl, rfl, rfl⟩, (by simp [blk] : ∀ g, blk none = some g → w.heap.size ≤ g), .inl ⟨rfl, rfl⟩, Hg1⟩
    case round =>
      obtain ⟨i, rc, ro, T, hil, rfl, rfl, hTi, ho, hro, hP, hgx⟩ := hrel
      by_cases hlt : i < L.length
      · obtain ⟨c, u, he⟩ : ∃ c u, L[i] = (c, u) := ⟨_, _, rfl⟩
        obtain ⟨b, o, rfl, hb, X0, X1⟩ := pcells hB0.out hlt he
        have x0 := hgx.out.cell X0 (by simp)
        have x1 := hgx.out.cell X1 (by simp)
        clear X0 X1
        have hbr : Hid (blk ro ≠ some b) := (fun e => by have := hro.out b e; omega : blk ro ≠ some b)
        have kc := okP_at hK.out i hlt
        rw [he] at kc
        obtain ⟨⟨kc1, kc2⟩, kc3, kc4⟩ := kc
        simp only at kc1 kc2 kc3 kc4
        have hlt' : (i : Int) < (L.length : Int) := by omega
        have hi0 : (0 : Int) ≤ (i : Int) := by omega
        obtain ⟨wA, rfl⟩ : ∃ z, z = wr := ⟨_, rfl⟩
        rcases hP.out with ⟨rfl, rfl⟩ | ⟨j, T0, f, t, a, hij, rfl, hLj, hpk⟩
        · have HP2 : Hid (PInv L 1 [(c, c, u)]) := PInv.first (by omega) he
          clear hP he
          simp only [Nat.zero_mul, Nat.add_zero] at x0 x1
          go_wp2
          go_quiet (fail)
          go_wp2
          have q1 : Hid (RE.Own (wA.drewN nq) ro rc []) := ho.out.kept0 (by (repeat (first | with_reducible exact grownBy_refl _ _ | (with_reducible refine gs ?_ ?_; first | omega | (simp; omega)) | with_reducible refine ga ?_ | with_reducible refine gd ?_ | with_reducible refine gdn ?_ | with_reducible refine gt ?_ (by assumption))))
          have q2 : Hid (w.grownBy (wA.drewN nq) none) := gdn hgx.out
          have y0 : (wA.drewN nq).cell? ⟨b, o, none⟩ = some (.int .i64 c) := x0
          have y1 : (wA.drewN nq).cell? ⟨b, o + 1, none⟩ = some (.int .i32 u) := x1
          clear x0 x1
          generalize wA.drewN nq = wz at *
          have hS0 : wz.drew.cell? ⟨b, o, none⟩ = some (.int .i64 c) ∧ wz.drew.cell? ⟨b, o + 1, none⟩ = some (.int .i32 u) := ⟨y0, y1⟩
          go_region_held3 (fun w' => w'.cell? ⟨b, o, none⟩ = some (.int .i64 c) ∧ w'.cell? ⟨b, o + 1, none⟩ = some (.int .i32 u)) (first | assumption | exact hS0 | go_keep) (first | (refine step_range ((wz.alloc (.cells #[.int .i64 c, .int .i64 c, .int .i32 u] 44)).drew) (by rfl) _ _ (by rfl) ro rc [] (by simp [Act.eval, Act.put]) (by exact (q1.out.alloc _)) (.slice (some ⟨wz.heap.size, 0, none⟩) 1 1) (by simp [Act.eval, Act.put]) [(c, c, u)] (src_range (M := [(c, c, u)]) (show RE.Rd ((wz.alloc (.cells #[.int .i64 c, .int .i64 c, .int .i32 u] 44)).drew) (some ⟨wz.heap.size, 0, none⟩) [(c, c, u)] from new_range wz c c u) 1) (by simp; try omega) [(c, c, u)] (by rfl) ?_; intro ro' rc' w3 ho' hg3 hat; have hS1 : w3.cell? ⟨b, o, none⟩ = some (.int .i64 c) ∧ w3.cell? ⟨b, o + 1, none⟩ = some (.int .i32 u) := ⟨hg3.cell ((World.grownBy_alloc wz _ none).cell y0 (by simp)) (fun e => hbr.out e.symm), hg3.cell ((World.grownBy_alloc wz _ none).cell y1 (by simp)) (fun e => hbr.out e.symm)⟩))
          go_wp2
          go_roundw
          case rel =>
            refine ⟨1, rc', ro', [(c, c, u)], by omega, by go_num, by simp, by simp, ho', ?_, HP2, ?_⟩
            · refine (?_ : ∀ g, blk ro' = some g → w.heap.size ≤ g)
              exact newer hro.out (by have := q2.out.size; simp; omega) hat
            · refine (?_ : w.grownBy w3 none)
              exact grownBy_new (gd (ga q2.out)) hg3 (fun g e => hro.out g e)
          case measure => simp [intOf]; omega
        · have hj : j < L.length := by omega
          have hLj' : L[j] = (t, a + (t - f)) := by rw [List.getElem?_eq_getElem hj] at hLj; exact Option.some.inj hLj
          have k1 := okP_at hK.out j hj
          rw [hLj'] at k1
          obtain ⟨⟨k1, k2⟩, k3, k4⟩ := k1
          simp only at k1 k2 k3 k4
          obtain ⟨k5, k6, k7, k8⟩ := last_bounds hK.out hpk
          have hT0 : T0.length + 1 ≤ i := by simpa using hTi
          have hne : Hid ((T0 ++ [(f, t, a)]).length = T0.length + 1) := (by simp : (T0 ++ [(f, t, a)]).length = T0.length + 1)
          rw [hne.out]
          have Hpk : Hid (T0 ++ packGo f t a (L.drop (j + 1)) = packOf L) := hpk
          have He : Hid (∃ hj : j + 1 < L.length, L[j + 1] = (c, u)) := (by subst hij; exact ⟨hlt, he⟩ : ∃ hj : j + 1 < L.length, L[j + 1] = (c, u))
          have Hij : Hid (i = j + 1) := hij
          clear hP he hpk hLj hLj' hne hij hTi
          obtain ⟨g, rfl, hg0, yf, z0, z1, z2⟩ := last_cells ho.out
          have hw1 : IntKind.i64.wrap (t + 1) = t + 1 := by rw [IntKind.wrap_i64]; omega
          have hw2 : IntKind.i64.wrap (T0.length : Int) = (T0.length : Int) := by rw [IntKind.wrap_i64]; omega
          have hw3 : IntKind.i64.wrap u = u := by rw [IntKind.wrap_i64]; omega
          have hw4 : IntKind.i64.wrap a = a := by rw [IntKind.wrap_i64]; omega
          have hw5 : IntKind.i64.wrap (a + c) = a + c := by rw [IntKind.wrap_i64]; omega
          have hw6 : IntKind.i64.wrap (a + c - f) = a + c - f := by rw [IntKind.wrap_i64]; omega
          have hr := ho.out.cap_le
          simp at hr
          have hr1 : (T0.length : Int) < (T0.length : Int) + 1 := by omega
          have hr2 : (0 : Int) ≤ (T0.length : Int) := by omega
          by_cases h1 : t + 1 = c
          · subst h1
            by_cases h2 : u = a + (t + 1) - f
            · subst h2
              have HP2 : Hid (PInv L (i + 1) (T0 ++ [(f, t + 1, a)])) := (by obtain ⟨e1, e2⟩ := He.out; rw [Hij.out]; exact PInv.on e1 e2 Hpk.out rfl (by omega) : PInv L (i + 1) (T0 ++ [(f, t + 1, a)]))
              go_wp2
              go_quiet (fail)
              have q1 : Hid (RE.Own (wA.drewN nq) (some ⟨g, 0, none⟩) rc (T0 ++ [(f, t, a)])) := ho.out.kept0 (by (repeat (first | with_reducible exact grownBy_refl _ _ | (with_reducible refine gs ?_ ?_; first | omega | (simp; omega)) | with_reducible refine ga ?_ | with_reducible refine gd ?_ | with_reducible refine gdn ?_ | with_reducible refine gt ?_ (by assumption))))
              have q2 : Hid (w.grownBy (wA.drewN nq) none) := gdn hgx.out
              have y0 : (wA.drewN nq).cell? ⟨b, o + i * 2, none⟩ = some (.int .i64 (t + 1)) := x0
              clear x0 x1 z0 z1 z2 yf
              generalize wA.drewN nq = wz at *
              have q8 : Hid (RE.Own (wz.setCell ⟨g, T0.length * 3 + 1, none⟩ (.int .i64 (t + 1))) (some ⟨g, 0, none⟩) rc (T0 ++ [(f, t + 1, a)])) := last_set q1.out (t + 1)
              have q9 : Hid (w.grownBy (wz.setCell ⟨g, T0.length * 3 + 1, none⟩ (.int .i64 (t + 1))) none) := gs (hro.out g rfl) q2.out
              obtain ⟨g', eg, hg1, yf, z0, z1, z2⟩ := last_cells q1.out
              cases eg
              clear hw1 hw2 hw3 hw4 hw5 hw6
              go_wp2
              go_roundw
              case rel => exact ⟨i + 1, rc, _, T0 ++ [(f, t + 1, a)], by omega, by go_num, by simp, by simp; omega, q8, hro, HP2, q9⟩
              case measure => simp [intOf]; omega
            · have hd2 : (u == a + (t + 1) - f) = false := by simpa using h2
              have HP2 : Hid (PInv L (i + 1) (T0 ++ [(f, t, a)] ++ [(t + 1, t + 1, u)])) := (by obtain ⟨e1, e2⟩ := He.out; rw [Hij.out]; exact PInv.new e1 e2 Hpk.out (by omega) : PInv L (i + 1) (T0 ++ [(f, t, a)] ++ [(t + 1, t + 1, u)]))
              go_wp2
              go_quiet (fail)
              go_wp2
              have q1 : Hid (RE.Own (wA.drewN nq) (some ⟨g, 0, none⟩) rc (T0 ++ [(f, t, a)])) := ho.out.kept0 (by (repeat (first | with_reducible exact grownBy_refl _ _ | (with_reducible refine gs ?_ ?_; first | omega | (simp; omega)) | with_reducible refine ga ?_ | with_reducible refine gd ?_ | with_reducible refine gdn ?_ | with_reducible refine gt ?_ (by assumption))))
              have q2 : Hid (w.grownBy (wA.drewN nq) none) := gdn hgx.out
              have y0 : (wA.drewN nq).cell? ⟨b, o + i * 2, none⟩ = some (.int .i64 (t + 1)) := x0
              have y1 : (wA.drewN nq).cell? ⟨b, o + i * 2 + 1, none⟩ = some (.int .i32 u) := x1
              clear x0 x1 z0 z1 z2
              generalize wA.drewN nq = wz at *
              have hS0 : wz.drew.cell? ⟨b, o + i * 2, none⟩ = some (.int .i64 (t + 1)) ∧ wz.drew.cell? ⟨b, o + i * 2 + 1, none⟩ = some (.int .i32 u) := ⟨y0, y1⟩
              go_region_held3 (fun w' => w'.cell? ⟨b, o + i * 2, none⟩ = some (.int .i64 (t + 1)) ∧ w'.cell? ⟨b, o + i * 2 + 1, none⟩ = some (.int .i32 u)) (first | assumption | exact hS0 | go_keep) (first | (refine step_range ((wz.alloc (.cells #[.int .i64 (t + 1), .int .i64 (t + 1), .int .i32 u] 44)).drew) (by rfl) _ _ (by rfl) (some ⟨g, 0, none⟩) rc (T0 ++ [(f, t, a)]) (by simp [Act.eval, Act.put]) (by exact (q1.out.alloc _)) (.slice (some ⟨wz.heap.size, 0, none⟩) 1 1) (by simp [Act.eval, Act.put]) [((t + 1), (t + 1), u)] (src_range (M := [((t + 1), (t + 1), u)]) (show RE.Rd ((wz.alloc (.cells #[.int .i64 (t + 1), .int .i64 (t + 1), .int .i32 u] 44)).drew) (some ⟨wz.heap.size, 0, none⟩) [((t + 1), (t + 1), u)] from new_range wz (t + 1) (t + 1) u) 1) (by simp; omega) (T0 ++ [(f, t, a)] ++ [((t + 1), (t + 1), u)]) (by rfl) ?_; intro ro' rc' w3 ho' hg3 hat; have hS1 : w3.cell? ⟨b, o + i * 2, none⟩ = some (.int .i64 (t + 1)) ∧ w3.cell? ⟨b, o + i * 2 + 1, none⟩ = some (.int .i32 u) := ⟨hg3.cell ((World.grownBy_alloc wz _ none).cell y0 (by simp)) (fun e => hbr.out e.symm), hg3.cell ((World.grownBy_alloc wz _ none).cell y1 (by simp)) (fun e => hbr.out e.symm)⟩))
              go_wp2
              go_roundw
              case rel =>
                refine ⟨i + 1, rc', ro', _, by omega, by go_num, by simp, by simp; omega, ho', ?_, HP2, ?_⟩
                · refine (?_ : ∀ g, blk ro' = some g → w.heap.size ≤ g)
                  exact newer hro.out (by have := q2.out.size; simp; omega) hat
                · refine (?_ : w.grownBy w3 none)
                  exact grownBy_new (gd (ga q2.out)) hg3 (fun g e => hro.out g e)
              case measure => simp [intOf]; omega
          · have hd1 : (t + 1 == c) = false := by simpa using h1
            have HP2 : Hid (PInv L (i + 1) (T0 ++ [(f, t, a)] ++ [(c, c, u)])) := (by obtain ⟨e1, e2⟩ := He.out; rw [Hij.out]; exact PInv.new e1 e2 Hpk.out (by omega) : PInv L (i + 1) (T0 ++ [(f, t, a)] ++ [(c, c, u)]))
            go_wp2
            go_quiet (fail)
            go_wp2
            have q1 : Hid (RE.Own (wA.drewN nq) (some ⟨g, 0, none⟩) rc (T0 ++ [(f, t, a)])) := ho.out.kept0 (by (repeat (first | with_reducible exact grownBy_refl _ _ | (with_reducible refine gs ?_ ?_; first | omega | (simp; omega)) | with_reducible refine ga ?_ | with_reducible refine gd ?_ | with_reducible refine gdn ?_ | with_reducible refine gt ?_ (by assumption))))
            have q2 : Hid (w.grownBy (wA.drewN nq) none) := gdn hgx.out
            have y0 : (wA.drewN nq).cell? ⟨b, o + i * 2, none⟩ = some (.int .i64 c) := x0
            have y1 : (wA.drewN nq).cell? ⟨b, o + i * 2 + 1, none⟩ = some (.int .i32 u) := x1
            clear x0 x1 z0 z1 z2
            generalize wA.drewN nq = wz at *
            have hS0 : wz.drew.cell? ⟨b, o + i * 2, none⟩ = some (.int .i64 c) ∧ wz.drew.cell? ⟨b, o + i * 2 + 1, none⟩ = some (.int .i32 u) := ⟨y0, y1⟩
            go_region_held3 (fun w' => w'.cell? ⟨b, o + i * 2, none⟩ = some (.int .i64 c) ∧ w'.cell? ⟨b, o + i * 2 + 1, none⟩ = some (.int .i32 u)) (first | assumption | exact hS0 | go_keep) (first | (refine step_range ((wz.alloc (.cells #[.int .i64 c, .int .i64 c, .int .i32 u] 44)).drew) (by rfl) _ _ (by rfl) (some ⟨g, 0, none⟩) rc (T0 ++ [(f, t, a)]) (by simp [Act.eval, Act.put]) (by exact (q1.out.alloc _)) (.slice (some ⟨wz.heap.size, 0, none⟩) 1 1) (by simp [Act.eval, Act.put]) [(c, c, u)] (src_range (M := [(c, c, u)]) (show RE.Rd ((wz.alloc (.cells #[.int .i64 c, .int .i64 c, .int .i32 u] 44)).drew) (some ⟨wz.heap.size, 0, none⟩) [(c, c, u)] from new_range wz c c u) 1) (by simp; omega) (T0 ++ [(f, t, a)] ++ [(c, c, u)]) (by rfl) ?_; intro ro' rc' w3 ho' hg3 hat; have hS1 : w3.cell? ⟨b, o + i * 2, none⟩ = some (.int .i64 c) ∧ w3.cell? ⟨b, o + i * 2 + 1, none⟩ = some (.int .i32 u) := ⟨hg3.cell ((World.grownBy_alloc wz _ none).cell y0 (by simp)) (fun e => hbr.out e.symm), hg3.cell ((World.grownBy_alloc wz _ none).cell y1 (by simp)) (fun e => hbr.out e.symm)⟩))
            go_wp2
            go_roundw
            case rel =>
              refine ⟨i + 1, rc', ro', _, by omega, by go_num, by simp, by simp; omega, ho', ?_, HP2, ?_⟩
              · refine (?_ : ∀ g, blk ro' = some g → w.heap.size ≤ g)
                exact newer hro.out (by have := q2.out.size; simp; omega) hat
              · refine (?_ : w.grownBy w3 none)
                exact grownBy_new (gd (ga q2.out)) hg3 (fun g e => hro.out g e)
            case measure => simp [intOf]; omega
      · obtain rfl : i = L.length := by omega
        have HP2 : Hid (T = Q) := (by rw [← HQ.out]; exact hP.out.end : T = Q)
        clear hP
        go_wp2
        obtain rfl := HP2.out
        go_ret2
        exact ⟨ro, rc, rfl, ho.out, hgx.out⟩
  · have hQ2 : Q = [] := by rw [← hQ.out]; unfold packR; rw [hE.out, if_neg hE0]
    subst hQ2
    have hE1 : (E == 0) = false := by simpa using hE0
    go_enter Try.func9, Try.ntmps9
    go_wp2_with (go_at_call 23; refine (rightRef_any _ _ L _ hB0.out hc hcm E hE).mono ?_; rintro e w1 ⟨rfl, hg1⟩)
    go_ret2
    exact ⟨none, 0, rfl, .inl ⟨rfl, rfl, rfl⟩, hg1⟩
end Go.Proofs.Ytdeohnnepifjaaa.Rn
