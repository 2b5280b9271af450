/- Cp, Cmp, joined. -/
import Derived.Test.YtcoiddmgcoeocaaIns
import Derived.Test.YtcoiddmgcoeocaaMk
/- CompactFunc in plain functions; its test. -/
namespace Go.Proofs.Ytcoiddmgcoeocaa.Tr
open Go.ChangeShapes Go.WideShapes Go.ChangeAt Go.RowKit Go.Maps Go.Proofs.Ytcoiddmgcoeocaa.Mem Go.Proofs.Ytcoiddmgcoeocaa.El Go.Sort
set_option linter.unusedVariables false
set_option linter.unusedSimpArgs false

def compF : Pr → List Pr → List Pr
  | _, [] => []
  | p, y :: R => if y.1 = p.1 then compF y R else y :: compF y R
/-- Of those that follow one another with the same number the first. -/
def comp : List Pr → List Pr
  | [] => []
  | x :: R => x :: compF x R
theorem compF_snoc (z : Pr) : ∀ (R : List Pr) (p : Pr), compF p (R ++ [z]) = compF p R ++ (if z.1 = (R.getLastD p).1 then [] else [z])
  | [], p => by by_cases h : z.1 = p.1 <;> simp [compF, h]
  | y :: R, p => by
    have ih := compF_snoc z R y
    have e : (y :: R).getLastD p = R.getLastD y := by cases R <;> simp [List.getLastD]
    rw [List.cons_append, compF, compF, e]
    split
    · exact ih
    · rw [ih]; rfl
theorem getLastD_take {x p : Pr} : ∀ (R : List Pr) (i : Nat), i < R.length → ((x :: R).take (i + 1)).getLastD p = at_ (x :: R) i := by
  intro R
  induction R generalizing x p with
  | nil => intro i hi; simp at hi
  | cons y R ih =>
    intro i hi
    match i with
    | 0 => simp [at_]
    | i + 1 =>
      have h1 := ih (x := y) (p := x) i (by simpa using hi)
      rw [List.take_succ_cons]
      have e : (x :: (y :: R).take (i + 1)).getLastD p = ((y :: R).take (i + 1)).getLastD x := by cases h : (y :: R).take (i + 1) <;> simp [List.getLastD]
      rw [e, h1]
      simp [at_]
theorem comp_snoc (D : List Pr) (k : Nat) (h0 : 0 < k) (hk : k < D.length) : comp (D.take (k + 1)) = comp (D.take k) ++ (if (at_ D k).1 = (at_ D (k - 1)).1 then [] else [at_ D k]) := by
  cases D with
  | nil => simp at hk
  | cons x R =>
    obtain ⟨j, rfl⟩ : ∃ j, k = j + 1 := ⟨k - 1, by omega⟩
    have hj : j < R.length := by simpa using hk
    rw [List.take_succ_cons, List.take_succ_cons, comp, comp, List.take_succ_eq_append_getElem hj, compF_snoc]
    have e1 : at_ (x :: R) (j + 1) = R[j] := at_eq hk
    have e2 : (R.take j).getLastD x = at_ (x :: R) j := by
      match j with
      | 0 => simp [at_]
      | i + 1 =>
        have := getLastD_take (x := x) (p := x) R (i + 1) (by omega)
        rw [List.take_succ_cons] at this
        have e : (x :: R.take (i + 1)).getLastD x = (R.take (i + 1)).getLastD x := by cases h : R.take (i + 1) <;> simp [List.getLastD]
        rw [← e, this]
    rw [e1, e2, Nat.add_sub_cancel]
    rfl
theorem comp_eq {D : List Pr} {k : Nat} (h0 : 0 < k) (hk : k < D.length) (h : (at_ D k).1 = (at_ D (k - 1)).1) : comp (D.take (k + 1)) = comp (D.take k) := by rw [comp_snoc D k h0 hk, if_pos h, List.append_nil]
theorem comp_ne {D : List Pr} {k : Nat} (h0 : 0 < k) (hk : k < D.length) (h : ¬ (at_ D k).1 = (at_ D (k - 1)).1) : comp (D.take (k + 1)) = comp (D.take k) ++ [at_ D k] := by rw [comp_snoc D k h0 hk, if_neg h]
theorem comp_one (D : List Pr) (h : D.length ≤ 1) : comp D = D := by
  match D, h with
  | [], _ => rfl
  | [x], _ => rfl
  | _ :: _ :: _, h => simp at h
theorem take_at {D : List Pr} {k : Nat} (hk : k < D.length) : D.take (k + 1) = D.take k ++ [at_ D k] := by rw [at_eq hk, List.take_succ_eq_append_getElem hk]
theorem at_of_drop {D D1 : List Pr} {p k : Nat} (h : D1.drop p = D.drop p) (hp : p ≤ k) : at_ D1 k = at_ D k := by
  have : (D1.drop p)[k - p]? = (D.drop p)[k - p]? := by rw [h]
  rw [List.getElem?_drop, List.getElem?_drop, show p + (k - p) = k by omega] at this
  simp [at_, List.getD_eq_getElem?_getD, this]

set_option maxRecDepth 100000 in
set_option maxHeartbeats 1000000 in
theorem eq_any (xa xb ya yb : Int) (B : Bool) (hB : Hid (decide (xa = ya) = B)) (w : World) :
    Calls Try.prog 43 #[.agg #[.int .i64 xa, .int .i32 xb], .agg #[.int .i64 ya, .int .i32 yb]] w fun e w' => e = .returned (.bool B) ∧ ∃ q os, w' = grow (w.drewN q) os := by
  have hB2 : (xa == ya) = B := by rw [← hB.out]; rfl
  go_enter Try.func43, Try.ntmps43
  go_wp2
  go_ret
  refine ⟨?_, 0, #[_, _], by rw [alloc_eq_grow, alloc_eq_grow, grow_grow]; rfl⟩
  first | rfl | simp [hB2] | simp [← hB2]
theorem eq_grown (xa xb ya yb : Int) (B : Bool) (hB : Hid (decide (xa = ya) = B)) (w : World) (n : Nat) (os : Array Obj) :
    Calls Try.prog 43 #[.agg #[.int .i64 xa, .int .i32 xb], .agg #[.int .i64 ya, .int .i32 yb]] (grow (w.drewN n) os) fun e w'' => e = .returned (.bool B) ∧ ∃ p : GrownBy, w'' = grow (w.drewN p.n) p.os :=
  Calls.grown_of (eq_any xa xb ya yb B hB _)
theorem eq_same (xa xb yb : Int) (w : World) (n : Nat) (os : Array Obj) :
    Calls Try.prog 43 #[.agg #[.int .i64 xa, .int .i32 xb], .agg #[.int .i64 xa, .int .i32 yb]] (grow (w.drewN n) os) fun e w'' => e = .returned (.bool true) ∧ ∃ p : GrownBy, w'' = grow (w.drewN p.n) p.os :=
  eq_grown xa xb xa yb true (Hid.mk' (decide_eq_true rfl)) w n os
theorem eq_diff (xa xb ya yb : Int) (h : ¬ xa = ya) (w : World) (n : Nat) (os : Array Obj) :
    Calls Try.prog 43 #[.agg #[.int .i64 xa, .int .i32 xb], .agg #[.int .i64 ya, .int .i32 yb]] (grow (w.drewN n) os) fun e w'' => e = .returned (.bool false) ∧ ∃ p : GrownBy, w'' = grow (w.drewN p.n) p.os :=
  eq_grown xa xb ya yb false (Hid.mk' (decide_eq_false h)) w n os
theorem SW.reads' {w0 W : World} {g : Nat} {L : List Pr} (h : SW w0 g L W) {i : Nat} (hi : i < L.length) {c v : Int} (hx : at_ L i = (c, v)) : (∀ n os, (grow (W.drewN n) os).cell? ⟨g, i * 2, none⟩ = some (.int .i64 c)) ∧ (∀ n os, (grow (W.drewN n) os).cell? ⟨g, i * 2 + 1, none⟩ = some (.int .i32 v)) := by
  refine ⟨fun n os => ?_, fun n os => ?_⟩
  · have := ((h.grown n os).cell hi).1; rwa [hx] at this
  · have := ((h.grown n os).cell hi).2; rwa [hx] at this
theorem rd_own_take {w : World} {g N : Nat} {D : List Pr} (h : EE.Own w (some ⟨g, 0, none⟩) N D) (k : Nat) : EE.Rd w (some ⟨g, 0, none⟩) (D.take k) := by
  rcases h.rd with ⟨h, _⟩ | ⟨a, e, hc⟩
  · cases h
  · cases e
    refine .inr ⟨_, rfl, fun j u hu => hc j u ?_⟩
    have e : EE.cells D = EE.cells (D.take k) ++ EE.cells (D.drop k) := by rw [← cells_append, List.take_append_drop]
    rw [e, List.getElem?_append_left (List.getElem?_eq_some_iff.1 hu).1]
    exact hu

end Go.Proofs.Ytcoiddmgcoeocaa.Tr

/- CompactFunc: a walk. -/
namespace Go.Proofs.Ytcoiddmgcoeocaa.Tr
open Go.ChangeShapes Go.WideShapes Go.ChangeAt Go.RowKit Go.Maps Go.Proofs.Ytcoiddmgcoeocaa.Mem Go.Proofs.Ytcoiddmgcoeocaa.El Go.Sort
set_option linter.unusedVariables false
set_option linter.unusedSimpArgs false

set_option maxRecDepth 100000 in
set_option maxHeartbeats 2000000 in
theorem compact_any (g N : Nat) (D : List Pr) (w0 w : World) (h : SW w0 g D w) (hN : D.length = N) (hN2 : N ≤ 70000) :
    Calls Try.prog 42 #[.slice (some ⟨g, 0, none⟩) N N, .func (.func 43) #[] #[]] w fun e w' => ∃ m, e = .returned (.slice (some ⟨g, 0, none⟩) m N) ∧ m = (comp D).length ∧ m ≤ N ∧ EE.Rd w' (some ⟨g, 0, none⟩) (comp D) ∧ w0.grownBy w' (some g) := by
  have h0 := Hid.mk' h
  have hN0 := Hid.mk' hN
  clear h hN
  have mixed := mixed
  by_cases hsm : N < 2
  · have hs' : (N : Int) < 2 := by omega
    have hc : Hid (comp D = D) := Hid.mk' (comp_one D (by rw [hN0.out]; omega))
    go_enter Try.func42, Try.ntmps42
    go_wp2_with fail
    go_ret
    refine ⟨N, rfl, by rw [hc.out, hN0.out], Nat.le_refl _, ?_, h0.out.gr⟩
    rw [hc.out]
    exact h0.out.own.rd
  · have hs' : ¬ (N : Int) < 2 := by omega
    have hs'' : decide ((N : Int) < 2) = false := decide_eq_false hs'
    go_enter Try.func42, Try.ntmps42
    go_wp2_with fail
    go_loopw [5] (fun t5 wx => ∃ (k : Nat), 1 ≤ k ∧ k ≤ N ∧ t5 = .int .i64 (k : Int) ∧ Hid (comp (D.take k) = D.take k) ∧ Hid (SW w0 g D wx)) (fun t5 _ => N - (intOf t5).toNat)
    case atStart => exact ⟨1, by omega, by omega, rfl, Hid.mk' (comp_one _ (by rw [List.length_take]; omega)), h0⟩
    case round =>
      obtain ⟨k, hk1, hkN, rfl, hC, hS⟩ := hrel
      clear h0
      by_cases hlt : k < N
      · have hlt' : (k : Int) < (N : Int) := by omega
        obtain ⟨kp, rfl⟩ : ∃ kp, k = kp + 1 := ⟨k - 1, by omega⟩
        have hl1 : kp + 1 < D.length := by rw [hN0.out]; exact hlt
        have hl0 : kp < D.length := by omega
        have htake := Hid.mk' (take_at hl1)
        have cE : Hid ((at_ D (kp + 1)).1 = (at_ D kp).1 → comp (D.take (kp + 1 + 1)) = comp (D.take (kp + 1))) := Hid.mk' (fun h => comp_eq (by omega) hl1 h)
        have cN : Hid (¬ (at_ D (kp + 1)).1 = (at_ D kp).1 → comp (D.take (kp + 1 + 1)) = comp (D.take (kp + 1)) ++ [at_ D (kp + 1)]) := Hid.mk' (fun h => comp_ne (by omega) hl1 h)
        obtain ⟨xa, xb, hx⟩ : ∃ a b, at_ D (kp + 1) = (a, b) := ⟨_, _, rfl⟩
        obtain ⟨ya, yb, hy⟩ : ∃ a b, at_ D kp = (a, b) := ⟨_, _, rfl⟩
        rw [hx] at cE cN htake
        rw [hy] at cE cN
        simp only at cE cN
        obtain ⟨cx, cx1⟩ := hS.out.reads' hl1 hx
        obtain ⟨cy, cy1⟩ := hS.out.reads' hl0 hy
        have z1 : (kp : Int) + 1 < (N : Int) := by omega
        have z2 : (kp : Int) < (N : Int) := by omega
        have z3 : (0 : Int) ≤ (kp : Int) := by omega
        have z4 : (0 : Int) ≤ (kp : Int) + 1 := by omega
        have z5 : ((kp : Int) + 1).toNat = kp + 1 := by omega
        have z6 : IntKind.i64.wrap (kp : Int) = (kp : Int) := by rw [IntKind.wrap_i64]; omega
        have z8 : (kp : Int) + 1 - 1 = (kp : Int) := by omega
        have hl1' := Hid.mk' hl1
        clear hx hy hl1 hl0
        by_cases hxy : xa = ya
        · have hcE := Hid.mk' (cE.out hxy)
          clear cE cN
          subst hxy
          have z9 : ¬ N = kp + 1 := by omega
          have z10 : (kp : Int) + 1 ≤ (N : Int) := by omega
          have z11 : kp + 1 ≤ N := by omega
          obtain ⟨ns, hns⟩ : ∃ ns, N - (kp + 1) = ns := ⟨_, rfl⟩
          go_wp2_with fail
          go_quiet_grown (first | (go_at_call 43; exact eq_same _ _ _ _ _ _))
          have hS3 := Hid.mk' (hS.out.grown nq osq)
          clear cx cx1 cy cy1 hS
          generalize grow (wr.drewN nq) osq = w3 at *
          go_wp2_with fail
          go_loopw [5, 7] (fun t5 t7 wx => ∃ (kk k2 : Nat) (D1 : List Pr), 1 ≤ k2 ∧ kp + 1 + k2 ≤ N ∧ kk < kp + 1 + k2 ∧ 1 ≤ kk ∧ t5 = .int .i64 (kk : Int) ∧ t7 = .int .i64 (k2 : Int) ∧ Hid (D1.length = N) ∧ Hid (D1.take kk = comp (D.take (kp + 1 + k2))) ∧ Hid (D1.drop (kp + k2) = D.drop (kp + k2)) ∧ Hid (SW w0 g D1 wx)) (fun _ t7 _ => N - (intOf t7).toNat)
          case atStart => exact ⟨kp + 1, 1, D, by omega, by omega, by omega, by omega, by go_num, rfl, hN0, Hid.mk' (by rw [hcE.out, hC.out]), Hid.mk' rfl, hS3⟩
          case round =>
            obtain ⟨kk, k2, D1, y1, y2, y3, y4, rfl, rfl, hD1, hT, hR, hS4⟩ := hrel
            clear hS3 hC htake
            by_cases hlt2 : kp + 1 + k2 < N
            · obtain ⟨kq, rfl⟩ : ∃ kq, k2 = kq + 1 := ⟨k2 - 1, by omega⟩
              obtain ⟨ps, hps⟩ : ∃ ps, kp + 1 + kq = ps := ⟨_, rfl⟩
              have hl1 : ps + 1 < D.length := by rw [hN0.out]; omega
              have hd1 : ps + 1 < D1.length := by rw [hD1.out]; omega
              have hx0 : at_ D1 (ps + 1) = at_ D (ps + 1) := at_of_drop hR.out (by omega)
              have hy0 : at_ D1 ps = at_ D ps := at_of_drop hR.out (by omega)
              have cE : Hid ((at_ D (ps + 1)).1 = (at_ D ps).1 → comp (D.take (ps + 1 + 1)) = comp (D.take (ps + 1))) := Hid.mk' (fun h => comp_eq (by omega) hl1 h)
              have cN : Hid (¬ (at_ D (ps + 1)).1 = (at_ D ps).1 → comp (D.take (ps + 1 + 1)) = comp (D.take (ps + 1)) ++ [at_ D (ps + 1)]) := Hid.mk' (fun h => comp_ne (by omega) hl1 h)
              have hTs : Hid (D1.take kk = comp (D.take (ps + 1))) := Hid.mk' (by rw [hT.out]; congr 2; omega)
              have hRs : Hid (D1.drop (ps + 1) = D.drop (ps + 1)) := Hid.mk' (by
                have := congrArg (List.drop 1) hR.out
                rw [List.drop_drop, List.drop_drop] at this
                rwa [show kp + (kq + 1) + 1 = ps + 1 by omega] at this)
              rw [← hx0] at cE cN
              rw [← hy0] at cE cN
              obtain ⟨ua, ub, hu⟩ : ∃ a b, at_ D1 (ps + 1) = (a, b) := ⟨_, _, rfl⟩
              obtain ⟨va, vb, hv⟩ : ∃ a b, at_ D1 ps = (a, b) := ⟨_, _, rfl⟩
              rw [hu] at cE cN
              rw [hv] at cE cN
              simp only at cE cN
              obtain ⟨cx, cx1⟩ := hS4.out.reads' hd1 hu
              obtain ⟨cy, cy1⟩ := hS4.out.reads' (i := ps) (by omega) hv
              have ex : (kp + 1) * 2 + (kq + 1) * 2 = (ps + 1) * 2 := by omega
              have ey : (kp + 1) * 2 + kq * 2 = ps * 2 := by omega
              have q1 : (kq : Int) + 1 < (ns : Int) := by omega
              have q2 : (kq : Int) < (ns : Int) := by omega
              have q3 : (0 : Int) ≤ (kq : Int) := by omega
              have q4 : (0 : Int) ≤ (kq : Int) + 1 := by omega
              have q5 : ((kq : Int) + 1).toNat = kq + 1 := by omega
              have q6 : IntKind.i64.wrap (kq : Int) = (kq : Int) := by rw [IntKind.wrap_i64]; omega
              have q8 : (kq : Int) + 1 - 1 = (kq : Int) := by omega
              have hd1' := Hid.mk' hd1
              have hps' := Hid.mk' hps
              have hns' := Hid.mk' hns
              clear hx0 hy0 hl1 hd1 hv hT hR hps
              by_cases huv : ua = va
              · have hcE := Hid.mk' (cE.out huv)
                clear cE cN
                subst huv
                go_wp2_with fail
                go_quiet_grown (first | (go_at_call 43; exact eq_same _ _ _ _ _ _))
                have hS5 := Hid.mk' (hS4.out.grown nq osq)
                clear cx cx1 cy cy1 hS4
                generalize grow (wr.drewN nq) osq = w4 at *
                go_wp2_with fail
                go_roundw
                case rel => exact ⟨kk, kq + 1 + 1, D1, by omega, by omega, by omega, y4, rfl, by go_num, hD1, Hid.mk' (by have := hps'.out; rw [hTs.out, ← hcE.out]; congr 2; omega), Hid.mk' (by have := hps'.out; rw [show kp + (kq + 1 + 1) = ps + 1 by omega]; exact hRs.out), hS5⟩
                case measure => simp [intOf]; omega
              · have hcN := Hid.mk' (cN.out huv)
                have hb2 := Hid.mk' huv
                clear cE cN
                go_wp2_with fail
                go_quiet_grown (first | (go_at_call 43; exact eq_diff _ _ _ _ hb2.out _ _ _))
                have hS5 := Hid.mk' (hS4.out.grown nq osq)
                have dx := cx nq osq
                have dx1 := cx1 nq osq
                clear cx cx1 cy cy1 hS4
                generalize grow (wr.drewN nq) osq = w4 at *
                have hkl : kk < D1.length := by rw [hD1.out]; omega
                obtain ⟨c0, c1⟩ := hS5.out.cell hkl
                have hf := hS5.out.free (List.ne_nil_of_length_pos (by omega))
                have hS6 := Hid.mk' (own_set2 hS5.out.own hkl ua ub)
                have k1 : (kk : Int) < (N : Int) := by omega
                have k2' : (0 : Int) ≤ (kk : Int) := by omega
                clear hkl
                go_wp2_with fail
                go_roundw
                case rel =>
                  refine ⟨kk + 1, kq + 1 + 1, D1.set kk (ua, ub), by omega, by omega, by omega, by omega, by go_num, by go_num, Hid.mk' (by simpa using hD1.out), Hid.mk' ?_, Hid.mk' ?_, Hid.mk' ⟨?_, ?_⟩⟩
                  · have e1 := hps'.out
                    rw [show kp + 1 + (kq + 1 + 1) = ps + 1 + 1 by omega, hcN.out, ← hTs.out, List.take_succ_eq_append_getElem (by rw [List.length_set, hD1.out]; omega), List.getElem_set_self, List.take_set, List.set_eq_of_length_le (by rw [List.length_take]; omega)]
                  · have e1 := hps'.out
                    rw [show kp + (kq + 1 + 1) = ps + 1 by omega, List.drop_set_of_lt (by omega)]
                    exact hRs.out
                  · simpa using hS6.out
                  · exact grownBy_trans hS5.out.gr (grownBy_trans (grownBy_setCell _ _ _) (grownBy_setCell _ _ _))
                case measure => simp [intOf]; omega
            · have e2 : kp + 1 + k2 = N := by omega
              have hn2 : ns = k2 := by omega
              subst hn2
              have q1 : ¬ (ns : Int) < (ns : Int) := by omega
              have hfin : Hid (D1.take kk = comp D) := Hid.mk' (by rw [hT.out, e2, List.take_of_length_le (by rw [hN0.out]; exact Nat.le_refl _)])
              obtain ⟨w4, hcl, hown, hgr⟩ := clear_ent (w := wr) 0 g N D1 (by have := hS4.out.own; rwa [hD1.out] at this) hD1.out kk (by omega) (N - kk)
              have hres : Hid (EE.Rd w4 (some ⟨g, 0, none⟩) (comp D)) := Hid.mk' (by
                have h1 := rd_own_take hown kk
                rw [List.take_append_of_le_length (by rw [List.length_take, hD1.out]; omega), List.take_take, Nat.min_self, hfin.out] at h1
                exact h1)
              have hlen : Hid (kk = (comp D).length) := Hid.mk' (by rw [← hfin.out, List.length_take, hD1.out]; omega)
              have hgg : Hid (w0.grownBy w4 (some g)) := Hid.mk' (grownBy_trans hS4.out.gr hgr)
              clear hown hgr
              go_wp2_with fail
              go_ret
              exact ⟨kk, rfl, hlen.out, by omega, hres.out, hgg.out⟩
        · have hb := Hid.mk' hxy
          have hcN := Hid.mk' (cN.out hxy)
          clear cE cN
          go_wp2_with fail
          go_quiet_grown (first | (go_at_call 43; exact eq_diff _ _ _ _ hb.out _ _ _))
          have hS3 := Hid.mk' (hS.out.grown nq osq)
          clear cx cx1 cy cy1 hS
          generalize grow (wr.drewN nq) osq = w3 at *
          go_wp2_with fail
          go_roundw
          case rel => exact ⟨kp + 1 + 1, by omega, by omega, by go_num, Hid.mk' (by rw [hcN.out, htake.out, hC.out]), hS3⟩
          case measure => simp [intOf]; omega
      · obtain rfl : k = N := by omega
        have hlt' : ¬ (k : Int) < (k : Int) := by omega
        have hc : Hid (comp D = D) := Hid.mk' (by have := hC.out; rwa [List.take_of_length_le (by rw [hN0.out]; exact Nat.le_refl _)] at this)
        go_wp2_with fail
        go_ret
        refine ⟨k, rfl, by rw [hc.out, hN0.out], Nat.le_refl _, ?_, hS.out.gr⟩
        rw [hc.out]
        exact hS.out.own.rd
end Go.Proofs.Ytcoiddmgcoeocaa.Tr
