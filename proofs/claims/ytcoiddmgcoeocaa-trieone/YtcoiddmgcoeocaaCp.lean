/- CompactFunc in plain functions; its test. -/
import Derived.Test.YtcoiddmgcoeocaaIns
import Derived.Test.YtcoiddmgcoeocaaMk
namespace Go.Proofs.Ytcoiddmgcoeocaa.Tr
open Go.ChangeShapes Go.WideShapes Go.ChangeAt Go.RowKit Go.Maps Go.Proofs.Ytcoiddmgcoeocaa.Mem Go.Proofs.Ytcoiddmgcoeocaa.El Go.Sort
set_option linter.unusedVariables false
set_option linter.unusedSimpArgs false

def compF : Pr → List Pr → List Pr
  | _, [] => []
  | p, y :: R => if y.1 = p.1 then compF y R else y :: compF y R
/-- Of those that follow one another with the same number the first. -/
def comp : List Pr → List Pr
  | [] => []
  | x :: R => x :: compF x R
theorem compF_snoc (z : Pr) : ∀ (R : List Pr) (p : Pr), compF p (R ++ [z]) = compF p R ++ (if z.1 = (R.getLastD p).1 then [] else [z])
  | [], p => by by_cases h : z.1 = p.1 <;> simp [compF, h]
  | y :: R, p => by
    have ih := compF_snoc z R y
    have e : (y :: R).getLastD p = R.getLastD y := by cases R <;> simp [List.getLastD]
    rw [List.cons_append, compF, compF, e]
    split
    · exact ih
    · rw [ih]; rfl
theorem getLastD_take {x p : Pr} : ∀ (R : List Pr) (i : Nat), i < R.length → ((x :: R).take (i + 1)).getLastD p = at_ (x :: R) i := by
  intro R
  induction R generalizing x p with
  | nil => intro i hi; simp at hi
  | cons y R ih =>
    intro i hi
    match i with
    | 0 => simp [at_]
    | i + 1 =>
      have h1 := ih (x := y) (p := x) i (by simpa using hi)
      rw [List.take_succ_cons]
      have e : (x :: (y :: R).take (i + 1)).getLastD p = ((y :: R).take (i + 1)).getLastD x := by cases h : (y :: R).take (i + 1) <;> simp [List.getLastD]
      rw [e, h1]
      simp [at_]
theorem comp_snoc (D : List Pr) (k : Nat) (h0 : 0 < k) (hk : k < D.length) : comp (D.take (k + 1)) = comp (D.take k) ++ (if (at_ D k).1 = (at_ D (k - 1)).1 then [] else [at_ D k]) := by
  cases D with
  | nil => simp at hk
  | cons x R =>
    obtain ⟨j, rfl⟩ : ∃ j, k = j + 1 := ⟨k - 1, by omega⟩
    have hj : j < R.length := by simpa using hk
    rw [List.take_succ_cons, List.take_succ_cons, comp, comp, List.take_succ_eq_append_getElem hj, compF_snoc]
    have e1 : at_ (x :: R) (j + 1) = R[j] := at_eq hk
    have e2 : (R.take j).getLastD x = at_ (x :: R) j := by
      match j with
      | 0 => simp [at_]
      | i + 1 =>
        have := getLastD_take (x := x) (p := x) R (i + 1) (by omega)
        rw [List.take_succ_cons] at this
        have e : (x :: R.take (i + 1)).getLastD x = (R.take (i + 1)).getLastD x := by cases h : R.take (i + 1) <;> simp [List.getLastD]
        rw [← e, this]
    rw [e1, e2, Nat.add_sub_cancel]
    rfl
theorem comp_eq {D : List Pr} {k : Nat} (h0 : 0 < k) (hk : k < D.length) (h : (at_ D k).1 = (at_ D (k - 1)).1) : comp (D.take (k + 1)) = comp (D.take k) := by rw [comp_snoc D k h0 hk, if_pos h, List.append_nil]
theorem comp_ne {D : List Pr} {k : Nat} (h0 : 0 < k) (hk : k < D.length) (h : ¬ (at_ D k).1 = (at_ D (k - 1)).1) : comp (D.take (k + 1)) = comp (D.take k) ++ [at_ D k] := by rw [comp_snoc D k h0 hk, if_neg h]
theorem comp_one (D : List Pr) (h : D.length ≤ 1) : comp D = D := by
  match D, h with
  | [], _ => rfl
  | [x], _ => rfl
  | _ :: _ :: _, h => simp at h
theorem take_at {D : List Pr} {k : Nat} (hk : k < D.length) : D.take (k + 1) = D.take k ++ [at_ D k] := by rw [at_eq hk, List.take_succ_eq_append_getElem hk]
theorem at_of_drop {D D1 : List Pr} {p k : Nat} (h : D1.drop p = D.drop p) (hp : p ≤ k) : at_ D1 k = at_ D k := by
  have : (D1.drop p)[k - p]? = (D.drop p)[k - p]? := by rw [h]
  rw [List.getElem?_drop, List.getElem?_drop, show p + (k - p) = k by omega] at this
  simp [at_, List.getD_eq_getElem?_getD, this]

set_option maxRecDepth 100000 in
set_option maxHeartbeats 1000000 in
theorem eq_any (xa xb ya yb : Int) (B : Bool) (hB : Hid (decide (xa = ya) = B)) (w : World) :
    Calls Try.prog 43 #[.agg #[.int .i64 xa, .int .i32 xb], .agg #[.int .i64 ya, .int .i32 yb]] w fun e w' => e = .returned (.bool B) ∧ ∃ q os, w' = grow (w.drewN q) os := by
  have hB2 : (xa == ya) = B := by rw [← hB.out]; rfl
  go_enter Try.func43, Try.ntmps43
  go_wp2
  go_ret
  refine ⟨?_, 0, #[_, _], by rw [alloc_eq_grow, alloc_eq_grow, grow_grow]; rfl⟩
  first | rfl | simp [hB2] | simp [← hB2]
theorem eq_grown (xa xb ya yb : Int) (B : Bool) (hB : Hid (decide (xa = ya) = B)) (w : World) (n : Nat) (os : Array Obj) :
    Calls Try.prog 43 #[.agg #[.int .i64 xa, .int .i32 xb], .agg #[.int .i64 ya, .int .i32 yb]] (grow (w.drewN n) os) fun e w'' => e = .returned (.bool B) ∧ ∃ p : GrownBy, w'' = grow (w.drewN p.n) p.os :=
  Calls.grown_of (eq_any xa xb ya yb B hB _)
theorem eq_same (xa xb yb : Int) (w : World) (n : Nat) (os : Array Obj) :
    Calls Try.prog 43 #[.agg #[.int .i64 xa, .int .i32 xb], .agg #[.int .i64 xa, .int .i32 yb]] (grow (w.drewN n) os) fun e w'' => e = .returned (.bool true) ∧ ∃ p : GrownBy, w'' = grow (w.drewN p.n) p.os :=
  eq_grown xa xb xa yb true (Hid.mk' (decide_eq_true rfl)) w n os
theorem eq_diff (xa xb ya yb : Int) (h : ¬ xa = ya) (w : World) (n : Nat) (os : Array Obj) :
    Calls Try.prog 43 #[.agg #[.int .i64 xa, .int .i32 xb], .agg #[.int .i64 ya, .int .i32 yb]] (grow (w.drewN n) os) fun e w'' => e = .returned (.bool false) ∧ ∃ p : GrownBy, w'' = grow (w.drewN p.n) p.os :=
  eq_grown xa xb ya yb false (Hid.mk' (decide_eq_false h)) w n os
theorem SW.reads' {w0 W : World} {g : Nat} {L : List Pr} (h : SW w0 g L W) {i : Nat} (hi : i < L.length) {c v : Int} (hx : at_ L i = (c, v)) : (∀ n os, (grow (W.drewN n) os).cell? ⟨g, i * 2, none⟩ = some (.int .i64 c)) ∧ (∀ n os, (grow (W.drewN n) os).cell? ⟨g, i * 2 + 1, none⟩ = some (.int .i32 v)) := by
  refine ⟨fun n os => ?_, fun n os => ?_⟩
  · have := ((h.grown n os).cell hi).1; rwa [hx] at this
  · have := ((h.grown n os).cell hi).2; rwa [hx] at this
theorem rd_own_take {w : World} {g N : Nat} {D : List Pr} (h : EE.Own w (some ⟨g, 0, none⟩) N D) (k : Nat) : EE.Rd w (some ⟨g, 0, none⟩) (D.take k) := by
  rcases h.rd with ⟨h, _⟩ | ⟨a, e, hc⟩
  · cases h
  · cases e
    refine .inr ⟨_, rfl, fun j u hu => hc j u ?_⟩
    have e : EE.cells D = EE.cells (D.take k) ++ EE.cells (D.drop k) := by rw [← cells_append, List.take_append_drop]
    rw [e, List.getElem?_append_left (List.getElem?_eq_some_iff.1 hu).1]
    exact hu

end Go.Proofs.Ytcoiddmgcoeocaa.Tr
