/- What a wish that is printed is taken apart as (plain); works: a walk. -/
import Derived.Test.YtljkncgbabiojaaDoorNY23
namespace Go.Proofs.YtljkncgbabiojaaDoor.C23
open Go.ChangeShapes Go.WideShapes Go.ChangeAt Go.RowKit Go.Proofs.YtljkncgbabiojaaDoor.Mem Go.Proofs.YtljkncgbabiojaaDoor.El Go.Proofs.YtljkncgbabiojaaDoor.St Go.Proofs.YtljkncgbabiojaaDoor.Ri Go.Proofs.YtljkncgbabiojaaDoor.Sx Go.Proofs.YtljkncgbabiojaaDoor.Cb Go.Proofs.YtljkncgbabiojaaDoor.Ar
set_option linter.unusedVariables false
set_option linter.unusedSimpArgs false

theorem k1 : fd [108, 97, 116, 105, 110, 49] = 21 := by decide +kernel
theorem k2 : prs [117, 116, 102, 45, 56, 47, 47, 116, 114, 97, 110, 115, 108, 105, 116, 47, 47, 73, 71, 78, 79, 82, 69] = (2, true, true, 0) := by decide +kernel
theorem k3 : prs [47, 47, 84, 82, 65, 78, 83, 76, 73, 84] = (0, false, false, 20) := by decide +kernel
theorem k4 : nm 2 = [85, 84, 70, 45, 56] := by decide +kernel
theorem prt_back : ∀ p ∈ alT, ∀ t i : Bool, prs (prt (p.1 : Int) t i) = ((p.1 : Int), t, i, 0) := by decide +kernel
theorem al_upper : ∀ p ∈ alT, ∀ x ∈ p.2, large x = x ∧ (∀ c ∈ x, c ≠ 47) ∧ fd x = p.1 := by decide +kernel
theorem lg_lg (c : UInt8) : lg (lg c) = lg c := by
  unfold lg
  by_cases h : 97 ≤ c.toNat ∧ c.toNat ≤ 122
  · rw [if_pos h, if_neg (by rw [UInt8.toNat_ofNat']; omega)]
  · rw [if_neg h, if_neg h]
theorem large_large (s : List UInt8) : large (large s) = large s := by
  unfold large
  rw [List.map_map]
  congr 1
  funext c
  exact lg_lg c
theorem fd_large (s : List UInt8) : fd (large s) = fd s := by unfold fd; rw [large_large]
theorem pts_plain : ∀ (L cur : List UInt8), (∀ c ∈ L, c ≠ 47) → pts cur L = [cur ++ L]
  | [], cur, _ => by rw [pts, List.append_nil]
  | [a], cur, _ => by rw [pts]
  | a :: b :: r, cur, h => by
    rw [pts_cons, if_neg (fun e => h a (by simp) e.1), pts_plain (b :: r) _ (fun c hc => h c (List.mem_cons_of_mem _ hc)), List.append_assoc]
    rfl
theorem lg_slash {c : UInt8} (h : c = 47) : lg c = 47 := by rw [h]; decide
/-- Any letters of a name: it is looked up and taken apart as the kind that it is. -/
theorem any_letters {p : Nat × List (List UInt8)} (hp : p ∈ alT) {x y : List UInt8} (hx : x ∈ p.2) (hy : large y = x) : fd y = p.1 ∧ prs y = ((p.1 : Int), false, false, 0) ∧ y.length ≤ 20 := by
  obtain ⟨h1, h2, h3⟩ := al_upper p hp x hx
  have hl : y.length ≤ 20 := by rw [← large_len y, hy]; exact ((al_at p hp).2.2.2.2.1 x hx).2
  have hf : fd y = p.1 := by rw [← fd_large, hy, h3]
  have hns : ∀ c ∈ y, c ≠ 47 := fun c hc e => h2 (lg c) (by rw [← hy]; exact List.mem_map.2 ⟨c, hc, rfl⟩) (lg_slash e)
  refine ⟨hf, ?_, hl⟩
  have hpt : pts [] y = [y] := by rw [pts_plain y [] hns, List.nil_append]
  have h1p := (al_at p hp).2.2.2.1
  unfold prs
  rw [if_neg (by omega), hpt]
  show (if fd y = 0 then _ else _) = _
  rw [hf, if_neg (by omega)]
  show (((fd y : Nat) : Int), false, false, (0 : Int)) = _
  rw [hf]
set_option maxRecDepth 100000 in
set_option maxHeartbeats 2000000 in
theorem works_any {P : World → Prop} (C : ConD P) (w : World) (hw : P w) : Calls Tryd.prog 10 #[] w fun e w' => e = .returned (.bool true) ∧ w.grownBy w' none := by
  have a1 : Hid (∀ w, P w → Calls Tryd.prog 13 #[.iface 9 (.string ⟨#[108, 97, 116, 105, 110, 49]⟩)] w fun e w' => e = .returned (.tuple #[.int .i64 21, .int .i64 0]) ∧ w.grownBy w' none) := Hid.mk' (fun w hw => by
    have h := C.looks [108, 97, 116, 105, 110, 49] (by simp) w hw
    rw [k1] at h
    exact h)
  have a2 : Hid (∀ w, P w → Calls Tryd.prog 6 #[.string ⟨#[117, 116, 102, 45, 56, 47, 47, 116, 114, 97, 110, 115, 108, 105, 116, 47, 47, 73, 71, 78, 79, 82, 69]⟩] w fun e w' => e = .returned (.tuple #[.agg (wC 2 true true), .int .i64 0]) ∧ w.grownBy w' none) := Hid.mk' (fun w hw => by
    have h := C.parse [117, 116, 102, 45, 56, 47, 47, 116, 114, 97, 110, 115, 108, 105, 116, 47, 47, 73, 71, 78, 79, 82, 69] (by simp) w hw
    rw [k2] at h
    exact h)
  have a3 : Hid (∀ w, P w → Calls Tryd.prog 6 #[.string ⟨#[47, 47, 84, 82, 65, 78, 83, 76, 73, 84]⟩] w fun e w' => e = .returned (.tuple #[.agg (wC 0 false false), .int .i64 20]) ∧ w.grownBy w' none) := Hid.mk' (fun w hw => by
    have h := C.parse [47, 47, 84, 82, 65, 78, 83, 76, 73, 84] (by simp) w hw
    rw [k3] at h
    exact h)
  obtain ⟨ns, hns⟩ : ∃ x, Hid (str [85, 84, 70, 45, 56] = x) := ⟨_, Hid.mk' rfl⟩
  have a4 : Hid (∀ w, P w → Calls Tryd.prog 14 #[.int .i64 2] w fun e w' => e = .returned (.string ns) ∧ w.grownBy w' none) := Hid.mk' (fun w hw => by
    have h := C.name 2 (by unfold I64; omega) w hw
    rw [k4, hns.out] at h
    exact h)
  have f1 : (ns.toList == [85, 84, 70, 45, 56]) = true := by rw [← hns.out, str_toList]; decide
  have K := Hid.mk' (fun (a b : World) (h : P a) (g : a.grownBy b none) => C.keep h g)
  have hq := Hid.mk' hw
  clear C hw hns
  go_enter Tryd.func10, Tryd.ntmps10
  go_upto_region 2 with (go_at_call 13; refine (a1.out _ hq.out).mono ?_; rintro e w1 ⟨rfl, hg1⟩; have hP1 := Hid.mk' (K.out _ _ hq.out hg1))
  go_upto_region 3 with (first
    | (go_at_call 6; refine (a2.out _ hP1.out).mono ?_; rintro e w2 ⟨rfl, hg2⟩)
    | (refine wpList_allocC _ rfl 24 rfl (wC 0 false false) (zeroWp _) ?_; intro w3 va3 hg3)
    | (refine wpList_storeC _ rfl 24 _ _ rfl w2.heap.size (wC 0 false false) (wC 2 true true) infoWp rfl (wC_one _ _ _) rfl rfl va3 ?_; intro w4 va4 hg4))
  have hG4 := Hid.mk' (grownBy_new (gt hg1 (gt hg2 hg3)) hg4 (fun q hq => by have h5 := Option.some.inj hq; have h6 := (gt hg1 hg2).size; omega))
  obtain ⟨V, hV⟩ : ∃ Y, Hid (w2.heap.size = Y) := ⟨_, Hid.mk' rfl⟩
  rw [hV.out] at va4
  rw [hV.out]
  have hP4 := Hid.mk' (K.out _ _ hq.out hG4.out)
  clear hg1 hg2 hg3 hg4 va3
  go_upto_region 4 with (first
    | (go_at_call 6; refine (a3.out _ hP4.out).mono ?_; rintro e w5 ⟨rfl, hg5⟩)
    | (refine wpList_allocC _ rfl 24 rfl (wC 0 false false) (zeroWp _) ?_; intro w6 va6 hg6)
    | (refine wpList_storeC _ rfl 24 _ _ rfl w5.heap.size (wC 0 false false) (wC 0 false false) infoWp rfl (wC_one _ _ _) rfl rfl va6 ?_; intro w7 va7 hg7))
  have va47 := ((va4.kept0 hg5).kept0 hg6).kept hg7 (by have := va4.lt; have := hg5.size; intro e; have h5 := Option.some.inj e; omega)
  have hG7 := Hid.mk' (grownBy_new (gt hG4.out (gt hg5 hg6)) hg7 (fun q hq => by have h5 := Option.some.inj hq; have h6 := (gt hG4.out hg5).size; omega))
  have hP7 := Hid.mk' (K.out _ _ hq.out hG7.out)
  have c0 := va47.cell 0 rfl
  have c1 := va47.cell 1 rfl
  have c2 := va47.cell 2 rfl
  clear hg5 hg6 hg7 va6 va7 va4 va47
  go_wp2_with (first
    | (go_at_call 14; refine (a4.out _ hP7.out).mono ?_; rintro e w8 ⟨rfl, hg8⟩))
  go_ret
  exact ⟨rfl, gt hG7.out hg8⟩
end Go.Proofs.YtljkncgbabiojaaDoor.C23
