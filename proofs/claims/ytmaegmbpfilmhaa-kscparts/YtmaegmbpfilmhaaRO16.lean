/- The program's Row of layer 16: a walk; what the laws want of the program. -/
import Derived.Test.YtmaegmbpfilmhaaRQ16
import Derived.Test.YtmaegmbpfilmhaaRE16
namespace Go.Proofs.Ytmaegmbpfilmhaa.C16
open Go.ChangeShapes Go.WideShapes Go.ChangeAt Go.RowKit Go.Proofs.Ytmaegmbpfilmhaa.Mem Go.Proofs.Ytmaegmbpfilmhaa.Ar Go.Proofs.Ytmaegmbpfilmhaa.El Go.Proofs.Ytmaegmbpfilmhaa.Ru
set_option linter.unusedVariables false
set_option linter.unusedSimpArgs false

theorem rd_arr {w : World} {B : Nat} {Z : List Int} (h : ArrAt w B 40 .i32 Z) : RuE.Rd w (some ⟨B, 0, none⟩) Z := by
  have e : ∀ L : List Int, RuE.cells L = L.map (Value.int .i32) := by
    intro L
    induction L with
    | nil => rfl
    | cons x L ih => rw [cells_cons, ih]; rfl
  refine .inr ⟨_, rfl, fun j u hu => ?_⟩
  rw [e, List.getElem?_map] at hu
  cases hj : Z[j]? with
  | none => rw [hj] at hu; cases hu
  | some z =>
    rw [hj] at hu
    cases hu
    obtain ⟨h1, h2⟩ := List.getElem?_eq_some_iff.1 hj
    have := h.cell j h1
    rw [h2] at this
    rw [addr_add, Nat.zero_add]
    exact this
theorem src_arr {w : World} {B : Nat} {Z : List Int} (h : ArrAt w B 40 .i32 Z) (hl : Z.length = 94) : Src Try.prog 1 27 (.slice (some ⟨B, 0, none⟩) 94 94) Z.length (RuE.cells Z) w := by
  have := src_of (E := RuE) (rd_arr h) 27 94 Try.underlying27
  rw [hl] at this ⊢
  exact this
set_option maxRecDepth 100000 in
set_option maxHeartbeats 1000000 in
theorem pRow (k : Int) (w : World) (F : List Int) (hF : Hid (rowR k = F)) : Calls Try.prog 12 #[.int .i64 k] w fun e w' => ∃ ro rc, e = .returned (.slice ro F.length rc) ∧ RuE.Own w' ro rc F ∧ w.grownBy w' none ∧ (∀ g, blk ro = some g → w.heap.size ≤ g) := by
  obtain ⟨Z, hZ⟩ : ∃ Z, Hid (tabI k = Z) := ⟨_, Hid.mk' rfl⟩
  have hl : Hid (Z.length = 94) := Hid.mk' (by rw [← hZ.out]; exact tabI_len k)
  by_cases hk : k ∈ kinds
  · have a1 := Hid.mk' (fun w => of_any k true (Hid.mk' (decide_eq_true hk)) w)
    rw [hZ.out] at a1
    have hF2 : Hid ([] ++ Z = F) := Hid.mk' (by rw [← hF.out, ← hZ.out, tabI, if_pos hk]; rfl)
    clear hF hk hZ
    go_enter Try.func12, Try.ntmps12
    go_upto_region 2 with (first
      | (go_at_call 20; refine (a1.out _).mono ?_; rintro e w1 ⟨rfl, hg1⟩)
      | (refine wpList_allocA _ rfl 40 rfl (List.replicate 94 0) (zeroA _) ?_; intro w2 ha2 hg2)
      | (refine wpList_storeA _ rfl 40 _ _ rfl 94 infoA w1.heap.size (List.replicate 94 0) Z zlen hl.out rfl rfl ha2 ?_; intro w3 ha3 hg3))
    have hG : Hid (w.grownBy w3 none) := Hid.mk' (grownBy_new (grownBy_trans hg1 hg2) hg3 (fun k hk => by have h5 := Option.some.inj hk; have h6 := hg1.size; omega))
    have ha0 := Hid.mk' ha3
    have hsum := Hid.mk' (show ([] : List Int).length + Z.length ≤ 35184372088832 by have := hl.out; simp; omega)
    clear ha2 ha3 hg1 hg2 hg3
    generalize w1.heap.size = B at *
    go_wp2_with (at_builtin; refine wpList_rune _ rfl _ _ rfl none 0 [] rfl (.inl ⟨rfl, rfl, rfl⟩) _ rfl Z (src_arr ha0.out hl.out) hsum.out F hF2.out ?_; intro ro' rc' w5 ho5 hg5 hat5)
    go_ret
    refine ⟨ro', rc', rfl, ho5, grownBy_trans hG.out hg5, ?_⟩
    intro g e
    rcases hat5 with rfl | rfl
    · cases e
    · have e1 := Option.some.inj e
      have e2 := hG.out.size
      simp at e1
      omega
  · have a1 := Hid.mk' (fun w => of_any k false (Hid.mk' (decide_eq_false hk)) w)
    rw [hZ.out] at a1
    have : F = [] := by rw [← hF.out, rowR, tab_none hk]; rfl
    subst this
    clear hF hk hZ
    go_enter Try.func12, Try.ntmps12
    go_upto_region 2 with (first
      | (go_at_call 20; refine (a1.out _).mono ?_; rintro e w1 ⟨rfl, hg1⟩)
      | (refine wpList_allocA _ rfl 40 rfl (List.replicate 94 0) (zeroA _) ?_; intro w2 ha2 hg2)
      | (refine wpList_storeA _ rfl 40 _ _ rfl 94 infoA w1.heap.size (List.replicate 94 0) Z zlen hl.out rfl rfl ha2 ?_; intro w3 ha3 hg3))
    have hG : Hid (w.grownBy w3 none) := Hid.mk' (grownBy_new (grownBy_trans hg1 hg2) hg3 (fun k hk => by have h5 := Option.some.inj hk; have h6 := hg1.size; omega))
    clear ha2 ha3 hg1 hg2 hg3
    go_wp2
    go_ret
    exact ⟨none, 0, rfl, .inl ⟨rfl, rfl, rfl⟩, hG.out, by intro g e; cases e⟩
theorem con : Con (fun _ => True) where
  keep _ _ := trivial
  scalar k hk c hc w R hR _ := pScalar k c hc w R hR
  place u hu w A B ok hP _ := pPlace u w A B ok hP
  row k hk w F hF _ := pRow k w F hF
end Go.Proofs.Ytmaegmbpfilmhaa.C16
