/- The program's Flat of layer 11: a walk. -/
import Derived.Test.YtjmpdlkckpediaaDoorPrb11
import Derived.Laws.MakeOwn
import Derived.Test.YtjmpdlkckpediaaDoorIz11
import Derived.Test.YtjmpdlkckpediaaDoorBk11
import Derived.Test.YtjmpdlkckpediaaDoorCon11
namespace Go.Proofs.YtjmpdlkckpediaaDoor.C11
open Go.ChangeShapes Go.WideShapes Go.ChangeAt Go.RowKit Go.Proofs.YtjmpdlkckpediaaDoor.Mem Go.Proofs.YtjmpdlkckpediaaDoor.Ar Go.Proofs.YtjmpdlkckpediaaDoor.El Go.Proofs.YtjmpdlkckpediaaDoor.Ru
set_option linter.unusedVariables false
set_option linter.unusedSimpArgs false

theorem flR_eq {k : Int} (hk : k ∈ kinds) : flR k = (List.range 128).map (fun b : Nat => (b : Int)) ++ tabI k := by
  rw [flR, if_pos hk]
  apply List.ext_getElem
  · rw [List.length_map, List.length_range, List.length_append, List.length_map, List.length_range, tabI_len]
  · intro i h1 h2
    have hi : i < 256 := by simpa using h1
    rw [List.getElem_map, List.getElem_range]
    by_cases h : i < 128
    · rw [List.getElem_append_left (by simpa using h), List.getElem_map, List.getElem_range, atR, if_pos h]
    · rw [List.getElem_append_right (by simpa using h)]
      have e : i - ((List.range 128).map (fun b : Nat => (b : Int))).length = i - 128 := by simp
      simp only [e]
      rw [tabI_at hk (by omega), show 128 + (i - 128) = i by omega]
theorem rd_arr {w : World} {B : Nat} {Z : List Int} (h : ArrAt w B 55 .i32 Z) : RuE.Rd w (some ⟨B, 0, none⟩) Z := by
  have e : ∀ L : List Int, RuE.cells L = L.map (Value.int .i32) := by
    intro L
    induction L with
    | nil => rfl
    | cons x L ih => rw [cells_cons, ih]; rfl
  refine .inr ⟨_, rfl, fun j u hu => ?_⟩
  rw [e, List.getElem?_map] at hu
  cases hj : Z[j]? with
  | none => rw [hj] at hu; cases hu
  | some z =>
    rw [hj] at hu
    cases hu
    obtain ⟨h1, h2⟩ := List.getElem?_eq_some_iff.1 hj
    have := h.cell j h1
    rw [h2] at this
    rw [addr_add, Nat.zero_add]
    exact this
theorem src_arr {w : World} {B : Nat} {Z : List Int} (h : ArrAt w B 55 .i32 Z) (hl : Z.length = 128) : Src Tryd.prog 1 31 (.slice (some ⟨B, 0, none⟩) 128 128) Z.length (RuE.cells Z) w := by
  have := src_of (E := RuE) (rd_arr h) 31 128 Tryd.underlying31
  rw [hl] at this ⊢
  exact this
theorem make_rune (w : World) : ∃ w', (Instr.makeSlice 31 (.int .i64 0) (.int .i64 256)).run Tryd.prog w = .ok (.slice (some ⟨w.heap.size, 0, none⟩) 0 256) w' ∧ RuE.Own w' (some ⟨w.heap.size, 0, none⟩) 256 [] ∧ w.grownBy w' none := by
  obtain ⟨i0, hi, hz0, hz1, hz2⟩ := iparts infoRu
  have hr := run_make (P := Tryd.prog) w 31 21 i0 _ Tryd.underlying31 hi hz0 .i64 .i64 0 256 (by omega) (by omega) (by rw [hz2]; decide) (by omega)
  refine ⟨_, hr, .inr ⟨w.heap.size, _, rfl, heap_alloc_new w _, by simp, by simp [maxLen], ?_, ?_⟩, World.grownBy_alloc _ _ _⟩
  · rw [size_madeCells, hz1]; rfl
  · simp [cells_nil]
theorem wpList_make (w : World) {ops : Array Oper} {rest : List Oper} {o : Oper} {a : Act} {Q : Exit → Act → World → Prop} (hgd : o.guard = none) (x y : Operand) (ho : o.op = .makeSlice 31 x y) (hx : a.eval x = .int .i64 0) (hy : a.eval y = .int .i64 256)
    (hK : ∀ w', RuE.Own w' (some ⟨w.heap.size, 0, none⟩) 256 [] → w.grownBy w' none → wpList Tryd.prog ops Q rest (a.put o.dst (.slice (some ⟨w.heap.size, 0, none⟩) 0 256)) w') : wpList Tryd.prog ops Q (o :: rest) a w := by
  refine wpList_plain hgd fun K' hK' => ?_
  obtain ⟨w', hr, h1, h2⟩ := make_rune w
  unfold Oper.wp execOp
  simp only [ho, hx, hy, Sem.run_bind, Sem.run_pure, Result.andThen_ok, hr]
  exact hK' _ _ (hK w' h1 h2)
set_option maxRecDepth 100000 in
set_option maxHeartbeats 1000000 in
theorem pFlat (k : Int) (w : World) (F : List Int) (hF : Hid (flR k = F)) : Calls Tryd.prog 8 #[.int .i64 k] w fun e w' => ∃ ro rc, e = .returned (.slice ro F.length rc) ∧ RuE.Own w' ro rc F ∧ w.grownBy w' none ∧ (∀ g, blk ro = some g → w.heap.size ≤ g) := by
  obtain ⟨Z, hZ⟩ : ∃ Z, Hid (tabI k = Z) := ⟨_, Hid.mk' rfl⟩
  have hl : Hid (Z.length = 128) := Hid.mk' (by rw [← hZ.out]; exact tabI_len k)
  by_cases hk : k ∈ kinds
  · have a1 := Hid.mk' (fun w => of_any k true (Hid.mk' (decide_eq_true hk)) w)
    rw [hZ.out] at a1
    have hF2 : Hid ((List.range 128).map (fun b : Nat => (b : Int)) ++ Z = F) := Hid.mk' (by rw [← hF.out, flR_eq hk, hZ.out])
    clear hF hk hZ
    go_enter Tryd.func8, Tryd.ntmps8
    go_upto_region 2 with (first
      | (go_at_call 17; refine (a1.out _).mono ?_; rintro e w1 ⟨rfl, hg1⟩)
      | (refine wpList_allocA _ rfl 55 rfl (List.replicate 128 0) (zeroA _) ?_; intro w2 ha2 hg2)
      | (refine wpList_storeA _ rfl 55 _ _ rfl 128 infoA w1.heap.size (List.replicate 128 0) Z zlen hl.out rfl rfl ha2 ?_; intro w3 ha3 hg3))
    have hG : Hid (w.grownBy w3 none) := Hid.mk' (grownBy_new (grownBy_trans hg1 hg2) hg3 (fun k hk => by have h5 := Option.some.inj hk; have h6 := hg1.size; omega))
    have ha0 := Hid.mk' ha3
    have hB : Hid (w.heap.size ≤ w1.heap.size ∧ w1.heap.size < w3.heap.size) := Hid.mk' ⟨hg1.size, ha3.lt⟩
    clear ha2 ha3 hg1 hg2 hg3
    generalize w1.heap.size = B at *
    go_wp2_with (refine wpList_make _ rfl _ _ rfl rfl rfl ?_; intro w4 ho4 hg4)
    have hA4 := Hid.mk' (ha0.out.kept0 hg4)
    have hG4 := Hid.mk' (grownBy_trans hG.out hg4)
    have hO4 := Hid.mk' ho4
    have hS : Hid (w3.heap.size < w4.heap.size ∧ w.heap.size ≤ w3.heap.size) := Hid.mk' ⟨ho4.lt rfl, hG.out.size⟩
    clear ha0 hG ho4 hg4
    go_loopw [5, 15] (fun t5 t15 wx => ∃ (i rc : Nat) (ro : Option Addr) (D : List Int), i ≤ 128 ∧ t15 = .int .i32 (i : Int) ∧ t5 = .slice ro D.length rc ∧ D.length = i ∧ Hid (D = (List.range i).map (fun b : Nat => (b : Int))) ∧ Hid (RuE.Own wx ro rc D) ∧ Hid (∀ g, blk ro = some g → w3.heap.size ≤ g) ∧ Hid (ArrAt wx B 55 .i32 Z) ∧ Hid (w3.heap.size ≤ wx.heap.size) ∧ Hid (w.grownBy wx none)) (fun _ t15 _ => 128 - (intOf t15).toNat)
    case atStart => exact ⟨0, 256, some ⟨w3.heap.size, 0, none⟩, [], by omega, rfl, rfl, rfl, Hid.mk' rfl, hO4, Hid.mk' (by intro g e; have e1 := Option.some.inj e; simp at e1; omega), hA4, Hid.mk' (Nat.le_of_lt hS.out.1), hG4⟩
    case round =>
      obtain ⟨i, rc, ro, D, hi, rfl, rfl, hDl, hD, hO, hbl, hA, hsz, hGx⟩ := hrel
      have hDl0 := Hid.mk' hDl
      have hDm : D.length ≤ 128 := by omega
      by_cases hlt : i < 128
      · have hlt' : (i : Int) < 128 := by omega
        have hD2 : Hid (D ++ [(i : Int)] = (List.range (i + 1)).map (fun b : Nat => (b : Int))) := Hid.mk' (by rw [hD.out, List.range_succ, List.map_append, List.map_cons, List.map_nil])
        clear hDl
        go_wp2_with (at_builtin; refine wpList_rune _ rfl _ _ rfl ro rc D rfl (hO.out.alloc _) _ rfl [(i : Int)] (src_rune1 wr i) (by simp; omega) (D ++ [(i : Int)]) rfl ?_; intro ro' rc' w5 ho5 hg5 hat5)
        go_roundw
        case rel =>
          refine ⟨i + 1, rc', ro', D ++ [(i : Int)], by omega, by go_num, by simp, by simp [hDl0.out], Hid.mk' hD2.out, Hid.mk' ho5, Hid.mk' ?_, Hid.mk' ?_, Hid.mk' ?_, Hid.mk' ?_⟩
          · intro g e
            rcases hat5 with rfl | rfl
            · exact hbl.out g e
            · have e1 := Option.some.inj e
              have e2 := hsz.out
              simp at e1
              omega
          · exact (hA.out.kept0 (World.grownBy_alloc wr _ none)).kept hg5 (by intro e; have := hbl.out B e.symm; have := hB.out.2; omega)
          · have e2 := hsz.out; have e3 := hg5.size; simp at e3; omega
          · exact grownBy_new (grownBy_trans hGx.out (World.grownBy_alloc wr _ none)) hg5 (fun g e => by have := hbl.out g e; have := hS.out.2; omega)
        case measure => simp [intOf]; omega
      · obtain rfl : i = 128 := by omega
        have hDF : Hid (D ++ Z = F) := Hid.mk' (by rw [hD.out]; exact hF2.out)
        have hsum := Hid.mk' (show D.length + Z.length ≤ 35184372088832 by have := hl.out; omega)
        go_wp2_with (at_builtin; refine wpList_rune _ rfl _ _ rfl ro rc D rfl hO.out _ rfl Z (src_arr hA.out hl.out) hsum.out F hDF.out ?_; intro ro' rc' w5 ho5 hg5 hat5)
        go_ret
        refine ⟨ro', rc', rfl, ho5, grownBy_new hGx.out hg5 (fun g e => by have := hbl.out g e; have := hS.out.2; omega), ?_⟩
        intro g e
        rcases hat5 with rfl | rfl
        · have := hbl.out g e; have := hS.out.2; omega
        · have e1 := Option.some.inj e
          have e2 := hGx.out.size
          simp at e1
          omega
  · have a1 := Hid.mk' (fun w => of_any k false (Hid.mk' (decide_eq_false hk)) w)
    rw [hZ.out] at a1
    have : F = [] := by rw [← hF.out, flR, if_neg hk]
    subst this
    clear hF hk hZ
    go_enter Tryd.func8, Tryd.ntmps8
    go_upto_region 2 with (first
      | (go_at_call 17; refine (a1.out _).mono ?_; rintro e w1 ⟨rfl, hg1⟩)
      | (refine wpList_allocA _ rfl 55 rfl (List.replicate 128 0) (zeroA _) ?_; intro w2 ha2 hg2)
      | (refine wpList_storeA _ rfl 55 _ _ rfl 128 infoA w1.heap.size (List.replicate 128 0) Z zlen hl.out rfl rfl ha2 ?_; intro w3 ha3 hg3))
    have hG : Hid (w.grownBy w3 none) := Hid.mk' (grownBy_new (grownBy_trans hg1 hg2) hg3 (fun k hk => by have h5 := Option.some.inj hk; have h6 := hg1.size; omega))
    clear ha2 ha3 hg1 hg2 hg3
    go_wp2
    go_ret
    exact ⟨none, 0, rfl, .inl ⟨rfl, rfl, rfl⟩, hG.out, by intro g e; cases e⟩
theorem con : Con (fun _ => True) where
  keep _ _ := trivial
  has k hk H hH w _ := pHas k H hH w
  scalar k hk b hb w R hR _ := pScalar k b hb w R hR
  byte k hk u hu w R hR _ := pByte k u hu w R hR
  flat k hk w F hF _ := pFlat k w F hF
end Go.Proofs.YtjmpdlkckpediaaDoor.C11
