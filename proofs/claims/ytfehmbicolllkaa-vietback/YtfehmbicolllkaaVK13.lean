/- The program's arrays of layer 13: the list, the letters, the rows: walks. -/
import Derived.Test.YtfehmbicolllkaaVJ13
import Derived.Test.YtfehmbicolllkaaAr
namespace Go.Proofs.Ytfehmbicolllkaa.C13
open Go.ChangeShapes Go.WideShapes Go.ChangeAt Go.RowKit Go.Proofs.Ytfehmbicolllkaa.Mem Go.Proofs.Ytfehmbicolllkaa.Ar
set_option linter.unusedVariables false
set_option linter.unusedSimpArgs false

theorem infoR1 : (Try.prog.info? 21).map (·.size) = some 1 := by kernel_rfl
theorem infoL : (Try.prog.info? 67).map (·.size) = some 128 := by kernel_rfl
theorem info24 : (Try.prog.info? 52).map (·.size) = some 24 := by kernel_rfl
theorem info25 : (Try.prog.info? 54).map (·.size) = some 25 := by kernel_rfl
theorem info125 : (Try.prog.info? 55).map (·.size) = some 125 := by kernel_rfl
abbrev zs (n : Nat) : List Int := List.replicate n 0
theorem zs_len (n : Nat) : (zs n).length = n := List.length_replicate
theorem zeroL (w : World) : (zeroValue 67).run Try.prog w = .ok (arrV .i32 (zs 128)) w := by kernel_rfl
theorem zero24 (w : World) : (zeroValue 52).run Try.prog w = .ok (arrV .i32 (zs 24)) w := by kernel_rfl
theorem zero25 (w : World) : (zeroValue 54).run Try.prog w = .ok (arrV .i32 (zs 25)) w := by kernel_rfl
theorem zero125 (w : World) : (zeroValue 55).run Try.prog w = .ok (arrV .i32 (zs 125)) w := by kernel_rfl
theorem zbL : (Try.prog.info? 67).bind (·.zero) = some (arrV .i32 (zs 128)) := by kernel_rfl
theorem zb24 : (Try.prog.info? 52).bind (·.zero) = some (arrV .i32 (zs 24)) := by kernel_rfl
theorem tlI_len : (toI tl).length = 128 := by rw [toI_len, tl_len]
theorem leI_len : (toI le).length = 24 := by rw [toI_len, le_len]
theorem wpList_buildV {P : Program} (w : World) {ops : Array Oper} {rest : List Oper} {o : Oper} {a : Act} {Q : Exit → Act → World → Prop} (hg : o.guard = none) (T : TypeId) (parts : List (Nat × Operand)) (hop : o.op = Op.build T parts.toArray) (vs : List (Nat × Value)) (hv : parts.map (fun p => (p.1, a.eval p.2)) = vs) (v : Value) (hr : (Instr.build T vs.toArray).run P w = .ok v w) (A : Act) (hA : a.put o.dst v = A)
    (hK : wpList P ops Q rest A w) : wpList P ops Q (o :: rest) a w := by
  subst hA
  refine wpList_plain hg fun K' hK' => ?_
  subst hv
  unfold Oper.wp execOp
  simp only [hop, List.map_toArray, Sem.run_bind, Sem.run_pure, Result.andThen_ok, hr]
  exact hK' _ _ hK
theorem wpList_buildO {P : Program} (w : World) {ops : Array Oper} {rest : List Oper} {o : Oper} {a : Act} {Q : Exit → Act → World → Prop} {q : IntKind} (hg : o.guard = none) (T : TypeId) (parts : List (Nat × Operand)) (hop : o.op = Op.build T parts.toArray) (n e : Nat) (hu : P.underlying T = some (.array n e)) (z : Value) (hz : (P.info? T).bind (·.zero) = some z) (hzn : z.cells.size = n) (he : (P.info? e).map (·.size) = some 1) (zs : List Int) (hl : zs.length = n)
    (hp : parts = zs.zipIdx.map (fun p => (p.2, Operand.const (Value.int q p.1)))) (V : Value) (hV : arrV q zs = V) (A : Act) (hA : a.put o.dst V = A) (hK : wpList P ops Q rest A w) : wpList P ops Q (o :: rest) a w := by
  subst hV
  subst hA
  exact wpList_buildA w hg T parts hop n e hu z hz hzn he zs hl hp hK
set_option maxRecDepth 100000 in
set_option maxHeartbeats 1000000 in
theorem scalars_any (w : World) : Calls Try.prog 37 #[] w fun e w' => e = .returned (arrV .i32 (toI tl)) ∧ w.grownBy w' none := by
  go_enter Try.func37, Try.ntmps37
  go_upto_region 1 with (refine wpList_allocA _ rfl 67 rfl (zs 128) (zeroL _) ?_; intro w1 ha1 hg1)
  refine wp_region_lit ?_
  refine wpList_buildA (q := .i32) _ rfl 67 _ rfl 128 21 Try.underlying67 _ zbL (arrV_size _ _ (zs_len 128)) infoR1 (toI tl) tlI_len (by kernel_rfl) ?_
  refine wpList_storeA _ rfl 67 _ _ rfl 128 infoL w.heap.size (zs 128) (toI tl) (zs_len 128) tlI_len rfl rfl ha1 ?_; intro w2 ha2 hg2
  refine wpList_nil ?_
  go_wp2
  refine bodyPost_ret (v := arrV .i32 (toI tl)) (results_cell_row Try.results37 _ w2 w.heap.size 67 _ (0, 0) _ rfl ha2 Try.underlying67 rfl (by rw [infoL]; simp [tlI_len])) rfl ⟨rfl, ?_⟩
  exact grownBy_new hg1 hg2 (fun k hk => by have h5 := Option.some.inj hk; omega)
set_option maxRecDepth 100000 in
set_option maxHeartbeats 1000000 in
theorem letters_any (w : World) : Calls Try.prog 28 #[] w fun e w' => e = .returned (arrV .i32 (toI le)) ∧ w.grownBy w' none := by
  go_enter Try.func28, Try.ntmps28
  go_upto_region 1 with (refine wpList_allocA _ rfl 52 rfl (zs 24) (zero24 _) ?_; intro w1 ha1 hg1)
  refine wp_region_lit ?_
  refine wpList_buildA (q := .i32) _ rfl 52 _ rfl 24 21 Try.underlying52 _ zb24 (arrV_size _ _ (zs_len 24)) infoR1 (toI le) leI_len (by kernel_rfl) ?_
  refine wpList_storeA _ rfl 52 _ _ rfl 24 info24 w.heap.size (zs 24) (toI le) (zs_len 24) leI_len rfl rfl ha1 ?_; intro w2 ha2 hg2
  refine wpList_nil ?_
  go_wp2
  refine bodyPost_ret (v := arrV .i32 (toI le)) (results_cell_row Try.results28 _ w2 w.heap.size 52 _ (0, 0) _ rfl ha2 Try.underlying52 rfl (by rw [info24]; simp [leI_len])) rfl ⟨rfl, ?_⟩
  exact grownBy_new hg1 hg2 (fun k hk => by have h5 := Option.some.inj hk; omega)
def res0 : List Int := toI (ro.getD 0 (0, [])).2
theorem res0_len : res0.length = 24 := by decide +kernel
theorem brow0 (w : World) : (Instr.build 54 [(0, .int .i32 768), (1, arrV .i32 res0)].toArray).run Try.prog w = .ok (arrV .i32 (rowI 0)) w := by kernel_rfl
def res1 : List Int := toI (ro.getD 1 (0, [])).2
theorem res1_len : res1.length = 24 := by decide +kernel
theorem brow1 (w : World) : (Instr.build 54 [(0, .int .i32 777), (1, arrV .i32 res1)].toArray).run Try.prog w = .ok (arrV .i32 (rowI 1)) w := by kernel_rfl
def res2 : List Int := toI (ro.getD 2 (0, [])).2
theorem res2_len : res2.length = 24 := by decide +kernel
theorem brow2 (w : World) : (Instr.build 54 [(0, .int .i32 771), (1, arrV .i32 res2)].toArray).run Try.prog w = .ok (arrV .i32 (rowI 2)) w := by kernel_rfl
def res3 : List Int := toI (ro.getD 3 (0, [])).2
theorem res3_len : res3.length = 24 := by decide +kernel
theorem brow3 (w : World) : (Instr.build 54 [(0, .int .i32 769), (1, arrV .i32 res3)].toArray).run Try.prog w = .ok (arrV .i32 (rowI 3)) w := by kernel_rfl
def res4 : List Int := toI (ro.getD 4 (0, [])).2
theorem res4_len : res4.length = 24 := by decide +kernel
theorem brow4 (w : World) : (Instr.build 54 [(0, .int .i32 803), (1, arrV .i32 res4)].toArray).run Try.prog w = .ok (arrV .i32 (rowI 4)) w := by kernel_rfl
theorem brows (w : World) : (Instr.build 55 [(0, arrV .i32 (rowI 0)), (1, arrV .i32 (rowI 1)), (2, arrV .i32 (rowI 2)), (3, arrV .i32 (rowI 3)), (4, arrV .i32 (rowI 4))].toArray).run Try.prog w = .ok (arrV .i32 roI) w := by kernel_rfl
set_option maxRecDepth 100000 in
set_option maxHeartbeats 1000000 in
theorem rows_any (w : World) : Calls Try.prog 26 #[] w fun e w' => e = .returned (arrV .i32 roI) ∧ w.grownBy w' none := by
  obtain ⟨V0, hV0⟩ : ∃ V, arrV .i32 res0 = V := ⟨_, rfl⟩
  obtain ⟨W0, hW0⟩ : ∃ V, arrV .i32 (rowI 0) = V := ⟨_, rfl⟩
  have b0 := brow0
  rw [hV0, hW0] at b0
  obtain ⟨V1, hV1⟩ : ∃ V, arrV .i32 res1 = V := ⟨_, rfl⟩
  obtain ⟨W1, hW1⟩ : ∃ V, arrV .i32 (rowI 1) = V := ⟨_, rfl⟩
  have b1 := brow1
  rw [hV1, hW1] at b1
  obtain ⟨V2, hV2⟩ : ∃ V, arrV .i32 res2 = V := ⟨_, rfl⟩
  obtain ⟨W2, hW2⟩ : ∃ V, arrV .i32 (rowI 2) = V := ⟨_, rfl⟩
  have b2 := brow2
  rw [hV2, hW2] at b2
  obtain ⟨V3, hV3⟩ : ∃ V, arrV .i32 res3 = V := ⟨_, rfl⟩
  obtain ⟨W3, hW3⟩ : ∃ V, arrV .i32 (rowI 3) = V := ⟨_, rfl⟩
  have b3 := brow3
  rw [hV3, hW3] at b3
  obtain ⟨V4, hV4⟩ : ∃ V, arrV .i32 res4 = V := ⟨_, rfl⟩
  obtain ⟨W4, hW4⟩ : ∃ V, arrV .i32 (rowI 4) = V := ⟨_, rfl⟩
  have b4 := brow4
  rw [hV4, hW4] at b4
  have bb := brows
  rw [hW0, hW1, hW2, hW3, hW4] at bb
  obtain ⟨Z, hZ⟩ : ∃ Z, roI = Z := ⟨_, rfl⟩
  have hl := roI_len
  rw [hZ] at bb hl
  rw [hZ]
  clear hW0 hW1 hW2 hW3 hW4 hZ
  go_enter Try.func26, Try.ntmps26
  go_upto_region 1 with (refine wpList_allocA _ rfl 55 rfl (zs 125) (zero125 _) ?_; intro w1 ha1 hg1)
  refine wp_region_lit ?_
  refine wpList_buildO (q := .i32) _ rfl 52 _ rfl 24 21 Try.underlying52 _ zb24 (arrV_size _ _ (zs_len 24)) infoR1 res0 res0_len (by kernel_rfl) V0 hV0 { tmps := #[.pointer (some ⟨w.heap.size, 0, none⟩), V0, undef, undef, undef, undef, undef, undef, undef, undef, undef, undef], defers := [] } rfl ?_
  clear hV0
  refine wpList_buildV _ rfl 54 _ rfl [(0, .int .i32 768), (1, V0)] rfl _ (b0 _) { tmps := #[.pointer (some ⟨w.heap.size, 0, none⟩), V0, W0, undef, undef, undef, undef, undef, undef, undef, undef, undef], defers := [] } rfl ?_
  refine wpList_buildO (q := .i32) _ rfl 52 _ rfl 24 21 Try.underlying52 _ zb24 (arrV_size _ _ (zs_len 24)) infoR1 res1 res1_len (by kernel_rfl) V1 hV1 { tmps := #[.pointer (some ⟨w.heap.size, 0, none⟩), V0, W0, V1, undef, undef, undef, undef, undef, undef, undef, undef], defers := [] } rfl ?_
  clear hV1
  refine wpList_buildV _ rfl 54 _ rfl [(0, .int .i32 777), (1, V1)] rfl _ (b1 _) { tmps := #[.pointer (some ⟨w.heap.size, 0, none⟩), V0, W0, V1, W1, undef, undef, undef, undef, undef, undef, undef], defers := [] } rfl ?_
  refine wpList_buildO (q := .i32) _ rfl 52 _ rfl 24 21 Try.underlying52 _ zb24 (arrV_size _ _ (zs_len 24)) infoR1 res2 res2_len (by kernel_rfl) V2 hV2 { tmps := #[.pointer (some ⟨w.heap.size, 0, none⟩), V0, W0, V1, W1, V2, undef, undef, undef, undef, undef, undef], defers := [] } rfl ?_
  clear hV2
  refine wpList_buildV _ rfl 54 _ rfl [(0, .int .i32 771), (1, V2)] rfl _ (b2 _) { tmps := #[.pointer (some ⟨w.heap.size, 0, none⟩), V0, W0, V1, W1, V2, W2, undef, undef, undef, undef, undef], defers := [] } rfl ?_
  refine wpList_buildO (q := .i32) _ rfl 52 _ rfl 24 21 Try.underlying52 _ zb24 (arrV_size _ _ (zs_len 24)) infoR1 res3 res3_len (by kernel_rfl) V3 hV3 { tmps := #[.pointer (some ⟨w.heap.size, 0, none⟩), V0, W0, V1, W1, V2, W2, V3, undef, undef, undef, undef], defers := [] } rfl ?_
  clear hV3
  refine wpList_buildV _ rfl 54 _ rfl [(0, .int .i32 769), (1, V3)] rfl _ (b3 _) { tmps := #[.pointer (some ⟨w.heap.size, 0, none⟩), V0, W0, V1, W1, V2, W2, V3, W3, undef, undef, undef], defers := [] } rfl ?_
  refine wpList_buildO (q := .i32) _ rfl 52 _ rfl 24 21 Try.underlying52 _ zb24 (arrV_size _ _ (zs_len 24)) infoR1 res4 res4_len (by kernel_rfl) V4 hV4 { tmps := #[.pointer (some ⟨w.heap.size, 0, none⟩), V0, W0, V1, W1, V2, W2, V3, W3, V4, undef, undef], defers := [] } rfl ?_
  clear hV4
  refine wpList_buildV _ rfl 54 _ rfl [(0, .int .i32 803), (1, V4)] rfl _ (b4 _) { tmps := #[.pointer (some ⟨w.heap.size, 0, none⟩), V0, W0, V1, W1, V2, W2, V3, W3, V4, W4, undef], defers := [] } rfl ?_
  refine wpList_buildV _ rfl 55 _ rfl [(0, W0), (1, W1), (2, W2), (3, W3), (4, W4)] rfl _ (bb _) { tmps := #[.pointer (some ⟨w.heap.size, 0, none⟩), V0, W0, V1, W1, V2, W2, V3, W3, V4, W4, arrV .i32 Z], defers := [] } rfl ?_
  refine wpList_storeA _ rfl 55 _ _ rfl 125 info125 w.heap.size (zs 125) Z (zs_len 125) hl rfl rfl ha1 ?_; intro w2 ha2 hg2
  refine wpList_nil ?_
  go_wp2
  refine bodyPost_ret (v := arrV .i32 Z) (results_cell_row Try.results26 _ w2 w.heap.size 55 _ (0, 0) _ rfl ha2 Try.underlying55 rfl (by rw [info125]; simp [hl])) rfl ⟨rfl, ?_⟩
  exact grownBy_new hg1 hg2 (fun k hk => by have h5 := Option.some.inj hk; omega)
theorem idx_row0 (w : World) : (Instr.index 55 (arrV .i32 roI) (.int .i64 0)).run Try.prog w = .ok (arrV .i32 (rowI 0)) w := by kernel_rfl
theorem idx_row1 (w : World) : (Instr.index 55 (arrV .i32 roI) (.int .i64 1)).run Try.prog w = .ok (arrV .i32 (rowI 1)) w := by kernel_rfl
theorem idx_row2 (w : World) : (Instr.index 55 (arrV .i32 roI) (.int .i64 2)).run Try.prog w = .ok (arrV .i32 (rowI 2)) w := by kernel_rfl
theorem idx_row3 (w : World) : (Instr.index 55 (arrV .i32 roI) (.int .i64 3)).run Try.prog w = .ok (arrV .i32 (rowI 3)) w := by kernel_rfl
theorem idx_row4 (w : World) : (Instr.index 55 (arrV .i32 roI) (.int .i64 4)).run Try.prog w = .ok (arrV .i32 (rowI 4)) w := by kernel_rfl
theorem idx_row {j : Nat} (hj : j < 5) (w : World) : (Instr.index 55 (arrV .i32 roI) (.int .i64 (j : Int))).run Try.prog w = .ok (arrV .i32 (rowI j)) w := by
  have : j = 0 ∨ j = 1 ∨ j = 2 ∨ j = 3 ∨ j = 4 := by omega
  rcases this with rfl | rfl | rfl | rfl | rfl
  · exact idx_row0 w
  · exact idx_row1 w
  · exact idx_row2 w
  · exact idx_row3 w
  · exact idx_row4 w
theorem run_index1 {P : Program} {T e n : Nat} {q k : IntKind} (hu : P.underlying T = some (.array n e)) (he : P.underlying e = some (.int q)) (hi : (P.info? e).map (·.size) = some 1) (zs : List Int) (hl : zs.length = n) (j : Nat) (hj : j < n) (w : World) : (Instr.index T (arrV q zs) (.int k (j : Int))).run P w = .ok (.int q (zs.getD j 0)) w := by
  have hjz : j < zs.length := by omega
  cases h : P.info? e with
  | none => rw [h] at hi; cases hi
  | some i =>
    rw [h] at hi
    have hs : i.size = 1 := by simpa using hi
    simp [Instr.index, asIntOf, run_underlying hu, run_underlying he, part, isAgg, sizeOf, typeInfo, h, hs, hj, arrV, hjz, go_sem]
theorem idx_le {i : Nat} (hi : i < 24) (w : World) : (Instr.index 52 (arrV .i32 (toI le)) (.int .i64 (i : Int))).run Try.prog w = .ok (.int .i32 ((le.getD i 0 : Nat) : Int)) w := by
  rw [run_index1 Try.underlying52 Try.underlying21 infoR1 (toI le) leI_len i hi w]
  have : ∀ i < 24, (toI le).getD i 0 = ((le.getD i 0 : Nat) : Int) := by decide +kernel
  rw [this i hi]
theorem idx_tl {i : Nat} (hi : i < 128) (w : World) : (Instr.index 67 (arrV .i32 (toI tl)) (.int .u8 (i : Int))).run Try.prog w = .ok (.int .i32 ((tl.getD i 0 : Nat) : Int)) w := by
  rw [run_index1 Try.underlying67 Try.underlying21 infoR1 (toI tl) tlI_len i hi w]
  have : ∀ i < 128, (toI tl).getD i 0 = ((tl.getD i 0 : Nat) : Int) := by decide +kernel
  rw [this i hi]
end Go.Proofs.Ytfehmbicolllkaa.C13
