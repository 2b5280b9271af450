/- The program's arrays of numbers of layer 19, number and part: walks. -/
import Derived.Test.YtdphkpjamclhjaaEW19
import Derived.Test.YtdphkpjamclhjaaAr
import Derived.Deep.RegionHeld3
namespace Go.Proofs.Ytdphkpjamclhjaa.C19
open Go.ChangeShapes Go.WideShapes Go.ChangeAt Go.RowKit Go.Proofs.Ytdphkpjamclhjaa.Mem Go.Proofs.Ytdphkpjamclhjaa.Cb Go.Proofs.Ytdphkpjamclhjaa.Sp Go.Proofs.Ytdphkpjamclhjaa.Ar
set_option linter.unusedVariables false
set_option linter.unusedSimpArgs false

theorem infoN : (Try.prog.info? 52).map (·.size) = some 28 := by kernel_rfl
theorem zeroN (w : World) : (zeroValue 52).run Try.prog w = .ok (arrV .i64 (List.replicate 28 0)) w := by kernel_rfl
theorem zeroM : (Try.prog.info? 52).bind (·.zero) = some (arrV .i64 (List.replicate 28 0)) := by kernel_rfl
theorem infoI : (Try.prog.info? 3).map (·.size) = some 1 := by kernel_rfl
theorem zlen28 : (List.replicate 28 (0 : Int)).length = 28 := List.length_replicate
/-- The first parts' numbers; a kind's numbers as the program has them: zeros behind. -/
def firs : List Nat := [2, 3, 4, 5, 6, 7, 8, 9, 10, 11, 12, 13, 14, 15, 16, 17, 18, 19, 20]
def nums (L : List Nat) : List Int := L.map (fun n : Nat => (n : Int)) ++ List.replicate (28 - L.length) 0
theorem nums_len {L : List Nat} (h : L.length ≤ 28) : (nums L).length = 28 := by
  unfold nums
  rw [List.length_append, List.length_map, List.length_replicate]
  omega
/-- Constants laid into the front of an array of zeros. -/
theorem run_buildF {P : Program} (w : World) {T e n : Nat} {q : IntKind} (hu : P.underlying T = some (.array n e)) (hz : (P.info? T).bind (·.zero) = some (arrV q (List.replicate n 0))) (he : (P.info? e).map (·.size) = some 1) (zs : List Int) (hl : zs.length ≤ n) (parts : List (Nat × Value)) (hp : parts = zs.zipIdx.map (fun p => (p.2, Value.int q p.1))) :
    (Instr.build T parts.toArray).run P w = .ok (arrV q (zs ++ List.replicate (n - zs.length) 0)) w := by
  refine run_build w T _ _ ?_
  subst hp
  have hc : (arrV q (List.replicate n 0)).cells = ((List.replicate n (0 : Int)).map (Value.int q)).toArray := rfl
  have hf := fill_ints q zs 0 (arrV q (List.replicate n 0)).cells (by rw [hc]; simp; omega)
  unfold Program.built
  cases hi : P.info? T with
  | none => simp [hi] at hz
  | some it =>
    simp only [hi, Option.bind_some] at hz
    cases hie : P.info? e with
    | none => simp [hie] at he
    | some ie =>
      simp only [hie, Option.map_some, Option.some.injEq] at he
      simp only [hu, hz, he, hie]
      rw [hf]
      simp only [List.take_zero, List.nil_append, Nat.zero_add]
      rw [hc]
      simp
theorem wpList_buildF {P : Program} (w : World) {ops : Array Oper} {rest : List Oper} {o : Oper} {a : Act} {Q : Exit → Act → World → Prop} {q : IntKind} (hg : o.guard = none) (T : TypeId) (parts : List (Nat × Operand)) (hop : o.op = Op.build T parts.toArray) (n e : Nat) (hu : P.underlying T = some (.array n e)) (hz : (P.info? T).bind (·.zero) = some (arrV q (List.replicate n 0))) (he : (P.info? e).map (·.size) = some 1) (zs : List Int) (hl : zs.length ≤ n)
    (hp : parts = zs.zipIdx.map (fun p => (p.2, Operand.const (Value.int q p.1)))) (hK : wpList P ops Q rest (a.put o.dst (arrV q (zs ++ List.replicate (n - zs.length) 0))) w) : wpList P ops Q (o :: rest) a w := by
  refine wpList_plain hg fun K' hK' => ?_
  unfold Oper.wp execOp
  have hr := run_buildF (P := P) (q := q) w hu hz he zs hl (parts.map fun p => (p.1, a.eval p.2)) (by subst hp; simp [List.map_map, Function.comp_def, Act.eval])
  simp only [hop, List.map_toArray, Sem.run_bind, Sem.run_pure, Result.andThen_ok, hr]
  exact hK' _ _ hK
/-- a[i] of an array that is a value. -/
theorem run_indexA {P : Program} (w : World) {T e n : Nat} {q k : IntKind} (hu : P.underlying T = some (.array n e)) (he : (P.info? e).map (·.size) = some 1) {z : TypeDesc} (hz : P.underlying e = some z) (hd : (match z with | .struct _ | .array _ _ => true | _ => false) = false) (zs : List Int) (hl : zs.length = n) (i : Nat) (hi : i < zs.length) (v : Int) (hv : zs[i] = v) : (Instr.index T (arrV q zs) (.int k (i : Int))).run P w = .ok (.int q v) w := by
  have h1 : 0 ≤ (i : Int) ∧ (i : Int) < (n : Int) := by omega
  have hg : (zs.map (Value.int q)).toArray[i]? = some (.int q v) := by
    rw [List.getElem?_toArray, List.getElem?_map, List.getElem?_eq_getElem hi, hv]
    rfl
  have hs : (sizeOf e).run P w = .ok 1 w := by
    cases hie : P.info? e with
    | none => simp [hie] at he
    | some ie =>
      simp only [hie, Option.map_some, Option.some.injEq] at he
      simp [sizeOf, typeInfo, hie, he, go_sem]
  cases z <;> simp_all [Instr.index, run_underlying hu, asIntOf, arrV, part, isAgg, go_sem, run_underlying hz]
theorem lenF : firs.length = 19 := rfl
set_option maxRecDepth 100000 in
set_option maxHeartbeats 1000000 in
theorem arrF (w : World) : Calls Try.prog 24 #[] w fun e w' => e = .returned (arrV .i64 (nums firs)) ∧ w.grownBy w' none := by
  go_enter Try.func24, Try.ntmps24
  go_upto_region 1 with (refine wpList_allocA _ rfl 52 rfl (List.replicate 28 0) (zeroN _) ?_; intro w1 ha1 hg1)
  refine wp_region_lit ?_
  refine wpList_buildF (q := .i64) _ rfl 52 _ rfl 28 3 Try.underlying52 zeroM infoI (firs.map (fun n : Nat => (n : Int))) (by decide) (by kernel_rfl) ?_
  refine wpList_storeA _ rfl 52 _ _ rfl 28 infoN w.heap.size (List.replicate 28 0) (nums firs) zlen28 (nums_len (by decide)) rfl rfl ha1 ?_; intro w2 ha2 hg2
  refine wpList_nil ?_
  go_wp2
  refine bodyPost_ret (v := arrV .i64 (nums firs)) (results_cell_row Try.results24 _ w2 w.heap.size 52 _ (0, 0) _ rfl ha2 Try.underlying52 rfl (by rw [infoN, List.size_toArray, List.length_map, nums_len (by decide)])) rfl ⟨rfl, ?_⟩
  exact grownBy_new hg1 hg2 (fun k hk => by have h5 := Option.some.inj hk; omega)
theorem lenM : mids.length = 21 := rfl
set_option maxRecDepth 100000 in
set_option maxHeartbeats 1000000 in
theorem arrM (w : World) : Calls Try.prog 26 #[] w fun e w' => e = .returned (arrV .i64 (nums mids)) ∧ w.grownBy w' none := by
  go_enter Try.func26, Try.ntmps26
  go_upto_region 1 with (refine wpList_allocA _ rfl 52 rfl (List.replicate 28 0) (zeroN _) ?_; intro w1 ha1 hg1)
  refine wp_region_lit ?_
  refine wpList_buildF (q := .i64) _ rfl 52 _ rfl 28 3 Try.underlying52 zeroM infoI (mids.map (fun n : Nat => (n : Int))) (by decide) (by kernel_rfl) ?_
  refine wpList_storeA _ rfl 52 _ _ rfl 28 infoN w.heap.size (List.replicate 28 0) (nums mids) zlen28 (nums_len (by decide)) rfl rfl ha1 ?_; intro w2 ha2 hg2
  refine wpList_nil ?_
  go_wp2
  refine bodyPost_ret (v := arrV .i64 (nums mids)) (results_cell_row Try.results26 _ w2 w.heap.size 52 _ (0, 0) _ rfl ha2 Try.underlying52 rfl (by rw [infoN, List.size_toArray, List.length_map, nums_len (by decide)])) rfl ⟨rfl, ?_⟩
  exact grownBy_new hg1 hg2 (fun k hk => by have h5 := Option.some.inj hk; omega)
theorem lenL : lsts.length = 28 := rfl
set_option maxRecDepth 100000 in
set_option maxHeartbeats 1000000 in
theorem arrL (w : World) : Calls Try.prog 27 #[] w fun e w' => e = .returned (arrV .i64 (nums lsts)) ∧ w.grownBy w' none := by
  go_enter Try.func27, Try.ntmps27
  go_upto_region 1 with (refine wpList_allocA _ rfl 52 rfl (List.replicate 28 0) (zeroN _) ?_; intro w1 ha1 hg1)
  refine wp_region_lit ?_
  refine wpList_buildF (q := .i64) _ rfl 52 _ rfl 28 3 Try.underlying52 zeroM infoI (lsts.map (fun n : Nat => (n : Int))) (by decide) (by kernel_rfl) ?_
  refine wpList_storeA _ rfl 52 _ _ rfl 28 infoN w.heap.size (List.replicate 28 0) (nums lsts) zlen28 (nums_len (by decide)) rfl rfl ha1 ?_; intro w2 ha2 hg2
  refine wpList_nil ?_
  go_wp2
  refine bodyPost_ret (v := arrV .i64 (nums lsts)) (results_cell_row Try.results27 _ w2 w.heap.size 52 _ (0, 0) _ rfl ha2 Try.underlying52 rfl (by rw [infoN, List.size_toArray, List.length_map, nums_len (by decide)])) rfl ⟨rfl, ?_⟩
  exact grownBy_new hg1 hg2 (fun k hk => by have h5 := Option.some.inj hk; omega)
set_option maxRecDepth 100000 in
set_option maxHeartbeats 1000000 in
theorem num_lo (Z : List Int) (p : Int) (h : p < 0) (w : World) : Calls Try.prog 25 #[arrV .i64 Z, .int .i64 p] w fun e w' => e = .returned (.tuple #[.int .i64 0, .bool false]) ∧ w.grownBy w' none := by
  have f0 : decide (p < 0) = true := decide_eq_true (by omega)
  go_enter Try.func25, Try.ntmps25
  go_upto_region 1 with (refine wpList_boxA _ rfl 52 _ rfl Z rfl ?_; intro w1 ha1 hg1)
  obtain ⟨B, hB⟩ : ∃ B, Hid (w.heap.size = B) := ⟨_, Hid.mk' rfl⟩
  rw [hB.out] at ha1
  rw [hB.out]
  have hG := Hid.mk' hg1
  clear ha1 hg1
  go_wp2
  exact bodyPost_ret (v := .tuple #[.int .i64 0, .bool false]) (by simp [results, Try.results25, go_sem]) rfl ⟨rfl, hG.out⟩
set_option maxRecDepth 100000 in
set_option maxHeartbeats 1000000 in
theorem num_hi (Z : List Int) (p : Int) (h : 28 ≤ p) (w : World) : Calls Try.prog 25 #[arrV .i64 Z, .int .i64 p] w fun e w' => e = .returned (.tuple #[.int .i64 0, .bool false]) ∧ w.grownBy w' none := by
  have f0 : decide (p < 0) = false := decide_eq_false (by omega)
  have f1 : decide (28 ≤ p) = true := decide_eq_true (by omega)
  go_enter Try.func25, Try.ntmps25
  go_upto_region 1 with (refine wpList_boxA _ rfl 52 _ rfl Z rfl ?_; intro w1 ha1 hg1)
  obtain ⟨B, hB⟩ : ∃ B, Hid (w.heap.size = B) := ⟨_, Hid.mk' rfl⟩
  rw [hB.out] at ha1
  rw [hB.out]
  have hG := Hid.mk' hg1
  clear ha1 hg1
  go_wp2
  exact bodyPost_ret (v := .tuple #[.int .i64 0, .bool false]) (by simp [results, Try.results25, go_sem]) rfl ⟨rfl, hG.out⟩
set_option maxRecDepth 100000 in
set_option maxHeartbeats 1000000 in
theorem num_z (Z : List Int) (j : Nat) (hj : j < 28) (hZ : Hid (Z.length = 28)) (hn : Hid (Z[j]? = some 0)) (w : World) : Calls Try.prog 25 #[arrV .i64 Z, .int .i64 (j : Int)] w fun e w' => e = .returned (.tuple #[.int .i64 0, .bool false]) ∧ w.grownBy w' none := by
  have f0 : decide ((j : Int) < 0) = false := decide_eq_false (by omega)
  have f1 : decide (28 ≤ (j : Int)) = false := decide_eq_false (by omega)
  have i0 : (0 : Int) ≤ (j : Int) := by omega
  have i1 : (j : Int) < 28 := by omega
  go_enter Try.func25, Try.ntmps25
  go_upto_region 1 with (refine wpList_boxA _ rfl 52 _ rfl Z rfl ?_; intro w1 ha1 hg1)
  obtain ⟨B, hB⟩ : ∃ B, Hid (w.heap.size = B) := ⟨_, Hid.mk' rfl⟩
  rw [hB.out] at ha1
  rw [hB.out]
  have hG := Hid.mk' hg1
  have hc : w1.cell? ⟨B, j, none⟩ = some (.int .i64 0) := by
    have hl : j < Z.length := by rw [hZ.out]; exact hj
    have h1 := hn.out
    rw [List.getElem?_eq_getElem hl] at h1
    rw [ha1.cell j hl, Option.some.inj h1]
  clear ha1 hg1
  go_wp2
  exact bodyPost_ret (v := .tuple #[.int .i64 0, .bool false]) (by simp [results, Try.results25, go_sem]) rfl ⟨rfl, hG.out⟩
set_option maxRecDepth 100000 in
set_option maxHeartbeats 1000000 in
theorem num_n (Z : List Int) (j : Nat) (hj : j < 28) (hZ : Hid (Z.length = 28)) (n : Int) (hn : Hid (Z[j]? = some n)) (hn0 : n ≠ 0) (w : World) : Calls Try.prog 25 #[arrV .i64 Z, .int .i64 (j : Int)] w fun e w' => e = .returned (.tuple #[.int .i64 n, .bool true]) ∧ w.grownBy w' none := by
  have f0 : decide ((j : Int) < 0) = false := decide_eq_false (by omega)
  have f1 : decide (28 ≤ (j : Int)) = false := decide_eq_false (by omega)
  have n0 : (n == 0) = false := by simpa using hn0
  have i0 : (0 : Int) ≤ (j : Int) := by omega
  have i1 : (j : Int) < 28 := by omega
  go_enter Try.func25, Try.ntmps25
  go_upto_region 1 with (refine wpList_boxA _ rfl 52 _ rfl Z rfl ?_; intro w1 ha1 hg1)
  obtain ⟨B, hB⟩ : ∃ B, Hid (w.heap.size = B) := ⟨_, Hid.mk' rfl⟩
  rw [hB.out] at ha1
  rw [hB.out]
  have hG := Hid.mk' hg1
  have hc : w1.cell? ⟨B, j, none⟩ = some (.int .i64 n) := by
    have hl : j < Z.length := by rw [hZ.out]; exact hj
    have h1 := hn.out
    rw [List.getElem?_eq_getElem hl] at h1
    rw [ha1.cell j hl, Option.some.inj h1]
  clear ha1 hg1
  go_wp2
  exact bodyPost_ret (v := .tuple #[.int .i64 n, .bool true]) (by simp [results, Try.results25, go_sem]) rfl ⟨rfl, hG.out⟩
set_option maxRecDepth 100000 in
set_option maxHeartbeats 1000000 in
theorem part_z (Z : List Int) (w : World) : Calls Try.prog 30 #[arrV .i64 Z, .int .i64 0] w fun e w' => e = .returned (.tuple #[.int .i64 0, .bool false]) ∧ w.grownBy w' none := by
  go_enter Try.func30, Try.ntmps30
  go_upto_region 1 with (refine wpList_boxA _ rfl 52 _ rfl Z rfl ?_; intro w1 ha1 hg1)
  obtain ⟨B, hB⟩ : ∃ B, Hid (w.heap.size = B) := ⟨_, Hid.mk' rfl⟩
  rw [hB.out] at ha1
  rw [hB.out]
  have hG := Hid.mk' hg1
  clear ha1 hg1
  go_wp2
  exact bodyPost_ret (v := .tuple #[.int .i64 0, .bool false]) (by simp [results, Try.results30, go_sem]) rfl ⟨rfl, hG.out⟩
set_option maxRecDepth 100000 in
set_option maxHeartbeats 1000000 in
theorem part_f (Z : List Int) (hZ : Hid (Z.length = 28)) (x : Int) (hx0 : x ≠ 0) (r : Int) (ok : Bool) (hr : Hid ((match Z.findIdx? (fun y => y == x) with | some i => ((i : Int), true) | none => (0, false)) = (r, ok))) (w : World) : Calls Try.prog 30 #[arrV .i64 Z, .int .i64 x] w fun e w' => e = .returned (.tuple #[.int .i64 r, .bool ok]) ∧ w.grownBy w' none := by
  have x0 : (x == 0) = false := by simpa using hx0
  go_enter Try.func30, Try.ntmps30
  go_upto_region 1 with (refine wpList_boxA _ rfl 52 _ rfl Z rfl ?_; intro w1 ha1 hg1)
  obtain ⟨B, hB⟩ : ∃ B, Hid (w.heap.size = B) := ⟨_, Hid.mk' rfl⟩
  rw [hB.out] at ha1
  rw [hB.out]
  have hG := Hid.mk' hg1
  go_upto_region 4 with (refine wpList_loadA _ rfl 52 _ rfl 28 3 Try.underlying52 infoN B Z hZ.out rfl ha1 ?_)
  clear ha1 hg1
  go_loopw [11] (fun t11 wx => ∃ (i : Nat), i ≤ 28 ∧ t11 = .int .i64 (i : Int) ∧ Hid (∀ j (hj : j < Z.length), j < i → Z[j] ≠ x) ∧ wx = w1) (fun t11 _ => 28 - (intOf t11).toNat)
  case atStart => exact ⟨0, by omega, rfl, Hid.mk' (by omega), rfl⟩
  case round =>
    obtain ⟨i, hi, rfl, hb, rfl⟩ := hrel
    by_cases hlt : i < 28
    · have hlt' : (i : Int) < 28 := by omega
      have hi0 : (0 : Int) ≤ (i : Int) := by omega
      have hiL : i < Z.length := by rw [hZ.out]; exact hlt
      obtain ⟨v, hv⟩ : ∃ v, Hid (Z[i] = v) := ⟨_, Hid.mk' rfl⟩
      have hix : ∀ wx, (Instr.index 52 (arrV .i64 Z) (.int .i64 (i : Int))).run Try.prog wx = .ok (.int .i64 v) wx := fun wx => run_indexA (q := .i64) (k := .i64) wx Try.underlying52 infoI Try.underlying3 rfl Z hZ.out i hiL v hv.out
      by_cases hvn : v = x
      · have hri : Hid (r = (i : Int) ∧ ok = true) := Hid.mk' (by
          have e : Z.findIdx? (fun y => y == x) = some i := by
            rw [List.findIdx?_eq_some_iff_getElem]
            exact ⟨hiL, by rw [hv.out, hvn]; simp, fun j hj => by simpa using hb.out j (by omega) hj⟩
          have h1 := hr.out
          rw [e] at h1
          simp only [Prod.mk.injEq] at h1
          exact ⟨h1.1.symm, h1.2.symm⟩)
        obtain ⟨rfl, rfl⟩ := hri.out
        subst hvn
        have hvv : (v == v) = true := by simp
        clear hr hri hb
        go_wp2
        exact bodyPost_ret (v := .tuple #[.int .i64 (i : Int), .bool true]) (by simp [results, Try.results30, go_sem]) rfl ⟨rfl, hG.out⟩
      · have hvn' : (v == x) = false := by simpa using hvn
        go_wp2
        go_roundw
        case rel => exact ⟨i + 1, by omega, by go_num, Hid.mk' (fun j hj h2 => by
          by_cases e : j = i
          · subst e; rw [hv.out]; exact hvn
          · exact hb.out j hj (by omega)), by first | exact rfl | trivial⟩
        all_goals (simp [intOf]; omega)
    · obtain rfl : i = 28 := by omega
      have hri : Hid (r = 0 ∧ ok = false) := Hid.mk' (by
        have e : Z.findIdx? (fun y => y == x) = none := by
          rw [List.findIdx?_eq_none_iff]
          intro y hy
          obtain ⟨j, hj, rfl⟩ := List.getElem_of_mem hy
          simpa using hb.out j hj (by rw [hZ.out] at hj; exact hj)
        have h1 := hr.out
        rw [e] at h1
        simp only [Prod.mk.injEq] at h1
        exact ⟨h1.1.symm, h1.2.symm⟩)
      obtain ⟨rfl, rfl⟩ := hri.out
      clear hr hri hb
      go_wp2_with fail
      exact bodyPost_ret (v := .tuple #[.int .i64 0, .bool false]) (by simp [results, Try.results30, go_sem]) rfl ⟨rfl, hG.out⟩
end Go.Proofs.Ytdphkpjamclhjaa.C19
