/- WideMarks: walks. -/
import Derived.Test.YtkfcciacoplgmaaTurn
import Derived.Test.YtkfcciacoplgmaaWGets
import Derived.Test.YtkfcciacoplgmaaWorks
import Derived.Deep.Cut
import Derived.Deep.RegionHeld3
import Derived.BigQuiet
namespace Go.Proofs.Ytkfcciacoplgmaa.Wd
open Go.ChangeShapes Go.WideShapes Go.ChangeAt Go.RowKit Go.Proofs.Ytkfcciacoplgmaa.Mem Go.Proofs.Ytkfcciacoplgmaa.Ucs
set_option linter.unusedVariables false
set_option linter.unusedSimpArgs false

theorem mk0 (w : World) : (Instr.makeSlice 25 (.int .i64 0) (.int .i64 0)).run Try.prog w = .ok (.slice (some ⟨w.heap.size, 0, none⟩) 0 0) (w.alloc (.cells #[] 5)) := by kernel_rfl
theorem own_of (w : World) (cs : Array Value) (L : List UInt8) (h : cs.toList = bcells L) (hl : L.length ≤ 4) : Own (w.alloc (.cells cs 5)) (some ⟨w.heap.size, 0, none⟩) L.length L := by
  have hsz : cs.size = L.length := by rw [← Array.length_toList, h]; simp [bcells]
  exact .inr ⟨w.heap.size, cs, rfl, heap_alloc_new w _, Nat.le_refl _, by simp [maxLen]; omega, hsz, by rw [h, List.take_of_length_le (by simp [bcells])]⟩
/-- append of no bytes, as the compiler makes it of make. -/
theorem app_none (b : Nat) (ty : TypeId) (w : World) : (Builtin.append_ #[25, 3] ty #[.slice (some ⟨b, 0, none⟩) 2 2, .int .i64 0]).run Try.prog w = .ok (.slice (some ⟨b, 0, none⟩) 2 2) w := by kernel_rfl
/-- append of two zeros, as the compiler makes it of make. -/
theorem app_two (ty : TypeId) (w : World) (b : Nat) (x y : UInt8) (h : Own w (some ⟨b, 0, none⟩) 2 [x, y]) : ∃ c w', (Builtin.append_ #[25, 3] ty #[.slice (some ⟨b, 0, none⟩) 2 2, .int .i64 2]).run Try.prog w = .ok (.slice (some ⟨w.heap.size, 0, none⟩) 4 c) w' ∧ Own w' (some ⟨w.heap.size, 0, none⟩) c [x, y, 0, 0] ∧ w.grownBy w' none := by
  obtain ⟨i0, hi, hz0, hz1, hz2⟩ := info_parts info5
  have hold : (Builtin.firstCells i0.size 2 (.slice (some ⟨b, 0, none⟩) 2 2)).run Try.prog w.drew = .ok (bcells [x, y]).toArray w.drew := by
    refine run_firstCells_some w.drew i0.size 2 ⟨b, 0, none⟩ 2 2 (bcells [x, y]) (by simp [bcells_length, hz1]) ?_
    intro j u hu
    obtain ⟨hj, rfl⟩ := bcells_get hu
    rw [addr_add, Nat.zero_add]
    exact Own.cell h j hj
  rw [hz1] at hold
  have ha : (asInt (Value.int .i64 2)).run Try.prog w = .ok 2 w := rfl
  have hw2 : IntKind.i64.wrap 2 = 2 := by decide
  have hn : Builtin.nextslicecap 4 2 = 4 := by decide
  have hge := grownCap_ge w 4 2 5
  have hcm : grownCap w 4 2 5 ≤ maxLen := grownCap_le_maxLen w _ 2 5 (by simp [maxLen])
  refine ⟨grownCap w 4 2 5, w.drew.alloc (.cells ((bcells [x, y] ++ bcells [0, 0]).toArray ++ Builtin.zeroCells (Value.int .u8 0).cells (grownCap w 4 2 5 - 4)) 5), ?_, ?_, ⟨rfl, rfl, rfl, by simp, fun k hk _ => Below.heap_alloc w.drew _ k hk⟩⟩
  · simp [Builtin.append_, run_underlying Try.underlying25, run_underlying Try.underlying3, sizeOf, typeInfo, zeroValue, hi, hz0, hz1, hz2, Question.forced, hold, newRow, grownCap, ha, hw2, hn]
    rw [if_neg (by decide)]
    have hzc : Builtin.zeroCells (Value.int .u8 0).cells 2 = (bcells [0, 0]).toArray := by kernel_rfl
    rw [hzc]
    simp only [Result.ok.injEq, true_and]
    refine congrArg (fun z => w.drew.alloc (.cells z 5)) ?_
    apply Array.ext'
    simp
  · refine .inr ⟨w.heap.size, _, rfl, heap_alloc_new w.drew _, by simpa using hge, hcm, ?_, ?_⟩
    · have e : (Value.int .u8 0).cells.size = 1 := rfl
      simp only [Array.size_append, List.size_toArray, size_zeroCells, e, List.length_append, bcells_length]
      simp
      omega
    · simp only [Array.toList_append]
      rw [← bcells_append, List.take_append_of_le_length (by simp [bcells_length])]
      exact List.take_of_length_le (by simp [bcells_length])

theorem own_at (w : World) (o : Obj) (cs : Array Value) (L : List UInt8) (h : cs.toList = bcells L) (hl : L.length ≤ 4) : Own ((w.alloc o).alloc (.cells cs 5)) (some ⟨w.heap.size + 1, 0, none⟩) L.length L := by
  have := own_of (w.alloc o) cs L h hl
  simpa using this
theorem wpList_app_two {ops : Array Oper} {rest : List Oper} {o : Oper} {a : Act} {w : World} {Q : Exit → Act → World → Prop} (hgd : o.guard = none) (s x : Operand)
    (ho : o.op = .call { callee := .builtin .append, args := #[s, x], argTypes := #[25, 3] }) (b : Nat) (p q : UInt8) (hs : a.eval s = .slice (some ⟨b, 0, none⟩) 2 2) (hx : a.eval x = .int .i64 2) (h : Own w (some ⟨b, 0, none⟩) 2 [p, q])
    (hK : ∀ c w', Own w' (some ⟨w.heap.size, 0, none⟩) c [p, q, 0, 0] → w.grownBy w' none → wpList Try.prog ops Q rest (a.put o.dst (.slice (some ⟨w.heap.size, 0, none⟩) 4 c)) w') : wpList Try.prog ops Q (o :: rest) a w := by
  obtain ⟨c, w', hr, h2, h3⟩ := app_two o.type w b p q h
  refine wpList_plain hgd fun _ hk => ?_
  unfold Oper.wp execOp
  simp only [ho, resolve, invoke, builtin, Sem.run_bind, Sem.run_pure, Result.andThen_ok, List.map_toArray, List.map_cons, List.map_nil, hs, hx, hr]
  exact hk _ _ (hK c w' h2 h3)
theorem app_new {W w' : World} {o : Obj} (h : (W.alloc o).grownBy w' (blk (some ⟨W.heap.size, 0, none⟩))) : W.grownBy w' none := grownBy_new (ga (grownBy_refl _ _)) h (by intro g e; simp [blk] at e; omega)
theorem app_new2 {W w' : World} {o o2 : Obj} (h : ((W.alloc o).alloc o2).grownBy w' (blk (some ⟨W.heap.size, 0, none⟩))) : W.grownBy w' none := grownBy_new (ga (ga (grownBy_refl _ _))) h (by intro g e; simp [blk] at e; omega)
theorem app_on {W w1 w2 : World} {ao : Option Addr} (h1 : W.grownBy w1 none) (hn : ∀ g, blk ao = some g → W.heap.size ≤ g) (h2 : w1.grownBy w2 (blk ao)) : W.grownBy w2 none := grownBy_new h1 h2 hn

theorem getR_beg2 (k : Int) (L : List UInt8) (hk : k = 5) : getR k 0 0 0 0 ([254, 255] ++ L) = ⟨0, 2, 0, 0, 1⟩ ∧ getR k 0 0 0 0 ([255, 254] ++ L) = ⟨0, 2, 0, 0, 2⟩ := by
  subst hk
  have hf : fm 5 = some (2, true, true, false) := rfl
  have h0 : fitB true 0 0 0 0 = true := by decide
  constructor <;> (simp only [getR, hf, h0]; simp [num, acc, pl]; intro h; omega)
theorem getR_beg4 (k : Int) (L : List UInt8) (hk : k = 8) : getR k 0 0 0 0 ([0, 0, 254, 255] ++ L) = ⟨0, 4, 0, 0, 1⟩ ∧ getR k 0 0 0 0 ([255, 254, 0, 0] ++ L) = ⟨0, 4, 0, 0, 2⟩ := by
  subst hk
  have hf : fm 8 = some (4, false, true, false) := rfl
  have h0 : fitB true 0 0 0 0 = true := by decide
  constructor <;> (simp only [getR, hf, h0]; simp [num, acc, pl]; intro h; omega)
theorem getR_mode {k : Int} {n : Nat} {p : Bool} (hf : fm k = some (n, p, true, false)) (md : Int) (hm : md = 1 ∨ md = 2) (L : List UInt8) : getR k md 0 0 0 L = plainR p (decide (md = 2)) n L md := by
  have h0 : fitB true md 0 0 0 = true := by rcases hm with rfl | rfl <;> decide
  have h1 : ¬ md = 0 := by omega
  simp only [getR, hf, h0]
  simp [h1]
theorem mode_same (p low : Bool) (n : Nat) (L : List UInt8) (md : Int) : ∃ e m j a d, plainR p low n L md = ⟨e, m, j, a, d⟩ ∧ plainR p low n L 0 = ⟨e, m, j, a, 0⟩ := by
  obtain ⟨R, hR⟩ : ∃ R, plainR p low n L 0 = R := ⟨_, rfl⟩
  have h1 := plainR_md p low n L md R hR
  have h2 := plainR_md p low n L 0 R hR
  by_cases c : R.e = 1
  · exact ⟨_, _, _, _, _, h1.1 c, h2.1 c⟩
  · exact ⟨_, _, _, _, _, h1.2 c, h2.2 c⟩

set_option maxRecDepth 100000 in
set_option maxHeartbeats 4000000 in
theorem marks_2 (ao : Option Addr) (cap : Nat) (L : List UInt8) (w : World) (hB : Bytes w ao L) (hLc : L.length ≤ cap) (hcm : cap ≤ 140737488351232) :
    Calls Try.prog 7 #[.bool false, .slice ao L.length cap] w fun e w' => e = .returned (.bool true) ∧ Below w.heap.size w w' := by
  obtain ⟨i0, hi, hz0, hz1, hz2⟩ := info_parts info5
  have HB : Hid (Bytes w ao L) := hB
  clear hB
  have k0 := mk0
  have k2 := mk2
  go_enter Try.func7, Try.ntmps7
  go_upto_region 7 with (first | (go_at_call 15; refine (works_any _).mono ?_; rintro e w1 ⟨rfl, hg1⟩) | (at_builtin; refine wpList_append_any _ rfl _ _ 25 25 rfl i0 Try.underlying25 hi hz0 hz1 hz2 _ _ [] rfl ((own_of w1 #[] [] rfl (by simp)).alloc _) _ rfl [254, 255] (src_of (own_at w1 _ #[.int .u8 254, .int .u8 255] [254, 255] rfl (by simp)).bytes 25 2 Try.underlying25) (by simp) [254, 255] rfl ?_; intro aA cA wA hAo hAg hAt))
  have hB1 : Hid (Bytes wA aA [254, 255]) := hAo.bytes
  have hgA : Hid (w.grownBy wA none) := gt hg1 (app_new2 hAg)
  clear hAo hAg hAt hg1
  go_upto_region 8 with fail
  obtain ⟨wB, hwB⟩ : ∃ wB, wB = wA.alloc (.cells #[.int .u8 255, .int .u8 254] 5) := ⟨_, rfl⟩
  have hBo : Own wB (some ⟨wA.heap.size, 0, none⟩) 2 [255, 254] := by rw [hwB]; exact own_of wA _ [255, 254] rfl (by simp)
  have hBg : wA.grownBy wB none := by rw [hwB]; exact ga (grownBy_refl _ _)
  rw [← hwB]
  clear hwB
  have hB2 : Hid (Bytes wB (some ⟨wA.heap.size, 0, none⟩) [255, 254]) := hBo.bytes
  have hgB : Hid (wA.grownBy wB none) := hBg
  clear hBo hBg
  go_upto_region 9 with (first | (at_builtin; refine wpList_append_any _ rfl _ _ 25 25 rfl i0 Try.underlying25 hi hz0 hz1 hz2 _ _ [] rfl (own_made wB) _ rfl [254, 255] (src_of ((hB1.out.kept0 hgB.out).alloc _) 25 cA Try.underlying25) (by simp) [254, 255] rfl ?_; intro aC cC wC hCo hCg hCt) | (at_builtin; refine wpList_append_any _ rfl _ _ 25 25 rfl i0 Try.underlying25 hi hz0 hz1 hz2 _ _ [254, 255] rfl hCo _ rfl L (src_of (HB.out.kept0 (gt hgA.out (gt hgB.out (app_new hCg)))) 25 cap Try.underlying25) (by simp; omega) ([254, 255] ++ L) rfl ?_; intro aD cD wD hDo hDg hDt) | (go_at_call 9; refine (get_lit 5 0 0 0 0 _ (L.length + 1 + 1) cD ([254, 255] ++ L) _ hDo.bytes (by simp) (by omega) (by have := hDo.cap_le; simp at this; omega) hDo.cap_max 0 2 0 0 1 (getR_beg2 5 L rfl).1).mono ?_; rintro e wE ⟨rfl, hgE⟩))
  have hn1 : ∀ g, blk aC = some g → wB.heap.size ≤ g := by intro g e; rcases hCt with rfl | rfl <;> simp [blk] at e <;> omega
  have hBE : Hid (wB.grownBy (wE.alloc (.cells #[.int .i64 0, .int .i64 2, .int .i64 0, .int .i32 0, .int .i32 0, .int .i64 1, .int .i64 0, .int .u32 0, .int .i32 0] 28)) none) := ga (gt (app_on (app_new hCg) hn1 hDg) hgE)
  have hgE2 : Hid (w.grownBy (wE.alloc (.cells #[.int .i64 0, .int .i64 2, .int .i64 0, .int .i32 0, .int .i32 0, .int .i64 1, .int .i64 0, .int .u32 0, .int .i32 0] 28)) none) := gt hgA.out (gt hgB.out hBE.out)
  have hB3 : Hid (Bytes (wE.alloc (.cells #[.int .i64 0, .int .i64 2, .int .i64 0, .int .i32 0, .int .i32 0, .int .i64 1, .int .i64 0, .int .u32 0, .int .i32 0] 28)) (some ⟨wA.heap.size, 0, none⟩) [255, 254]) := hB2.out.kept0 hBE.out
  clear hCo hCg hCt hDo hDg hDt hgE hn1 hB1 hB2 hgA hgB hBE
  go_upto_region 10 with (first | (at_builtin; refine wpList_append_any _ rfl _ _ 25 25 rfl i0 Try.underlying25 hi hz0 hz1 hz2 _ _ [] rfl (own_made2 wE _) _ rfl [255, 254] (src_of (hB3.out.alloc _) 25 2 Try.underlying25) (by simp) [255, 254] rfl ?_; intro aF cF wF hFo hFg hFt) | (at_builtin; refine wpList_append_any _ rfl _ _ 25 25 rfl i0 Try.underlying25 hi hz0 hz1 hz2 _ _ [255, 254] rfl hFo _ rfl L (src_of (HB.out.kept0 (gt hgE2.out (app_new (by simpa using hFg)))) 25 cap Try.underlying25) (by simp; omega) ([255, 254] ++ L) rfl ?_; intro aH cH wH hHo hHg hHt) | (go_at_call 9; refine (get_lit 5 0 0 0 0 _ (L.length + 1 + 1) cH ([255, 254] ++ L) _ hHo.bytes (by simp) (by omega) (by have := hHo.cap_le; simp at this; omega) hHo.cap_max 0 2 0 0 2 (getR_beg2 5 L rfl).2).mono ?_; rintro e wI ⟨rfl, hgI⟩))
  have hn2 : ∀ g, blk aF = some g → (wE.alloc (.cells #[.int .i64 0, .int .i64 2, .int .i64 0, .int .i32 0, .int .i32 0, .int .i64 1, .int .i64 0, .int .u32 0, .int .i32 0] 28)).heap.size ≤ g := by intro g e; rcases hFt with rfl | rfl <;> simp [blk] at e ⊢ <;> omega
  have hFg2 : (wE.alloc (.cells #[.int .i64 0, .int .i64 2, .int .i64 0, .int .i32 0, .int .i32 0, .int .i64 1, .int .i64 0, .int .u32 0, .int .i32 0] 28)).grownBy wF none := app_new (by simpa using hFg)
  have hEI : Hid ((wE.alloc (.cells #[.int .i64 0, .int .i64 2, .int .i64 0, .int .i32 0, .int .i32 0, .int .i64 1, .int .i64 0, .int .u32 0, .int .i32 0] 28)).grownBy wI none) := gt (app_on hFg2 hn2 hHg) hgI
  have hgI2 : Hid (w.grownBy (wI.alloc (.cells #[.int .i64 0, .int .i64 2, .int .i64 0, .int .i32 0, .int .i32 0, .int .i64 2, .int .i64 0, .int .u32 0, .int .i32 0] 28)) none) := ga (gt hgE2.out hEI.out)
  have g1 : Hid ((wI.alloc (.cells #[.int .i64 0, .int .i64 2, .int .i64 0, .int .i32 0, .int .i32 0, .int .i64 2, .int .i64 0, .int .u32 0, .int .i32 0] 28)).heap[wE.heap.size]? = some (.cells #[.int .i64 0, .int .i64 2, .int .i64 0, .int .i32 0, .int .i32 0, .int .i64 1, .int .i64 0, .int .u32 0, .int .i32 0] 28 (0, 0))) := res_alloc (blk_kept (heap_alloc_new wE _) hEI.out) _
  have g2 : Hid ((wI.alloc (.cells #[.int .i64 0, .int .i64 2, .int .i64 0, .int .i32 0, .int .i32 0, .int .i64 2, .int .i64 0, .int .u32 0, .int .i32 0] 28)).heap[wI.heap.size]? = some (.cells #[.int .i64 0, .int .i64 2, .int .i64 0, .int .i32 0, .int .i32 0, .int .i64 2, .int .i64 0, .int .u32 0, .int .i32 0] 28 (0, 0))) := heap_alloc_new wI _
  clear hFo hFg hFt hHo hHg hHt hgI hn2 hFg2 hEI hgE2 hB3
  generalize wI.alloc (.cells #[.int .i64 0, .int .i64 2, .int .i64 0, .int .i32 0, .int .i32 0, .int .i64 2, .int .i64 0, .int .u32 0, .int .i32 0] 28) = wN at *
  generalize wI.heap.size = b2 at *
  generalize wE.heap.size = b1 at *
  obtain ⟨e1, m1, j1, a1, d1, hp1, hq1⟩ := mode_same true false 2 L 1
  obtain ⟨e2, m2, j2, a2, d2, hp2, hq2⟩ := mode_same true true 2 L 2
  have P1 : Hid (getR 5 1 0 0 0 L = ⟨e1, m1, j1, a1, d1⟩) := (getR_mode (k := 5) rfl 1 (.inl rfl) L).trans hp1
  have Q1 : Hid (getR 3 0 0 0 0 L = ⟨e1, m1, j1, a1, 0⟩) := (getR_bare (k := 3) rfl L).trans hq1
  have P2 : Hid (getR 5 2 0 0 0 L = ⟨e2, m2, j2, a2, d2⟩) := (getR_mode (k := 5) rfl 2 (.inr rfl) L).trans hp2
  have Q2 : Hid (getR 4 0 0 0 0 L = ⟨e2, m2, j2, a2, 0⟩) := (getR_bare (k := 4) rfl L).trans hq2
  clear hp1 hq1 hp2 hq2
  have x1 := g1.out
  have x2 := g2.out
  have rx0 := cell_at x1 0 rfl
  have rx1 := cell_at x1 1 rfl
  have rx2 := cell_at x1 2 rfl
  have rx3 := cell_at x1 3 rfl
  have rx4 := cell_at x1 4 rfl
  have rx5 := cell_at x1 5 rfl
  have rx6 := cell_at x1 6 rfl
  have rx7 := cell_at x1 7 rfl
  have rx8 := cell_at x1 8 rfl
  have fzx := froz_at x1
  clear x1
  have ry0 := cell_at x2 0 rfl
  have ry1 := cell_at x2 1 rfl
  have ry2 := cell_at x2 2 rfl
  have ry3 := cell_at x2 3 rfl
  have ry4 := cell_at x2 4 rfl
  have ry5 := cell_at x2 5 rfl
  have ry6 := cell_at x2 6 rfl
  have ry7 := cell_at x2 7 rfl
  have ry8 := cell_at x2 8 rfl
  have fzy := froz_at x2
  clear x2
  clear fzx fzy
  go_upto_region 13 with (first | (go_at_call_of 9 (Value.int IntKind.i64 5); refine (get_lit 5 1 0 0 0 _ L.length cap L _ (HB.out.kept0 hgI2.out) rfl (by omega) hLc (by omega) _ _ _ _ _ P1.out).mono ?_; rintro e wJ ⟨rfl, hgJ⟩) | (go_at_call_of 9 (Value.int IntKind.i64 3); refine (get_lit 3 0 0 0 0 _ L.length cap L _ (HB.out.kept0 (gt hgI2.out hgJ)) rfl (by omega) hLc (by omega) _ _ _ _ _ Q1.out).mono ?_; rintro e wK ⟨rfl, hgK⟩))
  have hgO : Hid (w.grownBy ((wK.alloc (.cells #[.int .i64 e1, .int .i64 m1, .int .i64 j1, .int .i32 a1, .int .i32 0, .int .i64 d1, .int .i64 0, .int .u32 0, .int .i32 0] 28)).alloc (.cells #[.int .i64 e1, .int .i64 m1, .int .i64 j1, .int .i32 a1, .int .i32 0, .int .i64 0, .int .i64 0, .int .u32 0, .int .i32 0] 28)) none) := ga (ga (gt hgI2.out (gt hgJ hgK)))
  have z2 : ((wK.alloc (.cells #[.int .i64 e1, .int .i64 m1, .int .i64 j1, .int .i32 a1, .int .i32 0, .int .i64 d1, .int .i64 0, .int .u32 0, .int .i32 0] 28)).alloc (.cells #[.int .i64 e1, .int .i64 m1, .int .i64 j1, .int .i32 a1, .int .i32 0, .int .i64 0, .int .i64 0, .int .u32 0, .int .i32 0] 28)).heap[b2]? = some (.cells #[.int .i64 0, .int .i64 2, .int .i64 0, .int .i32 0, .int .i32 0, .int .i64 2, .int .i64 0, .int .u32 0, .int .i32 0] 28 (0, 0)) := res_alloc (res_alloc (blk_kept g2.out (gt hgJ hgK)) _) _
  have z3 : Hid (((wK.alloc (.cells #[.int .i64 e1, .int .i64 m1, .int .i64 j1, .int .i32 a1, .int .i32 0, .int .i64 d1, .int .i64 0, .int .u32 0, .int .i32 0] 28)).alloc (.cells #[.int .i64 e1, .int .i64 m1, .int .i64 j1, .int .i32 a1, .int .i32 0, .int .i64 0, .int .i64 0, .int .u32 0, .int .i32 0] 28)).heap[wK.heap.size]? = some (.cells #[.int .i64 e1, .int .i64 m1, .int .i64 j1, .int .i32 a1, .int .i32 0, .int .i64 d1, .int .i64 0, .int .u32 0, .int .i32 0] 28 (0, 0))) := res_alloc (heap_alloc_new wK _) _
  have z4 : Hid (((wK.alloc (.cells #[.int .i64 e1, .int .i64 m1, .int .i64 j1, .int .i32 a1, .int .i32 0, .int .i64 d1, .int .i64 0, .int .u32 0, .int .i32 0] 28)).alloc (.cells #[.int .i64 e1, .int .i64 m1, .int .i64 j1, .int .i32 a1, .int .i32 0, .int .i64 0, .int .i64 0, .int .u32 0, .int .i32 0] 28)).heap[wK.heap.size + 1]? = some (.cells #[.int .i64 e1, .int .i64 m1, .int .i64 j1, .int .i32 a1, .int .i32 0, .int .i64 0, .int .i64 0, .int .u32 0, .int .i32 0] 28 (0, 0))) := two_second (grownBy_refl _ _)
  clear g1 g2 rx0 rx1 rx2 rx3 rx4 rx5 rx6 rx7 rx8 ry0 ry1 ry2 ry3 ry4 ry5 ry6 ry7 ry8 hgI2 hgJ hgK P1 Q1
  have ry0 := cell_at z2 0 rfl
  have ry1 := cell_at z2 1 rfl
  have ry2 := cell_at z2 2 rfl
  have ry3 := cell_at z2 3 rfl
  have ry4 := cell_at z2 4 rfl
  have ry5 := cell_at z2 5 rfl
  have ry6 := cell_at z2 6 rfl
  have ry7 := cell_at z2 7 rfl
  have ry8 := cell_at z2 8 rfl
  have fzy := froz_at z2
  clear z2
  clear fzy
  generalize (wK.alloc (.cells #[.int .i64 e1, .int .i64 m1, .int .i64 j1, .int .i32 a1, .int .i32 0, .int .i64 d1, .int .i64 0, .int .u32 0, .int .i32 0] 28)).alloc (.cells #[.int .i64 e1, .int .i64 m1, .int .i64 j1, .int .i32 a1, .int .i32 0, .int .i64 0, .int .i64 0, .int .u32 0, .int .i32 0] 28) = wO at *
  generalize wK.heap.size = b3 at *
  go_wp2_with (first | (go_at_call_of 9 (Value.int IntKind.i64 5); refine (get_lit 5 2 0 0 0 _ L.length cap L _ (HB.out.kept0 hgO.out) rfl (by omega) hLc (by omega) _ _ _ _ _ P2.out).mono ?_; rintro e wL ⟨rfl, hgL⟩) | (go_at_call_of 9 (Value.int IntKind.i64 4); refine (get_lit 4 0 0 0 0 _ L.length cap L _ (HB.out.kept0 (gt hgO.out hgL)) rfl (by omega) hLc (by omega) _ _ _ _ _ Q2.out).mono ?_; rintro e wM ⟨rfl, hgM⟩; have v3 := res_alloc (res_alloc (blk_kept z3.out (gt hgL hgM)) (.cells #[.int .i64 e2, .int .i64 m2, .int .i64 j2, .int .i32 a2, .int .i32 0, .int .i64 d2, .int .i64 0, .int .u32 0, .int .i32 0] 28)) (.cells #[.int .i64 e2, .int .i64 m2, .int .i64 j2, .int .i32 a2, .int .i32 0, .int .i64 0, .int .i64 0, .int .u32 0, .int .i32 0] 28); have v4 := res_alloc (res_alloc (blk_kept z4.out (gt hgL hgM)) (.cells #[.int .i64 e2, .int .i64 m2, .int .i64 j2, .int .i32 a2, .int .i32 0, .int .i64 d2, .int .i64 0, .int .u32 0, .int .i32 0] 28)) (.cells #[.int .i64 e2, .int .i64 m2, .int .i64 j2, .int .i32 a2, .int .i32 0, .int .i64 0, .int .i64 0, .int .u32 0, .int .i32 0] 28); clear ry0 ry1 ry2 ry3 ry4 ry5 ry6 ry7 ry8; have rp0 := cell_at v3 0 rfl; have rp1 := cell_at v3 1 rfl; have rp2 := cell_at v3 2 rfl; have rp3 := cell_at v3 3 rfl; have rp4 := cell_at v3 4 rfl; have rp5 := cell_at v3 5 rfl; have rp6 := cell_at v3 6 rfl; have rp7 := cell_at v3 7 rfl; have rp8 := cell_at v3 8 rfl; have fzp := froz_at v3; clear v3; have rq0 := cell_at v4 0 rfl; have rq1 := cell_at v4 1 rfl; have rq2 := cell_at v4 2 rfl; have rq3 := cell_at v4 3 rfl; have rq4 := cell_at v4 4 rfl; have rq5 := cell_at v4 5 rfl; have rq6 := cell_at v4 6 rfl; have rq7 := cell_at v4 7 rfl; have rq8 := cell_at v4 8 rfl; have fzq := froz_at v4; clear v4; clear fzp fzq))
  go_ret
  refine ⟨rfl, below_g ?_⟩
  have hgO2 := hgO.out
  (repeat (first | with_reducible exact grownBy_refl _ _ | (with_reducible refine gs ?_ ?_; first | omega | (simp; omega)) | with_reducible refine ga ?_ | with_reducible refine gd ?_ | with_reducible refine gdn ?_ | with_reducible refine gt ?_ (by assumption)))

set_option maxRecDepth 100000 in
set_option maxHeartbeats 4000000 in
theorem marks_4 (ao : Option Addr) (cap : Nat) (L : List UInt8) (w : World) (hB : Bytes w ao L) (hLc : L.length ≤ cap) (hcm : cap ≤ 140737488351232) :
    Calls Try.prog 7 #[.bool true, .slice ao L.length cap] w fun e w' => e = .returned (.bool true) ∧ Below w.heap.size w w' := by
  obtain ⟨i0, hi, hz0, hz1, hz2⟩ := info_parts info5
  have HB : Hid (Bytes w ao L) := hB
  clear hB
  have k0 := mk0
  have k2 := mk2
  go_enter Try.func7, Try.ntmps7
  go_upto_region 7 with (first | (go_at_call 15; refine (works_any _).mono ?_; rintro e w1 ⟨rfl, hg1⟩) | (at_builtin; refine wpList_append_any _ rfl _ _ 25 25 rfl i0 Try.underlying25 hi hz0 hz1 hz2 _ _ [0, 0] rfl ((own_of w1 #[.int .u8 0, .int .u8 0] [0, 0] rfl (by simp)).alloc _) _ rfl [254, 255] (src_of (own_at w1 _ #[.int .u8 254, .int .u8 255] [254, 255] rfl (by simp)).bytes 25 2 Try.underlying25) (by simp) [0, 0, 254, 255] rfl ?_; intro aA cA wA hAo hAg hAt))
  have hB1 : Hid (Bytes wA aA [0, 0, 254, 255]) := hAo.bytes
  have hgA : Hid (w.grownBy wA none) := gt hg1 (app_new2 hAg)
  clear hAo hAg hAt hg1
  go_upto_region 8 with (at_builtin; refine wpList_app_two rfl _ _ rfl _ 255 254 rfl rfl (own_of wA #[.int .u8 255, .int .u8 254] [255, 254] rfl (by simp)) ?_; intro cB wB hBo' hBg')
  have hBo : Own wB (some ⟨wA.heap.size + 1, 0, none⟩) cB [255, 254, 0, 0] := by simpa using hBo'
  have hBg : wA.grownBy wB none := gt (ga (grownBy_refl _ _)) hBg'
  clear hBo' hBg' 
  have hB2 : Hid (Bytes wB (some ⟨wA.heap.size + 1, 0, none⟩) [255, 254, 0, 0]) := hBo.bytes
  have hgB : Hid (wA.grownBy wB none) := hBg
  clear hBo hBg
  go_upto_region 9 with (first | (at_builtin; refine wpList_append_any _ rfl _ _ 25 25 rfl i0 Try.underlying25 hi hz0 hz1 hz2 _ _ [] rfl (own_made wB) _ rfl [0, 0, 254, 255] (src_of ((hB1.out.kept0 hgB.out).alloc _) 25 cA Try.underlying25) (by simp) [0, 0, 254, 255] rfl ?_; intro aC cC wC hCo hCg hCt) | (at_builtin; refine wpList_append_any _ rfl _ _ 25 25 rfl i0 Try.underlying25 hi hz0 hz1 hz2 _ _ [0, 0, 254, 255] rfl hCo _ rfl L (src_of (HB.out.kept0 (gt hgA.out (gt hgB.out (app_new hCg)))) 25 cap Try.underlying25) (by simp; omega) ([0, 0, 254, 255] ++ L) rfl ?_; intro aD cD wD hDo hDg hDt) | (go_at_call 9; refine (get_lit 8 0 0 0 0 _ (L.length + 1 + 1 + 1 + 1) cD ([0, 0, 254, 255] ++ L) _ hDo.bytes (by simp) (by omega) (by have := hDo.cap_le; simp at this; omega) hDo.cap_max 0 4 0 0 1 (getR_beg4 8 L rfl).1).mono ?_; rintro e wE ⟨rfl, hgE⟩))
  have hn1 : ∀ g, blk aC = some g → wB.heap.size ≤ g := by intro g e; rcases hCt with rfl | rfl <;> simp [blk] at e <;> omega
  have hBE : Hid (wB.grownBy (wE.alloc (.cells #[.int .i64 0, .int .i64 4, .int .i64 0, .int .i32 0, .int .i32 0, .int .i64 1, .int .i64 0, .int .u32 0, .int .i32 0] 28)) none) := ga (gt (app_on (app_new hCg) hn1 hDg) hgE)
  have hgE2 : Hid (w.grownBy (wE.alloc (.cells #[.int .i64 0, .int .i64 4, .int .i64 0, .int .i32 0, .int .i32 0, .int .i64 1, .int .i64 0, .int .u32 0, .int .i32 0] 28)) none) := gt hgA.out (gt hgB.out hBE.out)
  have hB3 : Hid (Bytes (wE.alloc (.cells #[.int .i64 0, .int .i64 4, .int .i64 0, .int .i32 0, .int .i32 0, .int .i64 1, .int .i64 0, .int .u32 0, .int .i32 0] 28)) (some ⟨wA.heap.size + 1, 0, none⟩) [255, 254, 0, 0]) := hB2.out.kept0 hBE.out
  clear hCo hCg hCt hDo hDg hDt hgE hn1 hB1 hB2 hgA hgB hBE
  go_upto_region 10 with (first | (at_builtin; refine wpList_append_any _ rfl _ _ 25 25 rfl i0 Try.underlying25 hi hz0 hz1 hz2 _ _ [] rfl (own_made2 wE _) _ rfl [255, 254, 0, 0] (src_of (hB3.out.alloc _) 25 cB Try.underlying25) (by simp) [255, 254, 0, 0] rfl ?_; intro aF cF wF hFo hFg hFt) | (at_builtin; refine wpList_append_any _ rfl _ _ 25 25 rfl i0 Try.underlying25 hi hz0 hz1 hz2 _ _ [255, 254, 0, 0] rfl hFo _ rfl L (src_of (HB.out.kept0 (gt hgE2.out (app_new (by simpa using hFg)))) 25 cap Try.underlying25) (by simp; omega) ([255, 254, 0, 0] ++ L) rfl ?_; intro aH cH wH hHo hHg hHt) | (go_at_call 9; refine (get_lit 8 0 0 0 0 _ (L.length + 1 + 1 + 1 + 1) cH ([255, 254, 0, 0] ++ L) _ hHo.bytes (by simp) (by omega) (by have := hHo.cap_le; simp at this; omega) hHo.cap_max 0 4 0 0 2 (getR_beg4 8 L rfl).2).mono ?_; rintro e wI ⟨rfl, hgI⟩))
  have hn2 : ∀ g, blk aF = some g → (wE.alloc (.cells #[.int .i64 0, .int .i64 4, .int .i64 0, .int .i32 0, .int .i32 0, .int .i64 1, .int .i64 0, .int .u32 0, .int .i32 0] 28)).heap.size ≤ g := by intro g e; rcases hFt with rfl | rfl <;> simp [blk] at e ⊢ <;> omega
  have hFg2 : (wE.alloc (.cells #[.int .i64 0, .int .i64 4, .int .i64 0, .int .i32 0, .int .i32 0, .int .i64 1, .int .i64 0, .int .u32 0, .int .i32 0] 28)).grownBy wF none := app_new (by simpa using hFg)
  have hEI : Hid ((wE.alloc (.cells #[.int .i64 0, .int .i64 4, .int .i64 0, .int .i32 0, .int .i32 0, .int .i64 1, .int .i64 0, .int .u32 0, .int .i32 0] 28)).grownBy wI none) := gt (app_on hFg2 hn2 hHg) hgI
  have hgI2 : Hid (w.grownBy (wI.alloc (.cells #[.int .i64 0, .int .i64 4, .int .i64 0, .int .i32 0, .int .i32 0, .int .i64 2, .int .i64 0, .int .u32 0, .int .i32 0] 28)) none) := ga (gt hgE2.out hEI.out)
  have g1 : Hid ((wI.alloc (.cells #[.int .i64 0, .int .i64 4, .int .i64 0, .int .i32 0, .int .i32 0, .int .i64 2, .int .i64 0, .int .u32 0, .int .i32 0] 28)).heap[wE.heap.size]? = some (.cells #[.int .i64 0, .int .i64 4, .int .i64 0, .int .i32 0, .int .i32 0, .int .i64 1, .int .i64 0, .int .u32 0, .int .i32 0] 28 (0, 0))) := res_alloc (blk_kept (heap_alloc_new wE _) hEI.out) _
  have g2 : Hid ((wI.alloc (.cells #[.int .i64 0, .int .i64 4, .int .i64 0, .int .i32 0, .int .i32 0, .int .i64 2, .int .i64 0, .int .u32 0, .int .i32 0] 28)).heap[wI.heap.size]? = some (.cells #[.int .i64 0, .int .i64 4, .int .i64 0, .int .i32 0, .int .i32 0, .int .i64 2, .int .i64 0, .int .u32 0, .int .i32 0] 28 (0, 0))) := heap_alloc_new wI _
  clear hFo hFg hFt hHo hHg hHt hgI hn2 hFg2 hEI hgE2 hB3
  generalize wI.alloc (.cells #[.int .i64 0, .int .i64 4, .int .i64 0, .int .i32 0, .int .i32 0, .int .i64 2, .int .i64 0, .int .u32 0, .int .i32 0] 28) = wN at *
  generalize wI.heap.size = b2 at *
  generalize wE.heap.size = b1 at *
  obtain ⟨e1, m1, j1, a1, d1, hp1, hq1⟩ := mode_same false false 4 L 1
  obtain ⟨e2, m2, j2, a2, d2, hp2, hq2⟩ := mode_same false true 4 L 2
  have P1 : Hid (getR 8 1 0 0 0 L = ⟨e1, m1, j1, a1, d1⟩) := (getR_mode (k := 8) rfl 1 (.inl rfl) L).trans hp1
  have Q1 : Hid (getR 6 0 0 0 0 L = ⟨e1, m1, j1, a1, 0⟩) := (getR_bare (k := 6) rfl L).trans hq1
  have P2 : Hid (getR 8 2 0 0 0 L = ⟨e2, m2, j2, a2, d2⟩) := (getR_mode (k := 8) rfl 2 (.inr rfl) L).trans hp2
  have Q2 : Hid (getR 7 0 0 0 0 L = ⟨e2, m2, j2, a2, 0⟩) := (getR_bare (k := 7) rfl L).trans hq2
  clear hp1 hq1 hp2 hq2
  have x1 := g1.out
  have x2 := g2.out
  have rx0 := cell_at x1 0 rfl
  have rx1 := cell_at x1 1 rfl
  have rx2 := cell_at x1 2 rfl
  have rx3 := cell_at x1 3 rfl
  have rx4 := cell_at x1 4 rfl
  have rx5 := cell_at x1 5 rfl
  have rx6 := cell_at x1 6 rfl
  have rx7 := cell_at x1 7 rfl
  have rx8 := cell_at x1 8 rfl
  have fzx := froz_at x1
  clear x1
  have ry0 := cell_at x2 0 rfl
  have ry1 := cell_at x2 1 rfl
  have ry2 := cell_at x2 2 rfl
  have ry3 := cell_at x2 3 rfl
  have ry4 := cell_at x2 4 rfl
  have ry5 := cell_at x2 5 rfl
  have ry6 := cell_at x2 6 rfl
  have ry7 := cell_at x2 7 rfl
  have ry8 := cell_at x2 8 rfl
  have fzy := froz_at x2
  clear x2
  clear fzx fzy
  go_upto_region 13 with (first | (go_at_call_of 9 (Value.int IntKind.i64 8); refine (get_lit 8 1 0 0 0 _ L.length cap L _ (HB.out.kept0 hgI2.out) rfl (by omega) hLc (by omega) _ _ _ _ _ P1.out).mono ?_; rintro e wJ ⟨rfl, hgJ⟩) | (go_at_call_of 9 (Value.int IntKind.i64 6); refine (get_lit 6 0 0 0 0 _ L.length cap L _ (HB.out.kept0 (gt hgI2.out hgJ)) rfl (by omega) hLc (by omega) _ _ _ _ _ Q1.out).mono ?_; rintro e wK ⟨rfl, hgK⟩))
  have hgO : Hid (w.grownBy ((wK.alloc (.cells #[.int .i64 e1, .int .i64 m1, .int .i64 j1, .int .i32 a1, .int .i32 0, .int .i64 d1, .int .i64 0, .int .u32 0, .int .i32 0] 28)).alloc (.cells #[.int .i64 e1, .int .i64 m1, .int .i64 j1, .int .i32 a1, .int .i32 0, .int .i64 0, .int .i64 0, .int .u32 0, .int .i32 0] 28)) none) := ga (ga (gt hgI2.out (gt hgJ hgK)))
  have z2 : ((wK.alloc (.cells #[.int .i64 e1, .int .i64 m1, .int .i64 j1, .int .i32 a1, .int .i32 0, .int .i64 d1, .int .i64 0, .int .u32 0, .int .i32 0] 28)).alloc (.cells #[.int .i64 e1, .int .i64 m1, .int .i64 j1, .int .i32 a1, .int .i32 0, .int .i64 0, .int .i64 0, .int .u32 0, .int .i32 0] 28)).heap[b2]? = some (.cells #[.int .i64 0, .int .i64 4, .int .i64 0, .int .i32 0, .int .i32 0, .int .i64 2, .int .i64 0, .int .u32 0, .int .i32 0] 28 (0, 0)) := res_alloc (res_alloc (blk_kept g2.out (gt hgJ hgK)) _) _
  have z3 : Hid (((wK.alloc (.cells #[.int .i64 e1, .int .i64 m1, .int .i64 j1, .int .i32 a1, .int .i32 0, .int .i64 d1, .int .i64 0, .int .u32 0, .int .i32 0] 28)).alloc (.cells #[.int .i64 e1, .int .i64 m1, .int .i64 j1, .int .i32 a1, .int .i32 0, .int .i64 0, .int .i64 0, .int .u32 0, .int .i32 0] 28)).heap[wK.heap.size]? = some (.cells #[.int .i64 e1, .int .i64 m1, .int .i64 j1, .int .i32 a1, .int .i32 0, .int .i64 d1, .int .i64 0, .int .u32 0, .int .i32 0] 28 (0, 0))) := res_alloc (heap_alloc_new wK _) _
  have z4 : Hid (((wK.alloc (.cells #[.int .i64 e1, .int .i64 m1, .int .i64 j1, .int .i32 a1, .int .i32 0, .int .i64 d1, .int .i64 0, .int .u32 0, .int .i32 0] 28)).alloc (.cells #[.int .i64 e1, .int .i64 m1, .int .i64 j1, .int .i32 a1, .int .i32 0, .int .i64 0, .int .i64 0, .int .u32 0, .int .i32 0] 28)).heap[wK.heap.size + 1]? = some (.cells #[.int .i64 e1, .int .i64 m1, .int .i64 j1, .int .i32 a1, .int .i32 0, .int .i64 0, .int .i64 0, .int .u32 0, .int .i32 0] 28 (0, 0))) := two_second (grownBy_refl _ _)
  clear g1 g2 rx0 rx1 rx2 rx3 rx4 rx5 rx6 rx7 rx8 ry0 ry1 ry2 ry3 ry4 ry5 ry6 ry7 ry8 hgI2 hgJ hgK P1 Q1
  have ry0 := cell_at z2 0 rfl
  have ry1 := cell_at z2 1 rfl
  have ry2 := cell_at z2 2 rfl
  have ry3 := cell_at z2 3 rfl
  have ry4 := cell_at z2 4 rfl
  have ry5 := cell_at z2 5 rfl
  have ry6 := cell_at z2 6 rfl
  have ry7 := cell_at z2 7 rfl
  have ry8 := cell_at z2 8 rfl
  have fzy := froz_at z2
  clear z2
  clear fzy
  generalize (wK.alloc (.cells #[.int .i64 e1, .int .i64 m1, .int .i64 j1, .int .i32 a1, .int .i32 0, .int .i64 d1, .int .i64 0, .int .u32 0, .int .i32 0] 28)).alloc (.cells #[.int .i64 e1, .int .i64 m1, .int .i64 j1, .int .i32 a1, .int .i32 0, .int .i64 0, .int .i64 0, .int .u32 0, .int .i32 0] 28) = wO at *
  generalize wK.heap.size = b3 at *
  go_wp2_with (first | (go_at_call_of 9 (Value.int IntKind.i64 8); refine (get_lit 8 2 0 0 0 _ L.length cap L _ (HB.out.kept0 hgO.out) rfl (by omega) hLc (by omega) _ _ _ _ _ P2.out).mono ?_; rintro e wL ⟨rfl, hgL⟩) | (go_at_call_of 9 (Value.int IntKind.i64 7); refine (get_lit 7 0 0 0 0 _ L.length cap L _ (HB.out.kept0 (gt hgO.out hgL)) rfl (by omega) hLc (by omega) _ _ _ _ _ Q2.out).mono ?_; rintro e wM ⟨rfl, hgM⟩; have v3 := res_alloc (res_alloc (blk_kept z3.out (gt hgL hgM)) (.cells #[.int .i64 e2, .int .i64 m2, .int .i64 j2, .int .i32 a2, .int .i32 0, .int .i64 d2, .int .i64 0, .int .u32 0, .int .i32 0] 28)) (.cells #[.int .i64 e2, .int .i64 m2, .int .i64 j2, .int .i32 a2, .int .i32 0, .int .i64 0, .int .i64 0, .int .u32 0, .int .i32 0] 28); have v4 := res_alloc (res_alloc (blk_kept z4.out (gt hgL hgM)) (.cells #[.int .i64 e2, .int .i64 m2, .int .i64 j2, .int .i32 a2, .int .i32 0, .int .i64 d2, .int .i64 0, .int .u32 0, .int .i32 0] 28)) (.cells #[.int .i64 e2, .int .i64 m2, .int .i64 j2, .int .i32 a2, .int .i32 0, .int .i64 0, .int .i64 0, .int .u32 0, .int .i32 0] 28); clear ry0 ry1 ry2 ry3 ry4 ry5 ry6 ry7 ry8; have rp0 := cell_at v3 0 rfl; have rp1 := cell_at v3 1 rfl; have rp2 := cell_at v3 2 rfl; have rp3 := cell_at v3 3 rfl; have rp4 := cell_at v3 4 rfl; have rp5 := cell_at v3 5 rfl; have rp6 := cell_at v3 6 rfl; have rp7 := cell_at v3 7 rfl; have rp8 := cell_at v3 8 rfl; have fzp := froz_at v3; clear v3; have rq0 := cell_at v4 0 rfl; have rq1 := cell_at v4 1 rfl; have rq2 := cell_at v4 2 rfl; have rq3 := cell_at v4 3 rfl; have rq4 := cell_at v4 4 rfl; have rq5 := cell_at v4 5 rfl; have rq6 := cell_at v4 6 rfl; have rq7 := cell_at v4 7 rfl; have rq8 := cell_at v4 8 rfl; have fzq := froz_at v4; clear v4; clear fzp fzq))
  go_ret
  refine ⟨rfl, below_g ?_⟩
  have hgO2 := hgO.out
  (repeat (first | with_reducible exact grownBy_refl _ _ | (with_reducible refine gs ?_ ?_; first | omega | (simp; omega)) | with_reducible refine ga ?_ | with_reducible refine gd ?_ | with_reducible refine gdn ?_ | with_reducible refine gt ?_ (by assumption)))

theorem marks_walk (four : Bool) (ao : Option Addr) (cap : Nat) (L : List UInt8) (w : World) (hB : Bytes w ao L) (hLc : L.length ≤ cap) (hcm : cap ≤ 140737488351232) :
    Calls Try.prog 7 #[.bool four, .slice ao L.length cap] w fun e w' => e = .returned (.bool true) ∧ Below w.heap.size w w' := by
  cases four
  · exact marks_2 ao cap L w hB hLc hcm
  · exact marks_4 ao cap L w hB hLc hcm
end Go.Proofs.Ytkfcciacoplgmaa.Wd
