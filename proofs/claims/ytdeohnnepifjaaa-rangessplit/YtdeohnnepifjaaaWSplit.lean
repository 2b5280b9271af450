/- RangesSplit: walks. -/
import Derived.Test.YtdeohnnepifjaaaWOne
import Derived.Test.YtdeohnnepifjaaaSplitP
import Derived.Test.YtdeohnnepifjaaaWRBack
namespace Go.Proofs.Ytdeohnnepifjaaa.Rn
open Go.ChangeShapes Go.WideShapes Go.ChangeAt Go.RowKit Go.Proofs.Ytdeohnnepifjaaa.Mem Go.Proofs.Ytdeohnnepifjaaa.Ucs Go.Proofs.Ytdeohnnepifjaaa.El
set_option linter.unusedVariables false
set_option linter.unusedSimpArgs false

/-- A slice of integers that came in. -/
def IntRow (w : World) (a : Option Addr) (len cap : Nat) (zs : List Int) : Prop :=
  (a = none ∧ len = 0 ∧ cap = 0 ∧ zs = []) ∨
  ∃ x, a = some x ∧ len ≤ cap ∧ cap ≤ maxLen ∧ zs.length = cap ∧ (∀ i, i < zs.length → w.cell? (x.add i) = some (.int .i64 (zs.getD i 0))) ∧ ∀ n ∈ zs, (Lit.int .i64 n).wf = true
theorem IntRow.at {w : World} {a : Option Addr} {len cap : Nat} {zs : List Int} (h : IntRow w a len cap zs) {i : Nat} (hi : i < len) : ∃ b o, a = some ⟨b, o, none⟩ ∧ b < w.heap.size ∧ w.cell? ⟨b, o + i, none⟩ = some (.int .i64 (zs.getD i 0)) := by
  rcases h with ⟨_, h, _⟩ | ⟨x, rfl, h1, h2, h3, hc, _⟩
  · omega
  · obtain ⟨b, o, s⟩ := x
    have h0 := hc 0 (by omega)
    have hs : s = none := by simpa [Addr.add] using World.cell?_spot h0
    subst hs
    have hcj := hc i (by omega)
    rw [addr_add] at hcj
    exact ⟨b, o, rfl, World.block_lt_of_cell? w _ hcj, hcj⟩
theorem IntRow.max {w : World} {a : Option Addr} {len cap : Nat} {zs : List Int} (h : IntRow w a len cap zs) : len ≤ cap ∧ cap ≤ 9223372036854775807 := by
  rcases h with ⟨_, h, h', _⟩ | ⟨x, rfl, h1, h2, _⟩
  · omega
  · exact ⟨h1, by simpa [maxLen] using h2⟩

theorem apartB {w1 : World} {ro ro' : Option Addr} {B : Nat} (h : ∀ g, blk ro = some g → g < B) (hs : B < w1.heap.size) (hat : ro' = ro ∨ ro' = some ⟨w1.heap.size, 0, none⟩) : blk ro' ≠ some B := by
  intro e
  rcases hat with rfl | rfl
  · have := h B e; omega
  · have := Option.some.inj e; simp at this; omega
theorem grownBy_sets3 (wx : World) (b : Nat) (v0 v1 v2 : Value) : wx.grownBy (((wx.setCell ⟨b, 0, none⟩ v0).setCell ⟨b, 1, none⟩ v1).setCell ⟨b, 2, none⟩ v2) (some b) := by
  have h1 := fun (u : World) (x : Nat) (v : Value) => grownBy_setCell u ⟨b, x, none⟩ v
  exact grownBy_trans (grownBy_trans (h1 _ _ _) (h1 _ _ _)) (h1 _ _ _)
theorem block_sets3 {w : World} {b : Nat} {a0 a1 a2 v0 v1 v2 : Value} {t : TypeId} {fr : Nat × Nat} (h : w.heap[b]? = some (.cells #[a0, a1, a2] t fr)) : (((w.setCell ⟨b, 0, none⟩ v0).setCell ⟨b, 1, none⟩ v1).setCell ⟨b, 2, none⟩ v2).heap[b]? = some (.cells #[v0, v1, v2] t fr) := by
  have := block_set (block_set (block_set h 0 v0) 1 v1) 2 v2
  simpa using this

set_option maxRecDepth 100000 in
set_option maxHeartbeats 8000000 in
theorem split_walk (ao : Option Addr) (cap : Nat) (L : List Rg) (ao1 : Option Addr) (len1 cap1 : Nat) (z : List Int) (c : Int) (w : World) (hrd : RE.Rd w ao L) (hle : L.length ≤ cap) (hcb : cap * 24 ≤ 140737488351232) (hz : IntRow w ao1 len1 cap1 z) :
    Calls Try.prog 7 #[.slice ao L.length cap, .slice ao1 len1 cap1, .int .i64 c] w fun e w' => e = .returned (.bool true) ∧ Below w.heap.size w w' := by
  have HL : Hid (RE.Rd w ao L) := hrd
  have HZ : Hid (IntRow w ao1 len1 cap1 z) := hz
  obtain ⟨hz1, hz2⟩ := hz.max
  have hcm : cap ≤ 5864062014634 := by omega
  clear hrd hcb hz
  obtain ⟨E, hE⟩ : ∃ E, Hid (checkR L = E) := ⟨_, (rfl : checkR L = checkR L)⟩
  by_cases hE0 : E = 0
  · subst hE0
    obtain ⟨k1, k2, k3⟩ := checkR_ok.1 hE.out
    have Hk : Hid (okFrom (-1) L = true) := k2
    have Hk3 : Hid (total L ≤ 65536) := k3
    clear k2 k3
    go_enter Try.func7, Try.ntmps7
    go_wp2_with (first | (go_at_call 20; refine (works_any _).mono ?_; rintro e w1 ⟨rfl, hg1⟩) | (go_at_call 13; refine (check_any _ _ L _ (HL.out.kept0 hg1) hle (by omega) 0 hE).mono ?_; rintro e w2 ⟨rfl, hg2⟩))
    have K2 : Hid (w.grownBy w2 none) := gt hg1 hg2
    clear hg1 hg2
    go_loopw [7, 8] (fun t7 t8 wx => ∃ (i rc : Nat) (ro : Option Addr) (T : List Rg), i ≤ L.length ∧ t8 = .int .i64 (i : Int) ∧ t7 = .slice ro T.length rc ∧ T.length ≤ 2 * i ∧ Hid (RE.Own wx ro rc T) ∧ Hid (∀ g, blk ro = some g → w.heap.size ≤ g) ∧ Hid (CutInv L i T) ∧ Hid (w.grownBy wx none)) (fun _ t8 _ => L.length - (intOf t8).toNat)
    case atStart => exact ⟨0, 0, none, [], by omega, rfl, rfl, by simp, .inl ⟨rfl, rfl, rfl⟩, (by simp [blk] : ∀ g, blk none = some g → w.heap.size ≤ g), CutInv.start Hk.out, K2⟩
    case round =>
      obtain ⟨i, rc, ro, T, hil, rfl, rfl, hTi, ho, hro, hI, hgx⟩ := hrel
      by_cases hlt : i < L.length
      · obtain ⟨f, t, a, he⟩ : ∃ f t a, L[i] = (f, t, a) := ⟨_, _, _, rfl⟩
        obtain ⟨b, o, rfl, hb, x0, x1, x2⟩ := rcells (HL.out.kept0 hgx.out) hlt he
        have hr := okFrom_right Hk.out i hlt
        rw [he] at hr
        obtain ⟨⟨r1, r2, r3⟩, r4, r5, r6⟩ := rightR_iff.1 hr
        have Hd : Hid (L.drop i = (f, t, a) :: L.drop (i + 1)) := drop_at hlt he
        have hlt' : (i : Int) < (L.length : Int) := by omega
        have hi0 : (0 : Int) ≤ (i : Int) := by omega
        clear he hr
        obtain ⟨wA, rfl⟩ : ∃ z, z = wr := ⟨_, rfl⟩
        by_cases hcut : i < len1 ∧ f < t
        · obtain ⟨hc1, hc2⟩ := hcut
          obtain ⟨b1, o1, rfl, hb1, Z0⟩ := HZ.out.at hc1
          have z0 := hgx.out.cell Z0 (by simp)
          obtain ⟨q, hq⟩ : ∃ q, z.getD i 0 = q := ⟨_, rfl⟩
          rw [hq] at z0
          clear Z0 hq
          have hc1' : (i : Int) < (len1 : Int) := by omega
          obtain ⟨r, hr⟩ : ∃ r, (IntKind.u64.wrap q).tmod (t - f) = r := ⟨_, rfl⟩
          have hr1 : 0 ≤ r := by rw [← hr]; exact Int.tmod_nonneg _ (by rw [IntKind.wrap_u64]; omega)
          have hr2 : r < t - f := by rw [← hr]; exact Int.tmod_lt_of_pos _ (by omega)
          have hw1 : IntKind.i64.wrap (t - f) = t - f := by rw [IntKind.wrap_i64]; omega
          have hw2 : IntKind.u64.wrap (t - f) = t - f := by rw [IntKind.wrap_u64]; omega
          have hw3 : IntKind.u64.wrap r = r := by rw [IntKind.wrap_u64]; omega
          have hw4 : IntKind.i64.wrap r = r := by rw [IntKind.wrap_i64]; omega
          have hw5 : IntKind.i64.wrap (f + r) = f + r := by rw [IntKind.wrap_i64]; omega
          have hne : ¬ t - f = 0 := by omega
          have hne2 : (t - f == 0) = false := by simpa using hne
          have HI2 : Hid (CutInv L (i + 1) (T ++ [(f, f + r, a)] ++ [(f + r + 1, t, a + (f + r + 1 - f))])) := hI.out.cut Hd.out (f + r) (by omega) (by omega)
          go_upto_region 11 with fail
          have q1 : Hid (RE.Own (wA.alloc (Obj.cells #[Value.int IntKind.i64 f, Value.int IntKind.i64 t, Value.int IntKind.i32 a] 44)) ro rc T) := ho.out.alloc _
          have q2 : Hid (w.grownBy (wA.alloc (Obj.cells #[Value.int IntKind.i64 f, Value.int IntKind.i64 t, Value.int IntKind.i32 a] 44)) none) := ga hgx.out
          have q3 : Hid ((wA.alloc (Obj.cells #[Value.int IntKind.i64 f, Value.int IntKind.i64 t, Value.int IntKind.i32 a] 44)).heap[wA.heap.size]? = some (.cells #[Value.int IntKind.i64 f, Value.int IntKind.i64 t, Value.int IntKind.i32 a] 44 (0, 0))) := heap_alloc_new wA _
          have q4 : (wA.alloc (Obj.cells #[Value.int IntKind.i64 f, Value.int IntKind.i64 t, Value.int IntKind.i32 a] 44)).cell? ⟨b1, o1 + i, none⟩ = some (.int .i64 q) := (World.grownBy_alloc _ _ none).cell z0 (by simp)
          have q5 : Hid (∀ g, blk ro = some g → g < wA.heap.size) := fun g e => ho.out.lt e
          generalize (wA.alloc (Obj.cells #[Value.int IntKind.i64 f, Value.int IntKind.i64 t, Value.int IntKind.i32 a] 44)) = wz at *
          have q6 : w.heap.size ≤ wA.heap.size := hgx.out.size
          clear z0 x0 x1 x2 ho hgx hb
          generalize wA.heap.size = B at *
          have l0 := cell_at q3.out 0 (v := .int .i64 f) rfl
          have l1 := cell_at q3.out 1 (v := .int .i64 t) rfl
          have l2 := cell_at q3.out 2 (v := .int .i32 a) rfl
          go_quiet (fail)
          have s1 : Hid (RE.Own (wz.drewN nq) ro rc T) := q1.out.kept0 (by (repeat (first | with_reducible exact grownBy_refl _ _ | (with_reducible refine gs ?_ ?_; first | omega | (simp; omega)) | with_reducible refine ga ?_ | with_reducible refine gd ?_ | with_reducible refine gdn ?_ | with_reducible refine gt ?_ (by assumption))))
          have s2 : Hid (w.grownBy (wz.drewN nq) none) := gdn q2.out
          have s3 : Hid ((wz.drewN nq).heap[B]? = some (.cells #[Value.int IntKind.i64 f, Value.int IntKind.i64 t, Value.int IntKind.i32 a] 44 (0, 0))) := q3.out
          clear q1 q2 q3 q4 l0 l1 l2 hr hw1 hw2 hw3 hw4 hw5 hne hne2
          generalize wz.drewN nq = wy at *
          have hBs : B < wy.heap.size := lt_of_block s3.out
          have l0 := cell_at s3.out 0 (v := .int .i64 f) rfl
          have l1 := cell_at s3.out 1 (v := .int .i64 t) rfl
          have l2 := cell_at s3.out 2 (v := .int .i32 a) rfl
          go_upto_region 13 with (at_builtin; refine wpList_range _ rfl _ _ rfl _ _ T rfl (s1.out.alloc _) _ rfl [(f, f + r, a)] (src_range1 _ _ _ _) (by simp; omega) (T ++ [(f, f + r, a)]) rfl ?_; intro ro3 rc3 w3 ho3 hg3 hat3)
          have s4 : Hid (w3.heap[B]? = some (.cells #[Value.int IntKind.i64 f, Value.int IntKind.i64 t, Value.int IntKind.i32 a] 44 (0, 0))) := (by rw [hg3.block B (by simp; omega) (fun e => by have := q5.out B e.symm; omega)]; exact res_alloc s3.out _ : _ = _)
          have s5 : Hid (w.grownBy w3 none) := grownBy_new (ga s2.out) hg3 (fun g e => hro.out g e)
          have s6 : Hid (blk ro3 ≠ some B) := apartB q5.out (by simp; omega) hat3
          have s7 : Hid (∀ g, blk ro3 = some g → w.heap.size ≤ g) := newer hro.out (by have := s2.out.size; simp; omega) hat3
          have s8 : Hid (RE.Own w3 ro3 rc3 (T ++ [(f, f + r, a)])) := ho3
          clear ho3 hg3 hat3 s1 s2 s3 l0 l1 l2
          have l0 := cell_at s4.out 0 (v := .int .i64 f) rfl
          have l1 := cell_at s4.out 1 (v := .int .i64 t) rfl
          have l2 := cell_at s4.out 2 (v := .int .i32 a) rfl
          have f0 := froz_at s4.out 0
          have f1 := froz_at s4.out 1
          have f2 := froz_at s4.out 2
          go_upto_region 14 with fail
          have u1 : Hid (RE.Own (((w3.setCell ⟨B, 0, none⟩ (Value.int IntKind.i64 (f + r + 1))).setCell ⟨B, 1, none⟩ (Value.int IntKind.i64 t)).setCell ⟨B, 2, none⟩ (Value.int IntKind.i32 (a + (f + r + 1 - f)))) ro3 rc3 (T ++ [(f, f + r, a)])) := s8.out.kept (grownBy_sets3 w3 B _ _ _) (Or.inr s6.out)
          have u2 : Hid (w.grownBy (((w3.setCell ⟨B, 0, none⟩ (Value.int IntKind.i64 (f + r + 1))).setCell ⟨B, 1, none⟩ (Value.int IntKind.i64 t)).setCell ⟨B, 2, none⟩ (Value.int IntKind.i32 (a + (f + r + 1 - f)))) none) := sets_new s5.out q6 (grownBy_sets3 w3 B _ _ _)
          have u3 : Hid ((((w3.setCell ⟨B, 0, none⟩ (Value.int IntKind.i64 (f + r + 1))).setCell ⟨B, 1, none⟩ (Value.int IntKind.i64 t)).setCell ⟨B, 2, none⟩ (Value.int IntKind.i32 (a + (f + r + 1 - f)))).heap[B]? = some (.cells #[Value.int IntKind.i64 (f + r + 1), Value.int IntKind.i64 t, Value.int IntKind.i32 (a + (f + r + 1 - f))] 44 (0, 0))) := block_sets3 s4.out
          clear s4 s5 s6 s8 l0 l1 l2 f0 f1 f2
          generalize (((w3.setCell ⟨B, 0, none⟩ (Value.int IntKind.i64 (f + r + 1))).setCell ⟨B, 1, none⟩ (Value.int IntKind.i64 t)).setCell ⟨B, 2, none⟩ (Value.int IntKind.i32 (a + (f + r + 1 - f)))) = wS at *
          have l0 := cell_at u3.out 0 (v := .int .i64 (f + r + 1)) rfl
          have l1 := cell_at u3.out 1 (v := .int .i64 t) rfl
          have l2 := cell_at u3.out 2 (v := .int .i32 (a + (f + r + 1 - f))) rfl
          go_wp2_with (at_builtin; refine wpList_range _ rfl _ _ rfl _ _ (T ++ [(f, f + r, a)]) (by simp [Act.eval, Act.put]) (u1.out.alloc _) _ rfl [(f + r + 1, t, a + (f + r + 1 - f))] (src_range1 _ _ _ _) (by simp; omega) (T ++ [(f, f + r, a)] ++ [(f + r + 1, t, a + (f + r + 1 - f))]) rfl ?_; intro ro4 rc4 w4 ho4 hg4 hat4)
          go_roundw
          case rel =>
            refine ⟨i + 1, rc4, ro4, _, by omega, by go_num, by simp, by simp; omega, ho4, ?_, HI2, ?_⟩
            · refine (?_ : ∀ g, blk ro4 = some g → w.heap.size ≤ g)
              exact newer s7.out (by have := u2.out.size; simp; omega) hat4
            · refine (?_ : w.grownBy w4 none)
              exact grownBy_new (ga u2.out) hg4 (fun g e => s7.out g e)
          case measure => simp [intOf]; omega
        · have HI2 : Hid (CutInv L (i + 1) (T ++ [(f, t, a)])) := hI.out.on Hd.out
          by_cases hc1 : i < len1
          · have hft : ¬ f < t := fun h => hcut ⟨hc1, h⟩
            have hc1' : (i : Int) < (len1 : Int) := by omega
            clear hcut
            go_upto_region 14 with fail
            have q1 : Hid (RE.Own (wA.alloc (Obj.cells #[Value.int IntKind.i64 f, Value.int IntKind.i64 t, Value.int IntKind.i32 a] 44)) ro rc T) := ho.out.alloc _
            have q2 : Hid (w.grownBy (wA.alloc (Obj.cells #[Value.int IntKind.i64 f, Value.int IntKind.i64 t, Value.int IntKind.i32 a] 44)) none) := ga hgx.out
            have q3 : Hid ((wA.alloc (Obj.cells #[Value.int IntKind.i64 f, Value.int IntKind.i64 t, Value.int IntKind.i32 a] 44)).heap[wA.heap.size]? = some (.cells #[Value.int IntKind.i64 f, Value.int IntKind.i64 t, Value.int IntKind.i32 a] 44 (0, 0))) := heap_alloc_new wA _
            generalize (wA.alloc (Obj.cells #[Value.int IntKind.i64 f, Value.int IntKind.i64 t, Value.int IntKind.i32 a] 44)) = wz at *
            clear x0 x1 x2 ho hgx hb
            generalize wA.heap.size = B at *
            have l0 := cell_at q3.out 0 (v := .int .i64 f) rfl
            have l1 := cell_at q3.out 1 (v := .int .i64 t) rfl
            have l2 := cell_at q3.out 2 (v := .int .i32 a) rfl
            go_wp2_with (at_builtin; refine wpList_range _ rfl _ _ rfl _ _ T rfl (q1.out.alloc _) _ rfl [(f, t, a)] (src_range1 _ _ _ _) (by simp; omega) (T ++ [(f, t, a)]) rfl ?_; intro ro4 rc4 w4 ho4 hg4 hat4)
            go_roundw
            case rel =>
              refine ⟨i + 1, rc4, ro4, _, by omega, by go_num, by simp, by simp; omega, ho4, ?_, HI2, ?_⟩
              · refine (?_ : ∀ g, blk ro4 = some g → w.heap.size ≤ g)
                exact newer hro.out (by have := q2.out.size; simp; omega) hat4
              · refine (?_ : w.grownBy w4 none)
                exact grownBy_new (ga q2.out) hg4 (fun g e => hro.out g e)
            case measure => simp [intOf]; omega
          · have hc1' : ¬ (i : Int) < (len1 : Int) := by omega
            clear hcut
            go_upto_region 14 with fail
            have q1 : Hid (RE.Own (wA.alloc (Obj.cells #[Value.int IntKind.i64 f, Value.int IntKind.i64 t, Value.int IntKind.i32 a] 44)) ro rc T) := ho.out.alloc _
            have q2 : Hid (w.grownBy (wA.alloc (Obj.cells #[Value.int IntKind.i64 f, Value.int IntKind.i64 t, Value.int IntKind.i32 a] 44)) none) := ga hgx.out
            have q3 : Hid ((wA.alloc (Obj.cells #[Value.int IntKind.i64 f, Value.int IntKind.i64 t, Value.int IntKind.i32 a] 44)).heap[wA.heap.size]? = some (.cells #[Value.int IntKind.i64 f, Value.int IntKind.i64 t, Value.int IntKind.i32 a] 44 (0, 0))) := heap_alloc_new wA _
            generalize (wA.alloc (Obj.cells #[Value.int IntKind.i64 f, Value.int IntKind.i64 t, Value.int IntKind.i32 a] 44)) = wz at *
            clear x0 x1 x2 ho hgx hb
            generalize wA.heap.size = B at *
            have l0 := cell_at q3.out 0 (v := .int .i64 f) rfl
            have l1 := cell_at q3.out 1 (v := .int .i64 t) rfl
            have l2 := cell_at q3.out 2 (v := .int .i32 a) rfl
            go_wp2_with (at_builtin; refine wpList_range _ rfl _ _ rfl _ _ T rfl (q1.out.alloc _) _ rfl [(f, t, a)] (src_range1 _ _ _ _) (by simp; omega) (T ++ [(f, t, a)]) rfl ?_; intro ro4 rc4 w4 ho4 hg4 hat4)
            go_roundw
            case rel =>
              refine ⟨i + 1, rc4, ro4, _, by omega, by go_num, by simp, by simp; omega, ho4, ?_, HI2, ?_⟩
              · refine (?_ : ∀ g, blk ro4 = some g → w.heap.size ≤ g)
                exact newer hro.out (by have := q2.out.size; simp; omega) hat4
              · refine (?_ : w.grownBy w4 none)
                exact grownBy_new (ga q2.out) hg4 (fun g e => hro.out g e)
            case measure => simp [intOf]; omega
      · obtain rfl : i = L.length := by omega
        obtain ⟨e1, e2, e3⟩ := hI.out.end
        by_cases hT : 65536 < T.length
        · have hT' : (65536 : Int) < (T.length : Int) := by omega
          clear e1 e2 e3
          go_wp2
          go_ret
          exact ⟨rfl, below_g hgx.out⟩
        · have hT' : (T.length : Int) ≤ 65536 := by omega
          have hTn : T.length ≤ 65536 := by omega
          have HTc : Hid (checkR T = 0) := checkR_ok.2 ⟨hTn, e1, by rw [e3]; exact Hk3.out⟩
          have HTk : Hid (okFrom (-1) T = true) := e1
          obtain ⟨P, hP⟩ : ∃ P, Hid (pairsR L = P) := ⟨_, (rfl : pairsR L = pairsR L)⟩
          have hPo : P = pairsOf L := by rw [← hP.out]; unfold pairsR; rw [if_pos hE.out]
          have hP2 : Hid (pairsR T = P) := (by unfold pairsR; rw [if_pos HTc.out, e2, hPo] : pairsR T = P)
          obtain ⟨C, hC⟩ : ∃ C, Hid (scalR L c = C) := ⟨_, (rfl : scalR L c = scalR L c)⟩
          have hC2 : Hid (scalR T c = C) := (by rw [scalR_eq e1, e2, ← scalR_eq Hk.out]; exact hC.out : scalR T c = C)
          have HPr : Hid (rightE P = 0) := (by rw [hPo]; exact pairsOf_right hE.out : rightE P = 0)
          obtain ⟨X, hX⟩ : ∃ X, Hid (packR P = X) := ⟨_, (rfl : packR P = packR P)⟩
          have hXl : X.length ≤ L.length := by rw [← hX.out, packR_ok HPr.out, hPo]; exact packOf_le Hk.out
          have HR : Hid (RE.Rd wr ro T) := ho.out.rd
          have p1 := ho.out.cap_le
          have p2 := ho.out.cap_max
          clear e1 e2 e3 hPo ho hI
          go_upto_region 18 with (go_at_call 16; refine (scalar_of _ _ L c _ (HL.out.kept0 hgx.out) hle (by omega) k1 Hk C hC).mono ?_; rintro e w3 ⟨rfl, hg3⟩)
          go_upto_region 19 with (go_at_call 16; refine (scalar_of _ _ T c _ (HR.out.kept0 hg3) p1 p2 hTn HTk C hC2).mono ?_; rintro e w4 ⟨rfl, hg4⟩)
          go_upto_region 20 with (first | (go_at_call 15; refine (pairs_any _ _ T _ (HR.out.kept0 (gt hg3 hg4)) p1 p2 P hP2).mono ?_; rintro e w5 ⟨ro5, rc5, rfl, ho5, hg5⟩; have HP5 := Hid.mk' ho5.rd; have p3 := ho5.cap_le; have p4 := ho5.cap_max; clear ho5) | (go_at_call 8; refine (pack_any _ _ P _ HP5.out p3 p4 0 HPr X hX).mono ?_; rintro e w6 ⟨ro6, rc6, rfl, ho6, hg6⟩))
          have K6 : Hid (wr.grownBy w6 none) := gt (gt (gt hg3 hg4) hg5) hg6
          clear hg3 hg4 hg5 hg6 ho6
          go_wp2_with (first | (go_at_call 13; refine (check_any _ _ T _ (HR.out.kept0 K6.out) p1 p2 0 HTc).mono ?_; rintro e w7 ⟨rfl, hg7⟩; have K7 := Hid.mk' (gt K6.out hg7); clear hg7) | (go_at_call_of 15 (Value.slice ro T.length rc); refine (pairs_any _ _ T _ (HR.out.kept0 K7.out) p1 p2 P hP2).mono ?_; rintro e w8 ⟨ro8, rc8, rfl, ho8, hg8⟩; have K8 := Hid.mk' (gt K7.out hg8); clear hg8 ho8) | (go_at_call_of 15 (Value.slice ao L.length cap); refine (pairs_any _ _ L _ (HL.out.kept0 (gt hgx.out K8.out)) hle (by omega) P hP).mono ?_; rintro e w9 ⟨ro9, rc9, rfl, ho9, hg9⟩))
          go_ret
          exact ⟨rfl, below_g (gt hgx.out (gt K8.out hg9))⟩
  · have hE1 : (E == 0) = false := by simpa using hE0
    go_enter Try.func7, Try.ntmps7
    go_wp2_with (first | (go_at_call 20; refine (works_any _).mono ?_; rintro e w1 ⟨rfl, hg1⟩) | (go_at_call 13; refine (check_any _ _ L _ (HL.out.kept0 hg1) hle (by omega) E hE).mono ?_; rintro e w2 ⟨rfl, hg2⟩))
    go_ret
    exact ⟨rfl, below_g (gt hg1 hg2)⟩
end Go.Proofs.Ytdeohnnepifjaaa.Rn
