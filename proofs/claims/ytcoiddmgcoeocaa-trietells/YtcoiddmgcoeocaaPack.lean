/- The program's Pack: a walk. -/
import Derived.Test.YtcoiddmgcoeocaaRight
import Derived.Test.YtcoiddmgcoeocaaPairs
import Derived.Deep.RegionHeld3
import Derived.Deep.CutRange
namespace Go.Proofs.Ytcoiddmgcoeocaa.Rn
open Go.ChangeShapes Go.WideShapes Go.ChangeAt Go.RowKit Go.Proofs.Ytcoiddmgcoeocaa.Mem Go.Proofs.Ytcoiddmgcoeocaa.Ucs Go.Proofs.Ytcoiddmgcoeocaa.El
set_option linter.unusedVariables false
set_option linter.unusedSimpArgs false

theorem okP_at {b : Int} {L : List Pr} (h : okP b L = true) : ∀ (i : Nat) (hi : i < L.length), (0 ≤ L[i].1 ∧ L[i].1 ≤ 16777215) ∧ (0 ≤ L[i].2 ∧ L[i].2 ≤ 1114111) := by
  induction L generalizing b with
  | nil => intro i hi; simp at hi
  | cons p L ih =>
    obtain ⟨c, u⟩ := p
    obtain ⟨h1, h2, h3, h4⟩ := okP_cons.1 h
    have h5 := scB_iff.1 h3
    intro i hi
    match i with
    | 0 => exact ⟨h1, h5.1, h5.2.1⟩
    | i + 1 => exact ih h4 i (by simpa using hi)
/-- What Pack has made of the first i pairs. -/
def PInv (L : List Pr) (i : Nat) (T : List Rg) : Prop :=
  (i = 0 ∧ T = []) ∨ ∃ (j : Nat) (T0 : List Rg) (f t a : Int), i = j + 1 ∧ T = T0 ++ [(f, t, a)] ∧ L[j]? = some (t, a + (t - f)) ∧ T0 ++ packGo f t a (L.drop (j + 1)) = packOf L
theorem PInv.end {L : List Pr} {T : List Rg} (h : PInv L L.length T) : T = packOf L := by
  rcases h with ⟨h, rfl⟩ | ⟨j, T0, f, t, a, h, rfl, _, e⟩
  · rw [List.length_eq_zero_iff.1 h]; rfl
  · rw [← e, ← h, List.drop_length]; rfl
theorem PInv.first {L : List Pr} {c u : Int} (h0 : 0 < L.length) (he : L[0] = (c, u)) : PInv L 1 [(c, c, u)] := by
  refine .inr ⟨0, [], c, c, u, rfl, rfl, by rw [List.getElem?_eq_getElem h0, he]; simp, ?_⟩
  cases L with
  | nil => simp at h0
  | cons p L => simp at he; subst he; simp [packOf]
theorem PInv.on {L : List Pr} {j : Nat} {T0 : List Rg} {f t a c u : Int} (hj : j + 1 < L.length) (he : L[j + 1] = (c, u)) (e : T0 ++ packGo f t a (L.drop (j + 1)) = packOf L) (h1 : c = t + 1) (h2 : u = a + (t - f) + 1) : PInv L (j + 2) (T0 ++ [(f, c, a)]) := by
  refine .inr ⟨j + 1, T0, f, c, a, rfl, rfl, ?_, ?_⟩
  · rw [List.getElem?_eq_getElem hj, he]; congr 2; omega
  · rw [← e, drop_at hj he, packGo, if_pos ⟨h1, h2⟩]
theorem PInv.new {L : List Pr} {j : Nat} {T0 : List Rg} {f t a c u : Int} (hj : j + 1 < L.length) (he : L[j + 1] = (c, u)) (e : T0 ++ packGo f t a (L.drop (j + 1)) = packOf L) (h : ¬ (c = t + 1 ∧ u = a + (t - f) + 1)) : PInv L (j + 2) (T0 ++ [(f, t, a)] ++ [(c, c, u)]) := by
  refine .inr ⟨j + 1, T0 ++ [(f, t, a)], c, c, u, rfl, rfl, ?_, ?_⟩
  · rw [List.getElem?_eq_getElem hj, he]; congr 2; omega
  · rw [← e, drop_at hj he, packGo, if_neg h, List.append_assoc]; rfl
theorem follows_lit (c u d v : Int) (b : Bool) (h : (decide (d = c + 1) && decide (v = u + 1)) = b) (hc : c ≤ 16777215) (h0 : 0 ≤ c) (hu : u ≤ 1114111) (u0 : 0 ≤ u) (w : World) : Calls Try.prog 32 #[pV c u, pV d v] w fun e w' => e = .returned (.bool b) ∧ w.grownBy w' none := by
  subst h; exact follows_any c u d v hc h0 hu u0 w
/-- The last range of a row that the call owns. -/
theorem last_cells {w : World} {ao : Option Addr} {cap : Nat} {T0 : List Rg} {f t a : Int} (h : RE.Own w ao cap (T0 ++ [(f, t, a)])) :
    ∃ g, ao = some ⟨g, 0, none⟩ ∧ g < w.heap.size ∧ w.frozen? ⟨g, T0.length * 3 + 1, none⟩ = false ∧ w.cell? ⟨g, T0.length * 3, none⟩ = some (.int .i64 f) ∧ w.cell? ⟨g, T0.length * 3 + 1, none⟩ = some (.int .i64 t) ∧ w.cell? ⟨g, T0.length * 3 + 2, none⟩ = some (.int .i32 a) := by
  obtain ⟨g, rfl, hg, hf, hc⟩ := h.at (by simp)
  have hl : T0.length < (T0 ++ [(f, t, a)]).length := by simp
  have e : RE.enc (T0 ++ [(f, t, a)])[T0.length] = [.int .i64 f, .int .i64 t, .int .i32 a] := by rw [List.getElem_append_right (Nat.le_refl _)]; simp; rfl
  exact ⟨g, rfl, hg, hf _, hc _ hl 0 _ (by rw [e]; rfl), hc _ hl 1 _ (by rw [e]; rfl), hc _ hl 2 _ (by rw [e]; rfl)⟩
theorem last_set {w : World} {g cap : Nat} {T0 : List Rg} {f t a : Int} (h : RE.Own w (some ⟨g, 0, none⟩) cap (T0 ++ [(f, t, a)])) (c : Int) : RE.Own (w.setCell ⟨g, T0.length * 3 + 1, none⟩ (.int .i64 c)) (some ⟨g, 0, none⟩) cap (T0 ++ [(f, c, a)]) := by
  have hl : T0.length < (T0 ++ [(f, t, a)]).length := by simp
  have e : (T0 ++ [(f, t, a)])[T0.length] = (f, t, a) := by rw [List.getElem_append_right (Nat.le_refl _)]; simp
  have := h.set T0.length hl 1 (by decide) (.int .i64 c) (f, c, a) (by rw [e]; rfl)
  rw [List.set_append_right _ _ (Nat.le_refl _)] at this
  simp only [Nat.sub_self, List.set_cons_zero] at this
  exact this

set_option maxRecDepth 100000 in
set_option maxHeartbeats 4000000 in
theorem pack_any (ao : Option Addr) (cap : Nat) (L : List Pr) (w : World) (hB : PE.Rd w ao L) (hc : L.length ≤ cap) (hcm : cap ≤ 9223372036854775807) (E : Int) (hE : Hid (rightE L = E)) (Q : List Rg) (hQ : Hid (packR L = Q)) :
    Calls Try.prog 17 #[.slice ao L.length cap] w fun e w' => ∃ ro rc, e = .returned (.tuple #[.slice ro Q.length rc, .int .i64 E]) ∧ RE.Own w' ro rc Q ∧ w.grownBy w' none := by
  have hB0 : Hid (PE.Rd w ao L) := hB
  clear hB
  by_cases hl : 65536 < L.length
  · have e1 : rightE L = 8 := by simp [rightE, hl]
    have : E = 8 := by rw [← hE.out, e1]
    subst this
    have hQ2 : Q = [] := by rw [← hQ.out]; simp [packR, e1]
    subst hQ2
    clear e1
    have hl' : (65536 : Int) < (L.length : Int) := by omega
    go_enter Try.func17, Try.ntmps17
    go_wp2
    go_ret2
    exact ⟨none, 0, rfl, .inl ⟨rfl, rfl, rfl⟩, grownBy_refl _ _⟩
  have hl' : (L.length : Int) ≤ 65536 := by omega
  obtain ⟨K, hK⟩ : ∃ K, Hid (okP (-1) L = K) := ⟨_, (rfl : okP (-1) L = okP (-1) L)⟩
  cases K
  · have e1 : rightE L = 3 := by simp [rightE, hl, hK.out]
    have : E = 3 := by rw [← hE.out, e1]
    subst this
    have hQ2 : Q = [] := by rw [← hQ.out]; simp [packR, e1]
    subst hQ2
    clear e1 hl
    go_enter Try.func17, Try.ntmps17
    go_wp2_with (go_at_call 31; refine (rightPairs_any _ _ L _ hB0.out hc hcm (by omega) false hK).mono ?_; rintro e w1 ⟨rfl, hg1⟩)
    go_ret2
    exact ⟨none, 0, rfl, .inl ⟨rfl, rfl, rfl⟩, hg1⟩
  have e1 : rightE L = 0 := by simp [rightE, hl, hK.out]
  have : E = 0 := by rw [← hE.out, e1]
  subst this
  have HQ : Hid (packOf L = Q) := (by rw [← hQ.out]; simp [packR, e1] : packOf L = Q)
  clear e1 hl hQ hE
  go_enter Try.func17, Try.ntmps17
  go_wp2_with (go_at_call 31; refine (rightPairs_any _ _ L _ hB0.out hc hcm (by omega) true hK).mono ?_; rintro e w1 ⟨rfl, hg1⟩)
  have Hg1 : Hid (w.grownBy w1 none) := hg1
  clear hg1
  go_loopw [4, 15] (fun t4 t15 wx => ∃ (i rc : Nat) (ro : Option Addr) (T : List Rg), i ≤ L.length ∧ t15 = .int .i64 (i : Int) ∧ t4 = .slice ro T.length rc ∧ T.length ≤ i ∧ Hid (RE.Own wx ro rc T) ∧ Hid (∀ g, blk ro = some g → w.heap.size ≤ g) ∧ Hid (PInv L i T) ∧ Hid (w.grownBy wx none)) (fun _ t15 _ => L.length - (intOf t15).toNat)
  case atStart => exact ⟨0, 0, none, [], by omega, rfl, rfl, by simp, .inl ⟨rfl, rfl, rfl⟩, (by simp [blk] : ∀ g, blk none = some g → w.heap.size ≤ g), .inl ⟨rfl, rfl⟩, Hg1⟩
  case round =>
    obtain ⟨i, rc, ro, T, hil, rfl, rfl, hTi, ho, hro, hP, hgx⟩ := hrel
    by_cases hlt : i < L.length
    · obtain ⟨c, u, he⟩ : ∃ c u, L[i] = (c, u) := ⟨_, _, rfl⟩
      obtain ⟨b, o, rfl, hb, x0, x1⟩ := pcells (hB0.out.kept0 hgx.out) hlt he
      have hlt' : (i : Int) < (L.length : Int) := by omega
      obtain ⟨wA, rfl⟩ : ∃ z, z = wr := ⟨_, rfl⟩
      rcases hP.out with ⟨rfl, rfl⟩ | ⟨j, T0, f, t, a, hij, rfl, hLj, hpk⟩
      · have HP2 : Hid (PInv L 1 [(c, c, u)]) := PInv.first (by omega) he
        clear hP he
        simp only [Nat.zero_mul, Nat.add_zero] at x0 x1
        go_wp2
        go_quiet (fail)
        have q1 : Hid (RE.Own ((wA.alloc (Obj.cells #[Value.int IntKind.i64 c, Value.int IntKind.i32 u] 30)).drewN nq) ro rc []) := ho.out.kept0 (by (repeat (first | with_reducible exact grownBy_refl _ _ | (with_reducible refine gs ?_ ?_; first | omega | (simp; omega)) | with_reducible refine ga ?_ | with_reducible refine gd ?_ | with_reducible refine gdn ?_ | with_reducible refine gt ?_ (by assumption))))
        have q2 : Hid (w.grownBy ((wA.alloc (Obj.cells #[Value.int IntKind.i64 c, Value.int IntKind.i32 u] 30)).drewN nq) none) := (by have hgy := hgx.out; (repeat (first | with_reducible exact grownBy_refl _ _ | (with_reducible refine gs ?_ ?_; first | omega | (simp; omega)) | with_reducible refine ga ?_ | with_reducible refine gd ?_ | with_reducible refine gdn ?_ | with_reducible refine gt ?_ (by assumption))) : w.grownBy ((wA.alloc (Obj.cells #[Value.int IntKind.i64 c, Value.int IntKind.i32 u] 30)).drewN nq) none)
        have q3 : ((wA.alloc (Obj.cells #[Value.int IntKind.i64 c, Value.int IntKind.i32 u] 30)).drewN nq).heap[wA.heap.size]? = some (.cells #[Value.int IntKind.i64 c, Value.int IntKind.i32 u] 30 (0, 0)) := heap_alloc_new wA _
        generalize ((wA.alloc (Obj.cells #[Value.int IntKind.i64 c, Value.int IntKind.i32 u] 30)).drewN nq) = wq at *
        have l0 := cell_at q3 0 (v := .int .i64 c) rfl
        have l1 := cell_at q3 1 (v := .int .i32 u) rfl
        clear q3 x0 x1
        go_wp2_with (at_builtin; refine wpList_range _ rfl _ _ rfl _ _ [] rfl (q1.out.alloc _) _ rfl [(c, c, u)] (src_range1 _ _ _ _) (by simp) [(c, c, u)] rfl ?_; intro ro' rc' w3 ho' hg3 hat)
        go_roundw
        case rel =>
          refine ⟨1, rc', ro', [(c, c, u)], by omega, by go_num, by simp, by simp, ho', ?_, HP2, ?_⟩
          · refine (?_ : ∀ g, blk ro' = some g → w.heap.size ≤ g)
            exact newer hro.out (by have := q2.out.size; simp; omega) hat
          · refine (?_ : w.grownBy w3 none)
            exact grownBy_new (ga q2.out) hg3 (fun g e => hro.out g e)
        case measure => simp [intOf]; omega
      · have hj : j < L.length := by omega
        have hLj' : L[j] = (t, a + (t - f)) := by rw [List.getElem?_eq_getElem hj] at hLj; exact Option.some.inj hLj
        have k1 := okP_at hK.out j hj
        rw [hLj'] at k1
        obtain ⟨⟨k1, k2⟩, k3, k4⟩ := k1
        simp only at k1 k2 k3 k4
        obtain ⟨b', o', eb, _, y0, y1⟩ := pcells (hB0.out.kept0 hgx.out) hj hLj'
        cases eb
        have hT0 : T0.length ≤ j := by simp at hTi; omega
        have hne : Hid ((T0 ++ [(f, t, a)]).length = T0.length + 1) := (by simp : (T0 ++ [(f, t, a)]).length = T0.length + 1)
        rw [hne.out]
        obtain ⟨v, hv⟩ : ∃ v, Hid (a + (t - f) = v) := ⟨_, (rfl : a + (t - f) = a + (t - f))⟩
        rw [hv.out] at y1 k3 k4
        obtain ⟨F, hF⟩ : ∃ F, Hid ((decide (c = t + 1) && decide (u = v + 1)) = F) := ⟨_, (rfl : (decide (c = t + 1) && decide (u = v + 1)) = (decide (c = t + 1) && decide (u = v + 1)))⟩
        have Hpk : Hid (T0 ++ packGo f t a (L.drop (j + 1)) = packOf L) := hpk
        have He : Hid (∃ hj : j + 1 < L.length, L[j + 1] = (c, u)) := (by subst hij; exact ⟨hlt, he⟩ : ∃ hj : j + 1 < L.length, L[j + 1] = (c, u))
        have hi1 : (i : Int) - 1 = (j : Int) := by omega
        have hi3 : decide (0 < i) = true := by simp; omega
        have hi4 : IntKind.i64.wrap (j : Int) = (j : Int) := by rw [IntKind.wrap_i64]; omega
        have hj0 : (0 : Int) ≤ (j : Int) := by omega
        have hj1 : (j : Int) < (L.length : Int) := by omega
        have Hij : Hid (i = j + 1) := hij
        clear hP he hpk hLj hLj' hne hij
        obtain ⟨g, rfl, hg0, yf, z0, z1, z2⟩ := last_cells ho.out
        clear yf z0 z1 z2
        go_upto_region 9 with fail
        have q1 : Hid (RE.Own (wA.alloc (Obj.cells #[Value.int IntKind.i64 c, Value.int IntKind.i32 u] 30)) (some ⟨g, 0, none⟩) rc (T0 ++ [(f, t, a)])) := ho.out.alloc _
        have q2 : Hid (w.grownBy (wA.alloc (Obj.cells #[Value.int IntKind.i64 c, Value.int IntKind.i32 u] 30)) none) := ga hgx.out
        have q3 : Hid ((wA.alloc (Obj.cells #[Value.int IntKind.i64 c, Value.int IntKind.i32 u] 30)).heap[wA.heap.size]? = some (.cells #[Value.int IntKind.i64 c, Value.int IntKind.i32 u] 30 (0, 0))) := heap_alloc_new wA _
        have q4 : (wA.alloc (Obj.cells #[Value.int IntKind.i64 c, Value.int IntKind.i32 u] 30)).cell? ⟨b, o + j * 2, none⟩ = some (.int .i64 t) := (World.grownBy_alloc _ _ none).cell y0 (by simp)
        have q5 : (wA.alloc (Obj.cells #[Value.int IntKind.i64 c, Value.int IntKind.i32 u] 30)).cell? ⟨b, o + j * 2 + 1, none⟩ = some (.int .i32 v) := (World.grownBy_alloc _ _ none).cell y1 (by simp)
        generalize (wA.alloc (Obj.cells #[Value.int IntKind.i64 c, Value.int IntKind.i32 u] 30)) = wz at *
        have hb' : b < wz.heap.size := World.block_lt_of_cell? wz _ q4
        clear y0 y1 x0 x1 ho hgx hb
        generalize wA.heap.size = B at *
        have l0 := cell_at q3.out 0 (v := .int .i64 c) rfl
        have l1 := cell_at q3.out 1 (v := .int .i32 u) rfl
        have hS0 : wz.drew.cell? ⟨b, o + j * 2, none⟩ = some (.int .i64 t) ∧ wz.drew.cell? ⟨b, o + j * 2 + 1, none⟩ = some (.int .i32 v) ∧ wz.drew.cell? ⟨B, 0, none⟩ = some (.int .i64 c) ∧ wz.drew.cell? ⟨B, 1, none⟩ = some (.int .i32 u) := ⟨q4, q5, l0, l1⟩
        cases F
        · go_region_held3 (fun w' => w'.cell? ⟨b, o + j * 2, none⟩ = some (.int .i64 t) ∧ w'.cell? ⟨b, o + j * 2 + 1, none⟩ = some (.int .i32 v) ∧ w'.cell? ⟨B, 0, none⟩ = some (.int .i64 c) ∧ w'.cell? ⟨B, 1, none⟩ = some (.int .i32 u)) (first | assumption | exact hS0) (first | (go_at_call 32; refine (follows_lit t v c u false hF.out (by omega) (by omega) (by omega) (by omega) _).mono ?_; rintro e w3 ⟨rfl, hg3⟩; have hS1 : w3.cell? ⟨b, o + j * 2, none⟩ = some (.int .i64 t) ∧ w3.cell? ⟨b, o + j * 2 + 1, none⟩ = some (.int .i32 v) ∧ w3.cell? ⟨B, 0, none⟩ = some (.int .i64 c) ∧ w3.cell? ⟨B, 1, none⟩ = some (.int .i32 u) := ⟨hg3.cell q4 (by simp), hg3.cell q5 (by simp), hg3.cell l0 (by simp), hg3.cell l1 (by simp)⟩))
          have q6 : Hid (RE.Own w3 (some ⟨g, 0, none⟩) rc (T0 ++ [(f, t, a)])) := q1.out.kept0 (grownBy_of_drew hg3)
          have q7 : Hid (w.grownBy w3 none) := (grownBy_trans q2.out (grownBy_of_drew hg3) : w.grownBy w3 none)
          obtain ⟨m1, m2, m3, m4⟩ := hS1
          have hFF := hF.out
          clear hS0 q1 q2 q3 q4 q5 l0 l1 hg3 m1 m2 hb'
          have hnot : ¬ (c = t + 1 ∧ u = a + (t - f) + 1) := by
            rw [hv.out]; intro h; simp [h.1, h.2] at hFF
          have HP2 : Hid (PInv L (i + 1) (T0 ++ [(f, t, a)] ++ [(c, c, u)])) := (by obtain ⟨h1, h2⟩ := He.out; rw [Hij.out]; exact PInv.new h1 h2 Hpk.out hnot : PInv L (i + 1) (T0 ++ [(f, t, a)] ++ [(c, c, u)]))
          clear hFF hnot
          go_wp2_with (at_builtin; refine wpList_range _ rfl _ _ rfl _ _ (T0 ++ [(f, t, a)]) (by simp [Act.eval, Act.put]) (q6.out.alloc _) _ rfl [(c, c, u)] (src_range1 _ _ _ _) (by simp; omega) (T0 ++ [(f, t, a)] ++ [(c, c, u)]) rfl ?_; intro ro' rc' w4 ho' hg4 hat)
          go_roundw
          case rel =>
            refine ⟨i + 1, rc', ro', _, by omega, by go_num, by simp, by simp; omega, ho', ?_, HP2, ?_⟩
            · refine (?_ : ∀ g, blk ro' = some g → w.heap.size ≤ g)
              exact newer hro.out (by have := q7.out.size; simp; omega) hat
            · refine (?_ : w.grownBy w4 none)
              exact grownBy_new (ga q7.out) hg4 (fun g e => hro.out g e)
          case measure => simp [intOf]; omega
        · go_region_held3 (fun w' => w'.cell? ⟨b, o + j * 2, none⟩ = some (.int .i64 t) ∧ w'.cell? ⟨b, o + j * 2 + 1, none⟩ = some (.int .i32 v) ∧ w'.cell? ⟨B, 0, none⟩ = some (.int .i64 c) ∧ w'.cell? ⟨B, 1, none⟩ = some (.int .i32 u)) (first | assumption | exact hS0) (first | (go_at_call 32; refine (follows_lit t v c u true hF.out (by omega) (by omega) (by omega) (by omega) _).mono ?_; rintro e w3 ⟨rfl, hg3⟩; have hS1 : w3.cell? ⟨b, o + j * 2, none⟩ = some (.int .i64 t) ∧ w3.cell? ⟨b, o + j * 2 + 1, none⟩ = some (.int .i32 v) ∧ w3.cell? ⟨B, 0, none⟩ = some (.int .i64 c) ∧ w3.cell? ⟨B, 1, none⟩ = some (.int .i32 u) := ⟨hg3.cell q4 (by simp), hg3.cell q5 (by simp), hg3.cell l0 (by simp), hg3.cell l1 (by simp)⟩))
          have q6 : Hid (RE.Own w3 (some ⟨g, 0, none⟩) rc (T0 ++ [(f, t, a)])) := q1.out.kept0 (grownBy_of_drew hg3)
          have q7 : Hid (w.grownBy w3 none) := (grownBy_trans q2.out (grownBy_of_drew hg3) : w.grownBy w3 none)
          obtain ⟨m1, m2, m3, m4⟩ := hS1
          have hFF := hF.out
          clear hS0 q1 q2 q3 q4 q5 l0 l1 hg3 m1 m2 hb'
          have hyes : c = t + 1 ∧ u = a + (t - f) + 1 := by
            rw [hv.out]; simpa using hFF
          have HP2 : Hid (PInv L (i + 1) (T0 ++ [(f, c, a)])) := (by obtain ⟨h1, h2⟩ := He.out; rw [Hij.out]; exact PInv.on h1 h2 Hpk.out hyes.1 hyes.2 : PInv L (i + 1) (T0 ++ [(f, c, a)]))
          have q8 : Hid (RE.Own (w3.setCell ⟨g, T0.length * 3 + 1, none⟩ (.int .i64 c)) (some ⟨g, 0, none⟩) rc (T0 ++ [(f, c, a)])) := last_set q6.out c
          have q9 : Hid (w.grownBy (w3.setCell ⟨g, T0.length * 3 + 1, none⟩ (.int .i64 c)) none) := gs (hro.out g rfl) q7.out
          obtain ⟨g', eg, hg1, yf, z0, z1, z2⟩ := last_cells q6.out
          cases eg
          have hr := q6.out.cap_le
          simp at hr
          clear hFF hyes
          go_wp2
          go_roundw
          case rel => exact ⟨i + 1, rc, _, T0 ++ [(f, c, a)], by omega, by go_num, by simp, by simp; omega, q8, hro, HP2, q9⟩
          case measure => simp [intOf]; omega
    · obtain rfl : i = L.length := by omega
      have HP2 : Hid (T = Q) := (by rw [← HQ.out]; exact hP.out.end : T = Q)
      clear hP
      go_wp2
      obtain rfl := HP2.out
      go_ret2
      exact ⟨ro, rc, rfl, ho.out, hgx.out⟩
end Go.Proofs.Ytcoiddmgcoeocaa.Rn
