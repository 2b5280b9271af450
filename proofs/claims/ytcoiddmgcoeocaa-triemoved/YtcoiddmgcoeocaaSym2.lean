/- symMerge, whole: a function that calls itself. -/
import Derived.Test.YtcoiddmgcoeocaaSym1
namespace Go.Proofs.Ytcoiddmgcoeocaa.Tr
open Go.ChangeShapes Go.WideShapes Go.ChangeAt Go.RowKit Go.Maps Go.Proofs.Ytcoiddmgcoeocaa.Mem Go.Proofs.Ytcoiddmgcoeocaa.El Go.Sort
set_option linter.unusedVariables false
set_option linter.unusedSimpArgs false

/-- What symMerge does, told of lists. -/
def SymOk (n : Nat) : Prop := ∀ (g a b N : Nat) (X U V Y : List Pr) (w0 w : World), U.length + V.length ≤ n → SW w0 g (X ++ U ++ V ++ Y) w → (X ++ U ++ V ++ Y).length = N → N ≤ 70000 → X.length = a → ∀ m, a + U.length = m → m + V.length = b → 0 < U.length → 0 < V.length → SL U → SL V → Cross U V →
    Calls Try.prog 54 #[.slice (some ⟨g, 0, none⟩) N N, .int .i64 (a : Int), .int .i64 (m : Int), .int .i64 (b : Int), .func (.func 40) #[] #[]] w fun e w' => e = .returned (.tuple #[]) ∧ ∃ Z, SW w0 g (X ++ Z ++ Y) w' ∧ Z.Perm (U ++ V) ∧ SL Z

theorem cross_sub {U V U' V' : List Pr} (h : Cross U V) (hu : ∀ x ∈ U', x ∈ U) (hv : ∀ x ∈ V', x ∈ V) : Cross U' V' := fun u h1 v h2 => h u (hu u h1) v (hv v h2)
theorem sl_take {U : List Pr} (h : SL U) (i : Nat) : SL (U.take i) := by
  have : SL (U.take i ++ U.drop i) := by rw [List.take_append_drop]; exact h
  exact sl_left this
theorem sl_drop {U : List Pr} (h : SL U) (i : Nat) : SL (U.drop i) := by
  have : SL (U.take i ++ U.drop i) := by rw [List.take_append_drop]; exact h
  exact sl_right this
theorem sl_parts {U : List Pr} (h : SL U) (i : Nat) : ∀ x ∈ U.take i, ∀ y ∈ U.drop i, lx x y := by
  have : SL (U.take i ++ U.drop i) := by rw [List.take_append_drop]; exact h
  exact sl_cross this
/-- What the search by halving leaves: the two ends. -/
theorem ends_cross {U V : List Pr} (hU : SL U) (hV : SL V) {i k : Nat} (h1 : U.take i = [] ∨ V.drop k = [] ∨ ∃ (hi : i - 1 < U.length) (hk : k < V.length), 0 < i ∧ lx U[i - 1] V[k]) :
    ∀ x ∈ U.take i, ∀ y ∈ V.drop k, lx x y := by
  rcases h1 with h | h | ⟨hi, hk, h0, h⟩
  · rw [h]; simp
  · rw [h]; simp
  · intro x hx y hy
    obtain ⟨j, rfl⟩ : ∃ j, i = j + 1 := ⟨i - 1, by omega⟩
    simp only [Nat.add_sub_cancel] at hi h
    exact drop_gt hV hk (take_lt hU hi h x hx) y hy
theorem merged {U V Z1 Z2 : List Pr} (hU : SL U) (hV : SL V) {i k : Nat} (hA : ∀ x ∈ U.take i, ∀ y ∈ V.drop k, lx x y) (hB : ∀ x ∈ V.take k, ∀ y ∈ U.drop i, lx x y)
    (p1 : Z1.Perm (U.take i ++ V.take k)) (s1 : SL Z1) (p2 : Z2.Perm (U.drop i ++ V.drop k)) (s2 : SL Z2) : (Z1 ++ Z2).Perm (U ++ V) ∧ SL (Z1 ++ Z2) := by
  constructor
  · have h1 := p1.append p2
    refine h1.trans ?_
    have e : U ++ V = (U.take i ++ U.drop i) ++ (V.take k ++ V.drop k) := by rw [List.take_append_drop, List.take_append_drop]
    rw [e, List.append_assoc, List.append_assoc]
    refine List.Perm.append_left _ ?_
    rw [← List.append_assoc, ← List.append_assoc]
    exact (List.perm_append_comm).append_right _
  · refine sl_append s1 s2 (fun x hx y hy => ?_)
    rcases List.mem_append.1 (p1.mem_iff.1 hx) with h | h <;> rcases List.mem_append.1 (p2.mem_iff.1 hy) with k' | k'
    · exact sl_parts hU i x h y k'
    · exact hA x h y k'
    · exact hB x h y k'
    · exact sl_parts hV k x h y k'
/-- Where there is nothing to merge. -/
theorem merged0 {A B : List Pr} (hA : SL A) (hB : SL B) (h : A = [] ∨ B = []) : SL (A ++ B) := by
  rcases h with rfl | rfl
  · simpa using hB
  · simpa using hA
theorem at_left {X U V Y : List Pr} {k : Nat} (hk : k < U.length) {i : Nat} (hi : X.length + k = i) : at_ (X ++ U ++ V ++ Y) i = U[k] := by
  rw [List.append_assoc (X ++ U)]; exact at_mid hk hi
theorem at_right {X U V Y : List Pr} {k : Nat} (hk : k < V.length) {i : Nat} (hi : X.length + U.length + k = i) : at_ (X ++ U ++ V ++ Y) i = V[k] := by
  exact at_mid hk (by rw [List.length_append]; exact hi)

set_option maxRecDepth 100000 in
set_option maxHeartbeats 8000000 in
theorem sym_gen (n : Nat) (ih : SymOk n) (g a b N : Nat) (X U V Y : List Pr) (w0 w : World) (hn : U.length + V.length ≤ n + 1) (h : SW w0 g (X ++ U ++ V ++ Y) w) (hN : (X ++ U ++ V ++ Y).length = N) (hN2 : N ≤ 70000) (ha : X.length = a) (m : Nat) (hm : a + U.length = m) (hb : m + V.length = b) (hu2 : 2 ≤ U.length) (hv2 : 2 ≤ V.length) (hU : SL U) (hV : SL V) (hc : Cross U V) :
    Calls Try.prog 54 #[.slice (some ⟨g, 0, none⟩) N N, .int .i64 (a : Int), .int .i64 (m : Int), .int .i64 (b : Int), .func (.func 40) #[] #[]] w fun e w' => e = .returned (.tuple #[]) ∧ ∃ Z, SW w0 g (X ++ Z ++ Y) w' ∧ Z.Perm (U ++ V) ∧ SL Z := by
  have h0 := Hid.mk' h
  have ha0 := Hid.mk' ha
  have hU0 := Hid.mk' hU
  have hV0 := Hid.mk' hV
  have hc0 := Hid.mk' hc
  have hmU := Hid.mk' hm
  have hbV := Hid.mk' hb
  have ih0 := Hid.mk' ih
  have hn0 := Hid.mk' hn
  have hbN : b ≤ N := by rw [← hN, ← hb, ← hm, ← ha]; simp only [List.length_append]; omega
  have hN0 := Hid.mk' hN
  have ham : a + 2 ≤ m := by omega
  have hmb : m + 2 ≤ b := by omega
  have e1 : ((m : Int) - (a : Int) == 1) = false := by simp; omega
  have e1' : ¬ (m : Int) - (a : Int) = 1 := by omega
  have e2 : ((b : Int) - (m : Int) == 1) = false := by simp; omega
  have e2' : ¬ (b : Int) - (m : Int) = 1 := by omega
  obtain ⟨d, hd⟩ : ∃ d, Hid ((a + b) / 2 = d) := ⟨_, Hid.mk' rfl⟩
  have hd1 : 2 * d ≤ a + b := by have := hd.out; omega
  have hd2 : a + b ≤ 2 * d + 1 := by have := hd.out; omega
  have hd3 : ((a : Int) + (b : Int)) / 2 = (d : Int) := by have := hd.out; omega
  obtain ⟨q, hq⟩ : ∃ q, q = d + m := ⟨_, rfl⟩
  have hq1 : (d : Int) + (m : Int) = (q : Int) := by omega
  have hq2 : q ≤ d + m := by omega
  have hq3 : d + m ≤ q := by omega
  have hq4 : q ≤ 140000 := by omega
  have mixed := mixed
  clear h hN ha hU hV hc hm ih hu2 hv2 hn hb hq
  go_enter Try.func54, Try.ntmps54
  go_upto_if 140 with fail
  go_cut [20, 21] from 25 (fun t20 t21 wx => ∃ (s0 r0 : Nat), a ≤ s0 ∧ s0 ≤ r0 ∧ r0 ≤ m ∧ r0 ≤ d ∧ q ≤ s0 + b ∧ m ≤ q - r0 ∧ t20 = .int .i64 (s0 : Int) ∧ t21 = .int .i64 (r0 : Int) ∧ (s0 = a ∨ s0 + b = q) ∧ (r0 = m ∨ r0 = d) ∧ Hid (SW w0 g (X ++ U ++ V ++ Y) wx))
  case first => as_aux_lemma =>
    by_cases hmd : d < m
    · have y1 : (d : Int) < (m : Int) := by omega
      obtain ⟨s0, hs0⟩ : ∃ s0, s0 + b = q := ⟨q - b, by omega⟩
      have y2 : (q : Int) - (b : Int) = (s0 : Int) := by omega
      go_wp2_with fail
      go_meet
      case rel => exact ⟨s0, d, by omega, by omega, by omega, by omega, by omega, by omega, by go_num, by go_num, .inr hs0, .inr rfl, h0⟩
    · have y1 : ¬ (d : Int) < (m : Int) := by omega
      go_wp2_with fail
      go_meet
      case rel => exact ⟨a, m, by omega, by omega, by omega, by omega, by omega, by omega, by go_num, by go_num, .inl rfl, .inl rfl, h0⟩
  case rest => as_aux_lemma =>
    obtain ⟨s0, r0, b1, b2, b3, b4, b5, b6, rfl, rfl, hs0, hr0, hS0⟩ := hcut
    clear h0
    obtain ⟨p, hp⟩ : ∃ p, p + 1 = q := ⟨q - 1, by omega⟩
    have hp1 : (q : Int) - 1 = (p : Int) := by omega
    clear hp
    have hp2 : p + 1 ≤ q := by omega
    have hp3 : q ≤ p + 1 := by omega
    go_wp2_with fail
    go_loopw [20, 21] (fun t20 t21 wx => ∃ (s r : Nat), s0 ≤ s ∧ s ≤ r ∧ r ≤ r0 ∧ t20 = .int .i64 (s : Int) ∧ t21 = .int .i64 (r : Int) ∧ Hid (s = s0 ∨ lx (at_ U (s - 1 - a)) (at_ V (q - s - m))) ∧ Hid (r = r0 ∨ lx (at_ V (q - r - 1 - m)) (at_ U (r - a))) ∧ Hid (SW w0 g (X ++ U ++ V ++ Y) wx)) (fun t20 t21 _ => (intOf t21 - intOf t20).toNat)
    case atStart => exact ⟨s0, r0, by omega, by omega, by omega, rfl, rfl, Hid.mk' (.inl rfl), Hid.mk' (.inl rfl), hS0⟩
    case round => as_aux_lemma =>
      obtain ⟨s, r, c1, c2, c3, rfl, rfl, hs1, hr1, hS⟩ := hrel
      clear hS0
      by_cases hlt : s < r
      · obtain ⟨c, hh⟩ : ∃ h, Hid ((s + r) / 2 = h) := ⟨_, Hid.mk' rfl⟩
        have hh1 : s ≤ c := by have := hh.out; omega
        have hh2 : c < r := by have := hh.out; omega
        have hdd : ((s : Int) + (r : Int)) / 2 = (c : Int) := by have := hh.out; omega
        have hltz : (s : Int) < (r : Int) := by omega
        obtain ⟨e, he⟩ : ∃ e, e + c = p := ⟨p - c, by omega⟩
        have he1 : (p : Int) - (c : Int) = (e : Int) := by omega
        have hcU : c - a < U.length := by have := hmU.out; omega
        have heV : e - m < V.length := by have := hbV.out; omega
        obtain ⟨u, hu⟩ : ∃ u, u = U[c - a] := ⟨_, rfl⟩
        obtain ⟨v, hv⟩ : ∃ v, v = V[e - m] := ⟨_, rfl⟩
        have eu : at_ (X ++ U ++ V ++ Y) c = u := by rw [hu]; exact at_left hcU (by rw [ha0.out]; omega)
        have ev : at_ (X ++ U ++ V ++ Y) e = v := by rw [hv]; exact at_right heV (by rw [ha0.out, hmU.out]; omega)
        have au : at_ U (c - a) = u := by rw [hu]; exact at_eq hcU
        have av : at_ V (q - c - 1 - m) = v := by rw [hv, ← at_eq heV]; congr 1; omega
        have hmem : Hid (u.1 = v.1 → u.2 < v.2) := Hid.mk' (hc0.out u (by rw [hu]; exact List.getElem_mem hcU) v (by rw [hv]; exact List.getElem_mem heV))
        have o1 : Hid (lx u v → lx (at_ U (c + 1 - 1 - a)) (at_ V (q - (c + 1) - m))) := Hid.mk' (fun hl => by rw [Nat.add_sub_cancel, au, show q - (c + 1) - m = q - c - 1 - m by omega, av]; exact hl)
        have o2 : Hid (lx v u → lx (at_ V (q - c - 1 - m)) (at_ U (c - a))) := Hid.mk' (fun hl => by rw [au, av]; exact hl)
        have hlN : c < (X ++ U ++ V ++ Y).length := by rw [hN0.out]; omega
        have hmN : e < (X ++ U ++ V ++ Y).length := by rw [hN0.out]; omega
        obtain ⟨ua, ub⟩ := u
        obtain ⟨va, vb⟩ := v
        obtain ⟨cu, cu1⟩ := hS.out.reads hlN eu
        obtain ⟨cv, cv1⟩ := hS.out.reads hmN ev
        have z1 : (c : Int) < (N : Int) := by omega
        have z2 : (e : Int) < (N : Int) := by omega
        have z3 : (0 : Int) ≤ (c : Int) := by omega
        have z4 : (0 : Int) ≤ (e : Int) := by omega
        have z5 : IntKind.i64.wrap (e : Int) = (e : Int) := by rw [IntKind.wrap_i64]; omega
        clear hu hv eu ev au av hlN hmN hcU heV he
        by_cases hl : va < ua
        · as_aux_lemma =>
          have hcv := Hid.mk' (cmpI_lt hl)
          have q1 := Hid.mk' (o2.out (lt_lx hl))
          go_wp2_with fail
          go_quiet_grown (first | (go_at_call 40; exact cmp_grown _ _ _ _ _ hcv.out _ _ _))
          have hS3 := Hid.mk' (hS.out.grown nq osq)
          clear cv cv1 cu cu1 hS
          generalize grow (wr.drewN nq) osq = w3 at *
          go_wp2_with fail
          go_roundw
          case rel => exact ⟨s, c, by omega, by omega, by omega, rfl, rfl, hs1, Hid.mk' (.inr q1.out), hS3⟩
          case measure => simp [intOf]; omega
        · as_aux_lemma =>
          obtain ⟨v, hv, hv0, hv1⟩ := cmpI_ge hl
          have hcv := Hid.mk' hv
          have hvn : ¬ v < 0 := by omega
          have hvd : decide (v < 0) = false := decide_eq_false hvn
          clear hv
          have q1 := Hid.mk' (o1.out (not_lt_lx hl hmem.out))
          go_wp2_with fail
          go_quiet_grown (first | (go_at_call 40; exact cmp_grown _ _ _ _ _ hcv.out _ _ _))
          have hS3 := Hid.mk' (hS.out.grown nq osq)
          clear cv cv1 cu cu1 hS
          generalize grow (wr.drewN nq) osq = w3 at *
          go_wp2_with fail
          go_roundw
          case rel => exact ⟨c + 1, r, by omega, by omega, c3, by go_num, rfl, Hid.mk' (.inr q1.out), hr1, hS3⟩
          case measure => simp [intOf]; omega
      · as_aux_lemma =>
        obtain rfl : s = r := by omega
        have hltz : ¬ (s : Int) < (s : Int) := by omega
        obtain ⟨i, hi⟩ : ∃ i, a + i = s := ⟨s - a, by omega⟩
        obtain ⟨k, hk⟩ : ∃ k, s + k = d := ⟨d - s, by omega⟩
        obtain ⟨en, hen⟩ : ∃ en, m + k = en := ⟨_, rfl⟩
        have hen1 : (q : Int) - (s : Int) = (en : Int) := by omega
        have f1 : U.length = m - a := by have := hmU.out; omega
        have f2 : V.length = b - m := by have := hbV.out; omega
        have hA : Hid (∀ x ∈ U.take i, ∀ y ∈ V.drop k, lx x y) := Hid.mk' (ends_cross hU0.out hV0.out (by
          by_cases hss : s = s0
          · rcases hs0 with h1 | h1
            · exact .inl (by rw [show i = 0 by omega]; rfl)
            · exact .inr (.inl (List.drop_of_length_le (by omega)))
          · rcases hs1.out with h1 | h1
            · exact absurd h1 hss
            · refine .inr (.inr ⟨by omega, by omega, by omega, ?_⟩)
              rw [at_eq (by omega), at_eq (by omega)] at h1
              have g1 : s - 1 - a = i - 1 := by omega
              have g2 : q - s - m = k := by omega
              simp only [g1, g2] at h1
              exact h1))
        have hB : Hid (∀ x ∈ V.take k, ∀ y ∈ U.drop i, lx x y) := Hid.mk' (ends_cross hV0.out hU0.out (by
          by_cases hss : s = r0
          · rcases hr0 with h1 | h1
            · exact .inr (.inl (List.drop_of_length_le (by omega)))
            · exact .inl (by rw [show k = 0 by omega]; rfl)
          · rcases hr1.out with h1 | h1
            · exact absurd h1 hss
            · refine .inr (.inr ⟨by omega, by omega, by omega, ?_⟩)
              rw [at_eq (by omega), at_eq (by omega)] at h1
              have g1 : q - s - 1 - m = k - 1 := by omega
              have g2 : s - a = i := by omega
              simp only [g1, g2] at h1
              exact h1))
        have l1 : (U.take i).length = i := by rw [List.length_take]; omega
        have l2 : (V.take k).length = k := by rw [List.length_take]; omega
        have l3 : (U.drop i).length = m - s := by rw [List.length_drop]; omega
        have l4 : (V.drop k).length = b - en := by rw [List.length_drop]; omega
        have ct : Hid (∀ x ∈ U.take i, x ∈ U) := Hid.mk' (fun x hx => List.mem_of_mem_take hx)
        have cd : Hid (∀ x ∈ U.drop i, x ∈ U) := Hid.mk' (fun x hx => List.mem_of_mem_drop hx)
        have dt : Hid (∀ x ∈ V.take k, x ∈ V) := Hid.mk' (fun x hx => List.mem_of_mem_take hx)
        have dd : Hid (∀ x ∈ V.drop k, x ∈ V) := Hid.mk' (fun x hx => List.mem_of_mem_drop hx)
        have uU : Hid (U.take i ++ U.drop i = U) := Hid.mk' (List.take_append_drop i U)
        have uV : Hid (V.take k ++ V.drop k = V) := Hid.mk' (List.take_append_drop k V)
        have sU1 := Hid.mk' (sl_take hU0.out i)
        have sU2 := Hid.mk' (sl_drop hU0.out i)
        have sV1 := Hid.mk' (sl_take hV0.out k)
        have sV2 := Hid.mk' (sl_drop hV0.out k)
        have hfin : Hid (∀ Z1 Z2, Z1.Perm (U.take i ++ V.take k) → SL Z1 → Z2.Perm (U.drop i ++ V.drop k) → SL Z2 → (Z1 ++ Z2).Perm (U ++ V) ∧ SL (Z1 ++ Z2)) := Hid.mk' (fun Z1 Z2 p1 s1 p2 s2 => merged hU0.out hV0.out hA.out hB.out p1 s1 p2 s2)
        have hSp : Hid (SW w0 g ((X ++ U.take i) ++ U.drop i ++ V.take k ++ (V.drop k ++ Y)) wr) := Hid.mk' (by
          have e : (X ++ U.take i) ++ U.drop i ++ V.take k ++ (V.drop k ++ Y) = X ++ (U.take i ++ U.drop i) ++ (V.take k ++ V.drop k) ++ Y := by simp only [List.append_assoc]
          rw [e, uU.out, uV.out]
          exact hS.out)
        have hnn : Hid (i + k ≤ n ∧ (m - s) + (b - en) ≤ n) := Hid.mk' (by have := hn0.out; omega)
        have hNp : Hid (a + i + (m - s) + k + (b - en + Y.length) = N) := Hid.mk' (by have h1 := hN0.out; simp only [List.length_append, ha0.out] at h1; omega)
        have l10 := Hid.mk' l1
        have l20 := Hid.mk' l2
        have l30 := Hid.mk' l3
        have l40 := Hid.mk' l4
        generalize U.take i = U1 at *
        generalize U.drop i = U2 at *
        generalize V.take k = V1 at *
        generalize V.drop k = V2 at *
        clear hA hB hs1 hr1 hS l1 l2 l3 l4 f1 f2 hs0 hr0 uU uV
        have hcc1 : Hid (Cross U1 V1) := Hid.mk' (cross_sub hc0.out ct.out dt.out)
        have hcc2 : Hid (Cross U2 V2) := Hid.mk' (cross_sub hc0.out cd.out dd.out)
        obtain ⟨B1, hB1⟩ : ∃ B, Hid (B = (decide (s < m) && decide (m < en))) := ⟨_, Hid.mk' rfl⟩
        go_upto_region 39 with fail
        go_cut [24, 185] from 25 (fun t24 t185 wx => t24 = .int .i64 (en : Int) ∧ t185 = .bool B1 ∧ Hid (SW w0 g ((X ++ U1) ++ U2 ++ V1 ++ (V2 ++ Y)) wx))
        case first => as_aux_lemma =>
          by_cases x1 : s < m
          · have x1' : (s : Int) < (m : Int) := by omega
            by_cases x2 : m < en
            · have x2' : (m : Int) < (en : Int) := by omega
              have hb1 : B1 = true := by rw [hB1.out]; simp [x1, x2]
              go_wp2_with fail
              go_meet
              case rel => exact ⟨rfl, by rw [hb1], hSp⟩
            · have x2' : ¬ (m : Int) < (en : Int) := by omega
              have hb1 : B1 = false := by rw [hB1.out]; simp [x2]
              go_wp2_with fail
              go_meet
              case rel => exact ⟨rfl, by rw [hb1], hSp⟩
          · have x1' : ¬ (s : Int) < (m : Int) := by omega
            have hb1 : B1 = false := by rw [hB1.out]; simp [x1]
            go_wp2_with fail
            go_meet
            case rel => exact ⟨rfl, by rw [hb1], hSp⟩
        case rest => as_aux_lemma =>
          obtain ⟨w4, rfl⟩ : ∃ z, z = wc := ⟨_, rfl⟩
          obtain ⟨rfl, rfl, hS5⟩ := hcut
          clear hSp
          go_upto_if 185 with fail
          go_cut [24] from 25 (fun t24 wx => t24 = .int .i64 (en : Int) ∧ Hid (SW w0 g (X ++ U1 ++ V1 ++ (U2 ++ V2 ++ Y)) wx))
          case first => as_aux_lemma =>
            cases B1
            · have hv0 : Hid (U2 = [] ∨ V1 = []) := Hid.mk' (by
                have h1 := hB1.out
                by_cases x1 : s < m
                · have x2 : ¬ m < en := by intro x2; simp [x1, x2] at h1
                  exact .inr (List.length_eq_zero_iff.1 (by rw [l20.out]; omega))
                · exact .inl (List.length_eq_zero_iff.1 (by rw [l30.out]; omega)))
              go_wp2_with fail
              go_meet
              case rel => exact ⟨rfl, Hid.mk' (by
                have := hS5.out
                rcases hv0.out with h | h
                · rw [h] at this ⊢; simpa using this
                · rw [h] at this ⊢; simpa using this)⟩
            · have hx : Hid (s < m ∧ m < en) := Hid.mk' (by have h1 := hB1.out; simp at h1; exact h1)
              go_wp2_with (go_at_call 55; refine (rotate_any g (X ++ U1) U2 V1 (V2 ++ Y) N m en _ w0 _ hS5.out (by simp only [List.length_append, ha0.out, l10.out, l20.out, l30.out, l40.out]; have := hNp.out; omega) hN2 (by rw [l30.out]; have := hx.out; omega) (by rw [l20.out]; have := hx.out; omega) s (by rw [List.length_append, ha0.out, l10.out]; omega) (by rw [l30.out]; have := hx.out; omega) (by rw [l20.out]; omega)).mono ?_; rintro e w1 ⟨rfl, hs1⟩)
              go_meet
              case rel => exact ⟨rfl, Hid.mk' (by rw [show X ++ U1 ++ V1 ++ (U2 ++ V2 ++ Y) = X ++ U1 ++ V1 ++ U2 ++ (V2 ++ Y) by simp only [List.append_assoc]]; exact hs1)⟩
          case rest => as_aux_lemma =>
            obtain ⟨w5, rfl⟩ : ∃ z, z = wc := ⟨_, rfl⟩
            obtain ⟨rfl, hS6⟩ := hcut
            clear hS5 hB1
            obtain ⟨B2, hB2⟩ : ∃ B, Hid (B = (decide (a < s) && decide (s < d))) := ⟨_, Hid.mk' rfl⟩
            go_upto_region 41 with fail
            go_cut [24, 199] from 25 (fun t24 t199 wx => t24 = .int .i64 (en : Int) ∧ t199 = .bool B2 ∧ Hid (SW w0 g (X ++ U1 ++ V1 ++ (U2 ++ V2 ++ Y)) wx))
            case first => as_aux_lemma =>
              by_cases x1 : a < s
              · have x1' : (a : Int) < (s : Int) := by omega
                by_cases x2 : s < d
                · have x2' : (s : Int) < (d : Int) := by omega
                  have hb1 : B2 = true := by rw [hB2.out]; simp [x1, x2]
                  go_wp2_with fail
                  go_meet
                  case rel => exact ⟨rfl, by rw [hb1], hS6⟩
                · have x2' : ¬ (s : Int) < (d : Int) := by omega
                  have hb1 : B2 = false := by rw [hB2.out]; simp [x2]
                  go_wp2_with fail
                  go_meet
                  case rel => exact ⟨rfl, by rw [hb1], hS6⟩
              · have x1' : ¬ (a : Int) < (s : Int) := by omega
                have hb1 : B2 = false := by rw [hB2.out]; simp [x1]
                go_wp2_with fail
                go_meet
                case rel => exact ⟨rfl, by rw [hb1], hS6⟩
            case rest => as_aux_lemma =>
              obtain ⟨w6, rfl⟩ : ∃ z, z = wc := ⟨_, rfl⟩
              obtain ⟨rfl, rfl, hS7⟩ := hcut
              clear hS6
              go_upto_if 199 with fail
              go_cut [24] from 25 (fun t24 wx => ∃ Z1, t24 = .int .i64 (en : Int) ∧ Hid (Z1.Perm (U1 ++ V1)) ∧ Hid (SL Z1) ∧ Hid (SW w0 g (X ++ Z1 ++ U2 ++ V2 ++ Y) wx))
              case first => as_aux_lemma =>
                cases B2
                · have hv0 : Hid (U1 = [] ∨ V1 = []) := Hid.mk' (by
                    have h1 := hB2.out
                    by_cases x1 : a < s
                    · have x2 : ¬ s < d := by intro x2; simp [x1, x2] at h1
                      exact .inr (List.length_eq_zero_iff.1 (by rw [l20.out]; omega))
                    · exact .inl (List.length_eq_zero_iff.1 (by rw [l10.out]; omega)))
                  go_wp2_with fail
                  go_meet
                  case rel => exact ⟨U1 ++ V1, rfl, Hid.mk' (List.Perm.refl _), Hid.mk' (merged0 sU1.out sV1.out hv0.out), Hid.mk' (by have := hS7.out; simpa only [List.append_assoc] using this)⟩
                · have hx : Hid (a < s ∧ s < d) := Hid.mk' (by have h1 := hB2.out; simp at h1; exact h1)
                  go_wp2_with (go_at_call 54; refine (ih0.out g a d N X U1 V1 (U2 ++ V2 ++ Y) w0 _ (by rw [l10.out, l20.out]; exact hnn.out.1) hS7.out (by simp only [List.length_append, ha0.out, l10.out, l20.out, l30.out, l40.out]; have := hNp.out; omega) hN2 ha0.out s (by rw [l10.out]; omega) (by rw [l20.out]; omega) (by rw [l10.out]; have := hx.out; omega) (by rw [l20.out]; have := hx.out; omega) sU1.out sV1.out hcc1.out).mono ?_; rintro e w1 ⟨rfl, Z1, hs1, hs2, hs3⟩)
                  go_meet
                  case rel => exact ⟨Z1, rfl, Hid.mk' hs2, Hid.mk' hs3, Hid.mk' (by rw [show X ++ Z1 ++ U2 ++ V2 ++ Y = X ++ Z1 ++ (U2 ++ V2 ++ Y) by simp only [List.append_assoc]]; exact hs1)⟩
              case rest => as_aux_lemma =>
                obtain ⟨Z1, rfl, hz1, hz2, hS8⟩ := hcut
                clear hS7 hB2
                have lz : Hid ((X ++ Z1).length = d) := Hid.mk' (by rw [List.length_append, hz1.out.length_eq, List.length_append, ha0.out, l10.out, l20.out]; omega)
                by_cases x1 : d < en
                · have x1' : (d : Int) < (en : Int) := by omega
                  by_cases x2 : en < b
                  · have x2' : (en : Int) < (b : Int) := by omega
                    go_wp2_with (go_at_call 54; refine (ih0.out g d b N (X ++ Z1) U2 V2 Y w0 _ (by rw [l30.out, l40.out]; exact hnn.out.2) hS8.out (by rw [List.length_append, List.length_append, List.length_append, lz.out, l30.out, l40.out]; have := hNp.out; omega) hN2 lz.out en (by rw [l30.out]; omega) (by rw [l40.out]; omega) (by rw [l30.out]; omega) (by rw [l40.out]; omega) sU2.out sV2.out hcc2.out).mono ?_; rintro e w1 ⟨rfl, Z2, hs1, hs2, hs3⟩)
                    go_end0
                    obtain ⟨r1, r2⟩ := hfin.out Z1 Z2 hz1.out hz2.out hs2 hs3
                    exact ⟨rfl, Z1 ++ Z2, by simpa only [List.append_assoc] using hs1, r1, r2⟩
                  · have x2' : ¬ (en : Int) < (b : Int) := by omega
                    have hv0 : Hid (V2 = []) := Hid.mk' (List.length_eq_zero_iff.1 (by rw [l40.out]; omega))
                    go_wp2_with fail
                    go_end0
                    obtain ⟨r1, r2⟩ := hfin.out Z1 (U2 ++ V2) hz1.out hz2.out (List.Perm.refl _) (merged0 sU2.out sV2.out (.inr hv0.out))
                    exact ⟨rfl, Z1 ++ (U2 ++ V2), by simpa only [List.append_assoc] using hS8.out, r1, r2⟩
                · have x1' : ¬ (d : Int) < (en : Int) := by omega
                  have hv0 : Hid (U2 = []) := Hid.mk' (List.length_eq_zero_iff.1 (by rw [l30.out]; omega))
                  go_wp2_with fail
                  go_end0
                  obtain ⟨r1, r2⟩ := hfin.out Z1 (U2 ++ V2) hz1.out hz2.out (List.Perm.refl _) (merged0 sU2.out sV2.out (.inl hv0.out))
                  exact ⟨rfl, Z1 ++ (U2 ++ V2), by simpa only [List.append_assoc] using hS8.out, r1, r2⟩

theorem sym_all (n : Nat) : SymOk n := by
  induction n with
  | zero => intro g a b N X U V Y w0 w hn _ _ _ _ m _ _ hu; omega
  | succ n ih =>
    intro g a b N X U V Y w0 w hn h hN hN2 ha m hm hb hu hv hU hV hc
    by_cases h1 : U.length = 1
    · obtain ⟨u, rfl⟩ := List.length_eq_one_iff.1 h1
      have := sym_one g a b N X V Y u w0 w (by simpa using h) (by simpa using hN) hN2 ha m (by simpa using hm) hb hV hc
      simpa using this
    · by_cases h2 : V.length = 1
      · obtain ⟨v, rfl⟩ := List.length_eq_one_iff.1 h2
        have := sym_last g a b N X U Y v w0 w (by simpa using h) (by simpa using hN) hN2 ha m hm (by simpa using hb) hU h1 hc
        simpa using this
      · exact sym_gen n ih g a b N X U V Y w0 w hn h hN hN2 ha m hm hb (by omega) (by omega) hU hV hc
end Go.Proofs.Ytcoiddmgcoeocaa.Tr
