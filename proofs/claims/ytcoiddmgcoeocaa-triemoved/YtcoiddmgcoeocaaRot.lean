/- swapRange and rotate: walks. -/
import Derived.Test.YtcoiddmgcoeocaaEnt
namespace Go.Proofs.Ytcoiddmgcoeocaa.Tr
open Go.ChangeShapes Go.WideShapes Go.ChangeAt Go.RowKit Go.Maps Go.Proofs.Ytcoiddmgcoeocaa.Mem Go.Proofs.Ytcoiddmgcoeocaa.El
set_option linter.unusedVariables false
set_option linter.unusedSimpArgs false

def swapN : List Pr → Nat → Nat → Nat → List Pr
  | L, _, _, 0 => L
  | L, a, b, n + 1 => swapN (swp L a b) (a + 1) (b + 1) n

set_option maxRecDepth 100000 in
set_option maxHeartbeats 4000000 in
theorem swapR_any (g a b n : Nat) (L : List Pr) (N : Nat) (cv : Value) (w0 w : World) (h : SW w0 g L w) (hN : L.length = N) (hN2 : N ≤ 70000) (ha : a + n ≤ b) (hb : b + n ≤ N) :
    Calls Try.prog 56 #[.slice (some ⟨g, 0, none⟩) N N, .int .i64 (a : Int), .int .i64 (b : Int), .int .i64 (n : Int), cv] w fun e w' => e = .returned (.tuple #[]) ∧ SW w0 g (swapN L a b n) w' := by
  have h0 := Hid.mk' h
  have hN0 := Hid.mk' hN
  clear h hN
  go_enter Try.func56, Try.ntmps56
  go_wp2
  go_loopw [10] (fun t10 wx => ∃ (i : Nat) (D : List Pr), i ≤ n ∧ t10 = .int .i64 (i : Int) ∧ Hid (D.length = N) ∧ Hid (SW w0 g D wx) ∧ Hid (swapN D (a + i) (b + i) (n - i) = swapN L a b n)) (fun t10 _ => n - (intOf t10).toNat)
  case atStart => exact ⟨0, L, by omega, rfl, hN0, h0, Hid.mk' rfl⟩
  case round =>
    obtain ⟨i, D, hi, rfl, hD, hS, hE⟩ := hrel
    by_cases hlt : i < n
    · obtain ⟨p, hp⟩ : ∃ p, p = a + i := ⟨_, rfl⟩
      obtain ⟨q, hq⟩ : ∃ q, q = b + i := ⟨_, rfl⟩
      have hpi : (a : Int) + (i : Int) = (p : Int) := by omega
      have hqi : (b : Int) + (i : Int) = (q : Int) := by omega
      have hpl : p < D.length := by rw [hD.out]; omega
      have hql : q < D.length := by rw [hD.out]; omega
      have hpN : (p : Int) < (N : Int) := by omega
      have hqN : (q : Int) < (N : Int) := by omega
      have hp0 : (0 : Int) ≤ (p : Int) := by omega
      have hq0 : (0 : Int) ≤ (q : Int) := by omega
      have hwp : IntKind.i64.wrap (p : Int) = (p : Int) := by rw [IntKind.wrap_i64]; omega
      have hwq : IntKind.i64.wrap (q : Int) = (q : Int) := by rw [IntKind.wrap_i64]; omega
      have n1 : ¬ q = p := by omega
      have n2 : ¬ q * 2 = p * 2 + 1 := by omega
      have n3 : ¬ q * 2 + 1 = p * 2 := by omega
      have n4 : ¬ p = q := by omega
      have n5 : ¬ p * 2 = q * 2 + 1 := by omega
      have n6 : ¬ p * 2 + 1 = q * 2 := by omega
      have hltI : (i : Int) < (n : Int) := by omega
      obtain ⟨x0, x1⟩ := hS.out.cell hpl
      obtain ⟨y0, y1⟩ := hS.out.cell hql
      have hf := hS.out.free (List.ne_nil_of_length_pos (by omega))
      have hE2 : Hid (swapN (swp D p q) (a + (i + 1)) (b + (i + 1)) (n - (i + 1)) = swapN L a b n) := Hid.mk' (by
        have := hE.out
        rw [show n - i = (n - (i + 1)) + 1 by omega, swapN] at this
        rw [hp, hq]
        exact this)
      have hp1 := Hid.mk' hp
      have hq1 := Hid.mk' hq
      generalize hx : at_ D p = x at *
      generalize hy : at_ D q = y at *
      obtain ⟨xa, xb⟩ := x
      obtain ⟨ya, yb⟩ := y
      simp only at x0 x1 y0 y1
      clear hp hq hpl hql hE
      have hpl2 : Hid (p < D.length ∧ q < D.length) := Hid.mk' (by rw [hD.out, hp1.out, hq1.out]; omega)
      go_wp2_with fail
      go_big_region
      go_wp2
      go_roundw
      case rel => exact ⟨i + 1, swp D p q, by omega, by go_num, Hid.mk' (by rw [swp_length, hD.out]), Hid.mk' (hS.out.swap hpl2.out.1 hpl2.out.2 hx hy), hE2⟩
      case measure => simp [intOf]; omega
    · have hltI : ¬ (i : Int) < (n : Int) := by omega
      go_wp2
      go_end0
      refine ⟨rfl, ?_⟩
      have := hE.out
      rw [show n - i = 0 by omega, swapN] at this
      rw [← this]
      exact hS.out

theorem swapN_parts : ∀ (A B X M Y : List Pr), A.length = B.length → swapN (X ++ A ++ M ++ B ++ Y) X.length (X.length + A.length + M.length) A.length = X ++ B ++ M ++ A ++ Y
  | [], [], X, M, Y, _ => by simp [swapN]
  | [], _ :: _, _, _, _, h => by simp at h
  | _ :: _, [], _, _, _, h => by simp at h
  | x :: A, y :: B, X, M, Y, h => by
    have e : X ++ (x :: A) ++ M ++ (y :: B) ++ Y = X ++ x :: ((A ++ M) ++ y :: (B ++ Y)) := by simp
    have ih := swapN_parts A B (X ++ [y]) (M ++ [x]) Y (by simpa using h)
    rw [List.length_cons, swapN, e, show X.length + (A.length + 1) + M.length = X.length + 1 + (A ++ M).length by simp; omega, swp_parts]
    have e2 : X ++ y :: ((A ++ M) ++ x :: (B ++ Y)) = (X ++ [y]) ++ A ++ (M ++ [x]) ++ B ++ Y := by simp
    rw [e2, show X.length + 1 = (X ++ [y]).length by simp, show (X ++ [y]).length + (A ++ M).length + 1 = (X ++ [y]).length + A.length + (M ++ [x]).length by simp; omega, ih]
    simp

set_option maxRecDepth 100000 in
set_option maxHeartbeats 4000000 in
theorem rotate_any (g : Nat) (X U V Y : List Pr) (N m b : Nat) (cv : Value) (w0 w : World) (h : SW w0 g (X ++ U ++ V ++ Y) w) (hN : (X ++ U ++ V ++ Y).length = N) (hN2 : N ≤ 70000) (hU : 0 < U.length) (hV : 0 < V.length) (a : Nat) (ha : X.length = a) (hm : a + U.length = m) (hb : m + V.length = b) :
    Calls Try.prog 55 #[.slice (some ⟨g, 0, none⟩) N N, .int .i64 (a : Int), .int .i64 (m : Int), .int .i64 (b : Int), cv] w fun e w' => e = .returned (.tuple #[]) ∧ SW w0 g (X ++ V ++ U ++ Y) w' := by
  have h0 := Hid.mk' h
  have hN0 := Hid.mk' hN
  obtain ⟨u, hu⟩ : ∃ u, U.length = u := ⟨_, rfl⟩
  obtain ⟨v, hv⟩ : ∃ v, V.length = v := ⟨_, rfl⟩
  have hu0 := Hid.mk' hu
  have hv0 := Hid.mk' hv
  have ha0 := Hid.mk' ha
  rw [hu] at hm hU
  rw [hv] at hb hV
  have hml : Hid (m + v ≤ N) := Hid.mk' (by rw [← hN]; simp; omega)
  have hb7 : b ≤ 70000 := by have := hml.out; omega
  have e1 : (m : Int) - (a : Int) = (u : Int) := by omega
  have e2 : (b : Int) - (m : Int) = (v : Int) := by omega
  clear h hN hu hv ha
  go_enter Try.func55, Try.ntmps55
  go_wp2_with fail
  go_loopw [10, 11] (fun t10 t11 wx => ∃ (i j x : Nat) (X' U' V' Y' : List Pr), 0 < i ∧ 0 < j ∧ x + i = m ∧ t10 = .int .i64 (i : Int) ∧ t11 = .int .i64 (j : Int) ∧ m + j ≤ 70000 ∧ Hid (X'.length = x) ∧ Hid (U'.length = i) ∧ Hid (V'.length = j) ∧ Hid ((X' ++ U' ++ V' ++ Y').length = N) ∧ Hid (SW w0 g (X' ++ U' ++ V' ++ Y') wx) ∧ Hid (X' ++ V' ++ U' ++ Y' = X ++ V ++ U ++ Y)) (fun t10 t11 _ => (intOf t10).toNat + (intOf t11).toNat)
  case atStart => exact ⟨u, v, a, X, U, V, Y, hU, hV, hm, by go_num, by go_num, by have := hml.out; omega, ha0, hu0, hv0, hN0, h0, Hid.mk' rfl⟩
  case round =>
    obtain ⟨i, j, x, X', U', V', Y', hi, hj, hx, rfl, rfl, hmj, hX', hU', hV', hL', hS, hE⟩ := hrel
    clear h0 hN0 e1 e2
    have f1 : (m : Int) - (i : Int) = (x : Int) := by omega
    rcases Nat.lt_trichotomy i j with hij | hij | hij
    · obtain ⟨y, hy⟩ : ∃ y, m + j - i = y := ⟨_, rfl⟩
      have f2 : (m : Int) + (j : Int) - (i : Int) = (y : Int) := by omega
      have f3 : ¬ (j : Int) < (i : Int) := by omega
      have f4 : ¬ (i : Int) = (j : Int) := by omega
      have f5 : ¬ i = j := by omega
      have f6 : ((i : Int) == (j : Int)) = false := by simp; omega
      have f7 : ¬ j < i := by omega
      obtain ⟨j', hj'⟩ : ∃ j', j - i = j' := ⟨_, rfl⟩
      have f8 : (j : Int) - (i : Int) = (j' : Int) := by omega
      have hsw : Hid (swapN (X' ++ U' ++ V' ++ Y') x y i = X' ++ V'.drop j' ++ V'.take j' ++ (U' ++ Y')) := Hid.mk' (by
        have l2 : (V'.take j').length = j' := by rw [List.length_take, hV'.out]; omega
        have := swapN_parts U' (V'.drop j') X' (V'.take j') Y' (by rw [List.length_drop, hV'.out, hU'.out]; omega)
        rw [hX'.out, hU'.out, l2, show x + i + j' = y by omega] at this
        have e : X' ++ U' ++ V' ++ Y' = X' ++ U' ++ V'.take j' ++ V'.drop j' ++ Y' := by simp
        rw [e, this]
        simp)
      have hc1 : Hid (x + i ≤ y ∧ y + i ≤ N) := Hid.mk' (by have h1 := hL'.out; simp only [List.length_append, hX'.out, hU'.out, hV'.out] at h1; omega)
      have hE2 : Hid (X' ++ V'.take j' ++ V'.drop j' ++ (U' ++ Y') = X ++ V ++ U ++ Y) := Hid.mk' (by rw [← hE.out]; simp)
      go_wp2_with (go_at_call 56; refine (swapR_any g x y i _ N cv w0 _ hS.out hL'.out hN2 hc1.out.1 hc1.out.2).mono ?_; rintro e w1 ⟨rfl, hs1⟩; rw [hsw.out] at hs1)
      go_roundw
      case rel => exact ⟨i, j', x, X', V'.drop j', V'.take j', U' ++ Y', hi, by omega, hx, rfl, rfl, by omega, hX', Hid.mk' (by rw [List.length_drop, hV'.out]; omega), Hid.mk' (by rw [List.length_take, hV'.out]; omega), Hid.mk' (by have h1 := hL'.out; simp only [List.length_append, List.length_take, List.length_drop, hX'.out, hU'.out, hV'.out] at h1 ⊢; omega), Hid.mk' hs1, hE2⟩
      case measure => simp [intOf]; omega
    · subst hij
      have f6 : ((i : Int) == (i : Int)) = true := by simp
      have hsw : Hid (swapN (X' ++ U' ++ V' ++ Y') x m i = X ++ V ++ U ++ Y) := Hid.mk' (by
        have := swapN_parts U' V' X' [] Y' (by rw [hV'.out, hU'.out])
        simp only [List.append_nil, List.length_nil, Nat.add_zero] at this
        rw [hX'.out, hU'.out, hx] at this
        rw [this, hE.out])
      have hc1 : Hid (x + i ≤ m ∧ m + i ≤ N) := Hid.mk' (by have h1 := hL'.out; simp only [List.length_append, hX'.out, hU'.out, hV'.out] at h1; omega)
      go_wp2_with (go_at_call 56; refine (swapR_any g x m i _ N cv w0 _ hS.out hL'.out hN2 hc1.out.1 hc1.out.2).mono ?_; rintro e w1 ⟨rfl, hs1⟩; rw [hsw.out] at hs1)
      go_end0
      exact ⟨rfl, hs1⟩
    · have f3 : (j : Int) < (i : Int) := by omega
      have f4 : ¬ (i : Int) = (j : Int) := by omega
      have f5 : ¬ i = j := by omega
      have f6 : ((i : Int) == (j : Int)) = false := by simp; omega
      obtain ⟨i', hi'⟩ : ∃ i', i - j = i' := ⟨_, rfl⟩
      have f8 : (i : Int) - (j : Int) = (i' : Int) := by omega
      have hsw : Hid (swapN (X' ++ U' ++ V' ++ Y') x m j = (X' ++ V') ++ U'.drop j ++ U'.take j ++ Y') := Hid.mk' (by
        have l1 : (U'.take j).length = j := by rw [List.length_take, hU'.out]; omega
        have l2 : (U'.drop j).length = i' := by rw [List.length_drop, hU'.out]; omega
        have := swapN_parts (U'.take j) V' X' (U'.drop j) Y' (by rw [l1, hV'.out])
        rw [hX'.out, l1, l2, show x + j + i' = m by omega] at this
        have e : X' ++ U' ++ V' ++ Y' = X' ++ U'.take j ++ U'.drop j ++ V' ++ Y' := by simp
        rw [e, this])
      have hc1 : Hid (x + j ≤ m ∧ m + j ≤ N) := Hid.mk' (by have h1 := hL'.out; simp only [List.length_append, hX'.out, hU'.out, hV'.out] at h1; omega)
      have hE2 : Hid ((X' ++ V') ++ U'.take j ++ U'.drop j ++ Y' = X ++ V ++ U ++ Y) := Hid.mk' (by rw [← hE.out]; simp)
      go_wp2_with (go_at_call 56; refine (swapR_any g x m j _ N cv w0 _ hS.out hL'.out hN2 hc1.out.1 hc1.out.2).mono ?_; rintro e w1 ⟨rfl, hs1⟩; rw [hsw.out] at hs1)
      go_roundw
      case rel => exact ⟨i', j, x + j, X' ++ V', U'.drop j, U'.take j, Y', by omega, hj, by omega, rfl, rfl, by omega, Hid.mk' (by simp [hX'.out, hV'.out]), Hid.mk' (by rw [List.length_drop, hU'.out]; omega), Hid.mk' (by rw [List.length_take, hU'.out]; omega), Hid.mk' (by have h1 := hL'.out; simp only [List.length_append, List.length_take, List.length_drop, hX'.out, hU'.out, hV'.out] at h1 ⊢; omega), Hid.mk' hs1, hE2⟩
      case measure => simp [intOf]; omega
end Go.Proofs.Ytcoiddmgcoeocaa.Tr
