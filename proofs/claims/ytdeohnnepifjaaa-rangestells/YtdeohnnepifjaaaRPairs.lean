/- The document's Pairs: a walk. -/
import Derived.Test.YtdeohnnepifjaaaRCheck
import Derived.Test.YtdeohnnepifjaaaStep
namespace Go.Proofs.Ytdeohnnepifjaaa.Rn
open Go.ChangeShapes Go.WideShapes Go.ChangeAt Go.RowKit Go.Proofs.Ytdeohnnepifjaaa.Mem Go.Proofs.Ytdeohnnepifjaaa.Ucs Go.Proofs.Ytdeohnnepifjaaa.El
set_option linter.unusedVariables false
set_option linter.unusedSimpArgs false

set_option maxRecDepth 100000 in
set_option maxHeartbeats 8000000 in
theorem pairsRef_any (ao : Option Addr) (cap : Nat) (L : List Rg) (w : World) (hB : RE.Rd w ao L) (hc : L.length ≤ cap) (hcm : cap ≤ 9223372036854775807) (Q : List Pr) (hQ : Hid (pairsR L = Q)) :
    Calls Try.prog 14 #[.slice ao L.length cap] w fun e w' => ∃ ro rc, e = .returned (.slice ro Q.length rc) ∧ PE.Own w' ro rc Q ∧ w.grownBy w' none := by
  have hB0 : Hid (RE.Rd w ao L) := hB
  clear hB
  obtain ⟨E, hE⟩ : ∃ E, Hid (checkR L = E) := ⟨_, (rfl : checkR L = checkR L)⟩
  by_cases hE0 : E = 0
  · subst hE0
    obtain ⟨k1, k2, k3⟩ := checkR_ok.1 hE.out
    have Hk : Hid (okFrom (-1) L = true) := k2
    have Hlen : Hid ((pairsOf L).length ≤ 65536) := (by have := pairsOf_length k2; omega : (pairsOf L).length ≤ 65536)
    have HQ : Hid (pairsOf L = Q) := (by rw [← hQ.out]; simp [pairsR, hE.out] : pairsOf L = Q)
    clear k2 k3 hQ
    go_enter Try.func14, Try.ntmps14
    go_wp2_with (go_at_call 12; refine (checkRef_any _ _ L _ hB0.out hc hcm 0 hE).mono ?_; rintro e w1 ⟨rfl, hg1⟩)
    have Hg1 : Hid (w.grownBy w1 none) := hg1
    clear hg1
    go_loopw [3, 4] (fun t3 t4 wx => ∃ (i rc : Nat) (bf : Int) (ro : Option Addr) (P : List Pr), i ≤ L.length ∧ t4 = .int .i64 (i : Int) ∧ t3 = .slice ro P.length rc ∧ Hid (okFrom bf (L.drop i) = true) ∧ Hid (PE.Own wx ro rc P) ∧ Hid (∀ g, blk ro = some g → w.heap.size ≤ g) ∧ Hid (P ++ pairsOf (L.drop i) = pairsOf L) ∧ Hid (w.grownBy wx none)) (fun _ t4 _ => L.length - (intOf t4).toNat)
    case atStart => exact ⟨0, 0, -1, none, [], by omega, rfl, rfl, Hk, .inl ⟨rfl, rfl, rfl⟩, (by simp [blk] : ∀ g, blk none = some g → w.heap.size ≤ g), (by simp : [] ++ pairsOf (L.drop 0) = pairsOf L), Hg1⟩
    case round =>
      obtain ⟨i, rc, bf, ro, P, hil, rfl, rfl, hok, ho, hro, heq, hgx⟩ := hrel
      by_cases hlt : i < L.length
      · obtain ⟨f, t, a, he⟩ : ∃ f t a, L[i] = (f, t, a) := ⟨_, _, _, rfl⟩
        have hd := drop_at hlt he
        rw [hd] at hok heq
        obtain ⟨g1, g2, g3⟩ := okFrom_cons.1 hok.out
        obtain ⟨⟨r1, r2, r3⟩, r4, r5, r6⟩ := rightR_iff.1 g1
        have Hok : Hid (okFrom t (L.drop (i + 1)) = true) := g3
        obtain ⟨N, hN2⟩ : ∃ N : Nat, t = f + (N : Int) - 1 := ⟨cnt (f, t, a), by simp only [cnt]; omega⟩
        subst hN2
        have hN : cnt (f, f + (N : Int) - 1, a) = N := by simp only [cnt]; omega
        have Heq : Hid (P ++ (run f a N ++ pairsOf (L.drop (i + 1))) = pairsOf L) := (by rw [← heq.out]; simp only [pairsOf, hN] : P ++ (run f a N ++ pairsOf (L.drop (i + 1))) = pairsOf L)
        obtain ⟨b, o, rfl, hb, X0, X1, X2⟩ := rcells hB0.out hlt he
        have HX : Hid (w.cell? ⟨b, o + i * 3, none⟩ = some (.int .i64 f) ∧ w.cell? ⟨b, o + i * 3 + 1, none⟩ = some (.int .i64 (f + (N : Int) - 1)) ∧ w.cell? ⟨b, o + i * 3 + 2, none⟩ = some (.int .i32 a)) := ⟨X0, X1, X2⟩
        have hlt' : (i : Int) < (L.length : Int) := by omega
        have hi0 : (0 : Int) ≤ (i : Int) := by omega
        have x0 := hgx.out.cell X0 (by simp)
        have x1 := hgx.out.cell X1 (by simp)
        clear hd he hok heq g1 g2 g3 hN X0 X1 X2
        go_wp2
        clear x0 x1
        go_loopw [3, 5] (fun t3 t5 wy => ∃ (k rc : Nat) (ro : Option Addr) (P : List Pr), k ≤ N ∧ t5 = .int .i64 (f + (k : Int)) ∧ t3 = .slice ro P.length rc ∧ Hid (PE.Own wy ro rc P) ∧ Hid (∀ g, blk ro = some g → w.heap.size ≤ g) ∧ Hid (P ++ (run (f + (k : Int)) (a + (k : Int)) (N - k) ++ pairsOf (L.drop (i + 1))) = pairsOf L) ∧ Hid (w.grownBy wy none)) (fun _ t5 _ => (f + (N : Int) - intOf t5).toNat)
        case atStart =>
          refine ⟨0, rc, ro, P, by omega, by simp, rfl, ho, hro, ?_, hgx⟩
          refine (?_ : P ++ _ = pairsOf L)
          rw [← Heq.out]; simp
        case round =>
          clear ho hgx Heq hro
          obtain ⟨k, rc, ro, P, hkN, rfl, rfl, ho, hro, heq, hgx⟩ := hrel
          obtain ⟨wA, rfl⟩ : ∃ z, z = wr := ⟨_, rfl⟩
          have x0 := hgx.out.cell HX.out.1 (by simp)
          have x1 := hgx.out.cell HX.out.2.1 (by simp)
          have x2 := hgx.out.cell HX.out.2.2 (by simp)
          have hbr : Hid (blk ro ≠ some b) := (fun e => by have := hro.out b e; omega : blk ro ≠ some b)
          have hPl : P.length ≤ 65536 := by
            have h1 := congrArg List.length heq.out
            have h2 := Hlen.out
            rw [List.length_append] at h1
            omega
          by_cases hk : k < N
          · have hk1 : f + (k : Int) ≤ f + (N : Int) - 1 := by omega
            have e1 : f + (k : Int) - f = (k : Int) := by omega
            have hw1 : IntKind.i64.wrap (k : Int) = (k : Int) := by rw [IntKind.wrap_i64]; omega
            have hw2 : IntKind.i32.wrap (k : Int) = (k : Int) := by rw [IntKind.wrap_i32]; omega
            have hw3 : IntKind.i32.wrap (a + (k : Int)) = a + (k : Int) := by rw [IntKind.wrap_i32]; omega
            go_wp2
            have hS0 : wA.drew.cell? ⟨b, o + i * 3, none⟩ = some (.int .i64 f) ∧ wA.drew.cell? ⟨b, o + i * 3 + 2, none⟩ = some (.int .i32 a) := ⟨x0, x2⟩
            go_region_held3 (fun w' => w'.cell? ⟨b, o + i * 3, none⟩ = some (.int .i64 f) ∧ w'.cell? ⟨b, o + i * 3 + 2, none⟩ = some (.int .i32 a)) (first | assumption | exact hS0 | go_keep) (first | (refine step_pair ((wA.alloc (.cells #[.int .i64 (f + (k : Int)), .int .i32 (a + (k : Int))] 41)).drew) (by rfl) _ _ (by rfl) ro rc P (by simp [Act.eval, Act.put]) (by exact (ho.out.alloc _)) (.slice (some ⟨wA.heap.size, 0, none⟩) 1 1) (by simp [Act.eval, Act.put]) [(f + (k : Int), a + (k : Int))] (src_pair (M := [(f + (k : Int), a + (k : Int))]) (show PE.Rd ((wA.alloc (.cells #[.int .i64 (f + (k : Int)), .int .i32 (a + (k : Int))] 41)).drew) (some ⟨wA.heap.size, 0, none⟩) [(f + (k : Int), a + (k : Int))] from new_pair wA _ _) 1) (by simp; omega) (P ++ [(f + (k : Int), a + (k : Int))]) (by rfl) ?_; intro ro' rc' w3 ho' hg3 hat; have hS1 : w3.cell? ⟨b, o + i * 3, none⟩ = some (.int .i64 f) ∧ w3.cell? ⟨b, o + i * 3 + 2, none⟩ = some (.int .i32 a) := ⟨hg3.cell ((World.grownBy_alloc wA _ none).cell x0 (by simp)) (fun e => hbr.out e.symm), hg3.cell ((World.grownBy_alloc wA _ none).cell x2 (by simp)) (fun e => hbr.out e.symm)⟩))
            go_wp2
            go_roundw
            case rel =>
              refine ⟨k + 1, rc', ro', _, by omega, by go_num, by simp, ho', ?_, ?_, ?_⟩
              · refine (?_ : ∀ g, blk ro' = some g → w.heap.size ≤ g)
                exact newer hro.out (by have := hgx.out.size; simp; omega) hat
              · refine (?_ : _ = pairsOf L)
                have h0 := heq.out
                rw [show N - k = (N - (k + 1)) + 1 by omega] at h0
                have h1 := run_more h0
                rw [← h1, show f + ((k + 1 : Nat) : Int) = f + (k : Int) + 1 by omega, show a + ((k + 1 : Nat) : Int) = a + (k : Int) + 1 by omega]
              · refine (?_ : w.grownBy w3 none)
                exact grownBy_new (gd (ga hgx.out)) hg3 (fun g e => hro.out g e)
            case measure => simp [intOf]; omega
          · obtain rfl : k = N := by omega
            have hk1 : ¬ f + (k : Int) ≤ f + (k : Int) - 1 := by omega
            go_wp2
            go_roundw
            case rel =>
              refine ⟨i + 1, rc, _, ro, P, by omega, by go_num, rfl, Hok, ho, hro, ?_, hgx⟩
              refine (?_ : P ++ pairsOf (L.drop (i + 1)) = pairsOf L)
              rw [← heq.out]; simp [run]
            case measure => simp [intOf]; omega
      · obtain rfl : i = L.length := by omega
        have hP : Hid (P = Q) := (by rw [← HQ.out, ← heq.out, List.drop_length]; simp [pairsOf] : P = Q)
        go_wp2
        obtain rfl := hP.out
        go_ret
        exact ⟨ro, rc, rfl, ho.out, hgx.out⟩
  · have hQ2 : Q = [] := by rw [← hQ.out]; simp [pairsR, hE.out, hE0]
    subst hQ2
    have hE1 : (E == 0) = false := by simpa using hE0
    go_enter Try.func14, Try.ntmps14
    go_wp2_with (go_at_call 12; refine (checkRef_any _ _ L _ hB0.out hc hcm E hE).mono ?_; rintro e w1 ⟨rfl, hg1⟩)
    go_ret
    exact ⟨none, 0, rfl, .inl ⟨rfl, rfl, rfl⟩, hg1⟩
end Go.Proofs.Ytdeohnnepifjaaa.Rn
