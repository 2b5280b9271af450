/- The program's Pairs: a walk. -/
import Derived.Test.YtdeohnnepifjaaaCheck
import Derived.Test.YtdeohnnepifjaaaApp
namespace Go.Proofs.Ytdeohnnepifjaaa.Rn
open Go.ChangeShapes Go.WideShapes Go.ChangeAt Go.RowKit Go.Proofs.Ytdeohnnepifjaaa.Mem Go.Proofs.Ytdeohnnepifjaaa.Ucs Go.Proofs.Ytdeohnnepifjaaa.El
set_option linter.unusedVariables false
set_option linter.unusedSimpArgs false

theorem own_apart {α : Type} {E : Elem α} {w : World} {ao : Option Addr} {cap : Nat} {L : List α} (h : E.Own w ao cap L) {b : Nat} {cs : Array Value} {t : TypeId} {fr : Nat × Nat} (hb : w.heap[b]? = some (.cells cs t fr)) (ht : t ≠ E.ty) : blk ao ≠ some b := by
  rcases h with ⟨rfl, _⟩ | ⟨g, cur, rfl, hh, _⟩
  · simp [blk]
  · intro e
    simp [blk] at e
    subst e
    rw [hh] at hb
    simp at hb
    exact ht hb.2.1.symm
/-- What is newer stays newer behind an append. -/
theorem newer {w0 w1 : World} {ro ro' : Option Addr} (h : ∀ g, blk ro = some g → w0.heap.size ≤ g) (hs : w0.heap.size ≤ w1.heap.size) (hat : ro' = ro ∨ ro' = some ⟨w1.heap.size, 0, none⟩) : ∀ g, blk ro' = some g → w0.heap.size ≤ g := by
  intro g e
  rcases hat with rfl | rfl
  · exact h g e
  · have := Option.some.inj e; simp at this; omega
theorem run_more {P Q R : List Pr} {c u : Int} {n : Nat} (h : P ++ (run c u (n + 1) ++ R) = Q) : (P ++ [(c, u)]) ++ (run (c + 1) (u + 1) n ++ R) = Q := by
  rw [← h]; simp [run]

set_option maxRecDepth 100000 in
set_option maxHeartbeats 2000000 in
theorem pairs_any (ao : Option Addr) (cap : Nat) (L : List Rg) (w : World) (hB : RE.Rd w ao L) (hc : L.length ≤ cap) (hcm : cap ≤ 9223372036854775807) (Q : List Pr) (hQ : Hid (pairsR L = Q)) :
    Calls Try.prog 15 #[.slice ao L.length cap] w fun e w' => ∃ ro rc, e = .returned (.slice ro Q.length rc) ∧ PE.Own w' ro rc Q ∧ w.grownBy w' none := by
  have hB0 : Hid (RE.Rd w ao L) := hB
  clear hB
  obtain ⟨E, hE⟩ : ∃ E, Hid (checkR L = E) := ⟨_, (rfl : checkR L = checkR L)⟩
  by_cases hE0 : E = 0
  · subst hE0
    obtain ⟨k1, k2, k3⟩ := checkR_ok.1 hE.out
    have Hk : Hid (okFrom (-1) L = true) := k2
    have Hlen : Hid ((pairsOf L).length ≤ 65536) := (by have := pairsOf_length k2; omega : (pairsOf L).length ≤ 65536)
    have HQ : Hid (pairsOf L = Q) := (by rw [← hQ.out]; simp [pairsR, hE.out] : pairsOf L = Q)
    clear k2 k3 hQ
    go_enter Try.func15, Try.ntmps15
    go_wp2_with (go_at_call 13; refine (check_any _ _ L _ hB0.out hc hcm 0 hE).mono ?_; rintro e w1 ⟨rfl, hg1⟩)
    have Hg1 : Hid (w.grownBy w1 none) := hg1
    clear hg1
    go_loopw [3, 12] (fun t3 t12 wx => ∃ (i rc : Nat) (bf : Int) (ro : Option Addr) (P : List Pr), i ≤ L.length ∧ t12 = .int .i64 (i : Int) ∧ t3 = .slice ro P.length rc ∧ Hid (okFrom bf (L.drop i) = true) ∧ Hid (PE.Own wx ro rc P) ∧ Hid (∀ g, blk ro = some g → w.heap.size ≤ g) ∧ Hid (P ++ pairsOf (L.drop i) = pairsOf L) ∧ Hid (w.grownBy wx none)) (fun _ t12 _ => L.length - (intOf t12).toNat)
    case atStart => exact ⟨0, 0, -1, none, [], by omega, rfl, rfl, Hk, .inl ⟨rfl, rfl, rfl⟩, (by simp [blk] : ∀ g, blk none = some g → w.heap.size ≤ g), (by simp : [] ++ pairsOf (L.drop 0) = pairsOf L), Hg1⟩
    case round =>
      obtain ⟨i, rc, bf, ro, P, hil, rfl, rfl, hok, ho, hro, heq, hgx⟩ := hrel
      by_cases hlt : i < L.length
      · obtain ⟨f, t, a, he⟩ : ∃ f t a, L[i] = (f, t, a) := ⟨_, _, _, rfl⟩
        obtain ⟨b, o, rfl, hb, x0, x1, x2⟩ := rcells (hB0.out.kept0 hgx.out) hlt he
        have hd := drop_at hlt he
        rw [hd] at hok heq
        obtain ⟨g1, g2, g3⟩ := okFrom_cons.1 hok.out
        obtain ⟨⟨r1, r2, r3⟩, r4, r5, r6⟩ := rightR_iff.1 g1
        have Hok : Hid (okFrom t (L.drop (i + 1)) = true) := g3
        obtain ⟨N, hN2⟩ : ∃ N : Nat, t = f + (N : Int) - 1 := ⟨cnt (f, t, a), by simp only [cnt]; omega⟩
        subst hN2
        have hN : cnt (f, f + (N : Int) - 1, a) = N := by simp only [cnt]; omega
        have Heq : Hid (P ++ (run f a N ++ pairsOf (L.drop (i + 1))) = pairsOf L) := (by rw [← heq.out]; simp only [pairsOf, hN] : P ++ (run f a N ++ pairsOf (L.drop (i + 1))) = pairsOf L)
        have hlt' : (i : Int) < (L.length : Int) := by omega
        clear hd he hok heq g1 g2 g3 hN
        obtain ⟨wA, rfl⟩ : ∃ z, z = wr := ⟨_, rfl⟩
        go_wp2
        have HB : Hid ((wA.alloc (Obj.cells #[Value.int IntKind.i64 f, Value.int IntKind.i64 (f + (N : Int) - 1), Value.int IntKind.i32 a] 44)).heap[wA.heap.size]? = some (.cells #[Value.int IntKind.i64 f, Value.int IntKind.i64 (f + (N : Int) - 1), Value.int IntKind.i32 a] 44 (0, 0))) := heap_alloc_new _ _
        have ho1 : Hid (PE.Own (wA.alloc (Obj.cells #[Value.int IntKind.i64 f, Value.int IntKind.i64 (f + (N : Int) - 1), Value.int IntKind.i32 a] 44)) ro rc P) := ho.out.alloc _
        have hg1 : Hid (w.grownBy (wA.alloc (Obj.cells #[Value.int IntKind.i64 f, Value.int IntKind.i64 (f + (N : Int) - 1), Value.int IntKind.i32 a] 44)) none) := ga hgx.out
        clear ho hgx
        generalize wA.alloc (Obj.cells #[Value.int IntKind.i64 f, Value.int IntKind.i64 (f + (N : Int) - 1), Value.int IntKind.i32 a] 44) = wz at *
        generalize wA.heap.size = B at *
        clear x0 x1 x2
        go_loopw [3, 6] (fun t3 t6 wy => ∃ (k rc : Nat) (ro : Option Addr) (P : List Pr), k ≤ N ∧ t6 = .int .i64 (f + (k : Int)) ∧ t3 = .slice ro P.length rc ∧ Hid (PE.Own wy ro rc P) ∧ Hid (∀ g, blk ro = some g → w.heap.size ≤ g) ∧ Hid (P ++ (run (f + (k : Int)) (a + (k : Int)) (N - k) ++ pairsOf (L.drop (i + 1))) = pairsOf L) ∧ Hid (w.grownBy wy none) ∧ Hid (wy.heap[B]? = some (.cells #[Value.int IntKind.i64 f, Value.int IntKind.i64 (f + (N : Int) - 1), Value.int IntKind.i32 a] 44 (0, 0)))) (fun _ t6 _ => (f + (N : Int) - intOf t6).toNat)
        case atStart =>
          refine ⟨0, rc, ro, P, by omega, by simp, rfl, ho1, hro, ?_, hg1, HB⟩
          refine (?_ : P ++ _ = pairsOf L)
          rw [← Heq.out]; simp
        case round =>
          clear ho1 hg1 HB Heq hro
          obtain ⟨k, rc, ro, P, hkN, rfl, rfl, ho, hro, heq, hgx, HB⟩ := hrel
          have l0 := cell_at HB.out 0 (v := .int .i64 f) rfl
          have l1 := cell_at HB.out 1 (v := .int .i64 (f + (N : Int) - 1)) rfl
          have l2 := cell_at HB.out 2 (v := .int .i32 a) rfl
          have hPl : P.length ≤ 65536 := by
            have h1 := congrArg List.length heq.out
            have h2 := Hlen.out
            rw [List.length_append] at h1
            omega
          by_cases hk : k < N
          · have hap := own_apart ho.out HB.out (by decide)
            have Hap : Hid (blk ro ≠ some B) := hap
            clear hap
            have hk1 : f + (k : Int) ≤ f + (N : Int) - 1 := by omega
            go_wp2_with (first | (go_at_call 26; refine (at_any f _ a (f + (k : Int)) (by omega) (by omega) (by omega) (by omega) (by omega) _).mono ?_; rintro e w2 ⟨rfl, hg2⟩) | (at_builtin; refine wpList_pair _ rfl _ _ rfl _ _ P rfl ((ho.out.kept0 hg2).alloc _) _ rfl [(f + (k : Int), a + (f + (k : Int) - f))] (src_pair1 _ _ _) (by simp; omega) (P ++ [(f + (k : Int), a + (f + (k : Int) - f))]) rfl ?_; intro ro' rc' w3 ho' hg3 hat))
            go_roundw
            case rel =>
              have k1 : w.grownBy w2 none := grownBy_trans hgx.out hg2
              refine ⟨k + 1, rc', ro', _, by omega, by go_num, by simp, ho', ?_, ?_, ?_, ?_⟩
              · refine (?_ : ∀ g, blk ro' = some g → w.heap.size ≤ g)
                exact newer hro.out (by have := k1.size; simp; omega) hat
              · refine (?_ : _ = pairsOf L)
                have h0 := heq.out
                rw [show N - k = (N - (k + 1)) + 1 by omega] at h0
                have h1 := run_more h0
                rw [← h1, show a + (f + (k : Int) - f) = a + (k : Int) by omega, show f + ((k + 1 : Nat) : Int) = f + (k : Int) + 1 by omega, show a + ((k + 1 : Nat) : Int) = a + (k : Int) + 1 by omega]
              · refine (?_ : w.grownBy w3 none)
                exact grownBy_new (ga k1) hg3 (fun g e => hro.out g e)
              · refine (?_ : w3.heap[B]? = _)
                have h2 := blk_kept HB.out hg2
                rw [hg3.block B (by simp; have := lt_of_block h2; omega) (fun e => Hap.out e.symm)]
                exact res_alloc h2 _
            case measure => simp [intOf]; omega
          · obtain rfl : k = N := by omega
            have hk1 : ¬ f + (k : Int) ≤ f + (k : Int) - 1 := by omega
            go_wp2
            go_roundw
            case rel =>
              refine ⟨i + 1, rc, _, ro, P, by omega, by go_num, rfl, Hok, ho, hro, ?_, hgx⟩
              refine (?_ : P ++ pairsOf (L.drop (i + 1)) = pairsOf L)
              rw [← heq.out]; simp [run]
            case measure => simp [intOf]; omega
      · obtain rfl : i = L.length := by omega
        have hP : Hid (P = Q) := (by rw [← HQ.out, ← heq.out, List.drop_length]; simp [pairsOf] : P = Q)
        go_wp2
        obtain rfl := hP.out
        go_ret
        exact ⟨ro, rc, rfl, ho.out, hgx.out⟩
  · have hQ2 : Q = [] := by rw [← hQ.out]; simp [pairsR, hE.out, hE0]
    subst hQ2
    have hE1 : (E == 0) = false := by simpa using hE0
    go_enter Try.func15, Try.ntmps15
    go_wp2_with (go_at_call 13; refine (check_any _ _ L _ hB0.out hc hcm E hE).mono ?_; rintro e w1 ⟨rfl, hg1⟩)
    go_ret
    exact ⟨none, 0, rfl, .inl ⟨rfl, rfl, rfl⟩, hg1⟩
end Go.Proofs.Ytdeohnnepifjaaa.Rn
