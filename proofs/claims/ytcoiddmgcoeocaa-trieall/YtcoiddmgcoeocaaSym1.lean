/- symMerge where one side is one entry: walks. -/
import Derived.Test.YtcoiddmgcoeocaaIns
import Derived.Test.YtcoiddmgcoeocaaRot
import Derived.Deep.Cut
namespace Go.Proofs.Ytcoiddmgcoeocaa.Tr
open Go.ChangeShapes Go.WideShapes Go.ChangeAt Go.RowKit Go.Maps Go.Proofs.Ytcoiddmgcoeocaa.Mem Go.Proofs.Ytcoiddmgcoeocaa.El Go.Sort
set_option linter.unusedVariables false
set_option linter.unusedSimpArgs false

theorem take_lt {V : List Pr} {u : Pr} (h : SL V) {k : Nat} (hk : k < V.length) (hu : lx V[k] u) : ∀ y ∈ V.take (k + 1), lx y u := by
  intro y hy
  rw [List.take_succ_eq_append_getElem hk] at hy
  rcases List.mem_append.1 hy with hy | hy
  · have h2 : SL (V.take k ++ V.drop k) := by rw [List.take_append_drop]; exact h
    exact lx_trans (sl_cross h2 y hy V[k] (by rw [List.drop_eq_getElem_cons hk]; exact List.mem_cons_self)) hu
  · rw [List.mem_singleton.1 hy]; exact hu
theorem drop_gt {V : List Pr} {u : Pr} (h : SL V) {k : Nat} (hk : k < V.length) (hu : lx u V[k]) : ∀ y ∈ V.drop k, lx u y := by
  intro y hy
  rw [List.drop_eq_getElem_cons hk] at hy
  rcases List.mem_cons.1 hy with rfl | hy
  · exact hu
  · have h2 : SL (V.drop k) := by
      have : SL (V.take k ++ V.drop k) := by rw [List.take_append_drop]; exact h
      exact sl_right this
    rw [List.drop_eq_getElem_cons hk] at h2
    exact lx_trans hu ((List.pairwise_cons.1 h2).1 y hy)
theorem at_mid {X V Y : List Pr} {k : Nat} (hk : k < V.length) {i : Nat} (hi : X.length + k = i) : at_ (X ++ V ++ Y) i = V[k] := by
  subst hi
  unfold at_
  rw [List.getD_eq_getElem?_getD, List.getElem?_append_left (by simp; omega), List.getElem?_append_right (by omega), Nat.add_sub_cancel_left, List.getElem?_eq_getElem hk]
  rfl
/-- What a test of two entries reads. -/
theorem SW.reads {w0 W : World} {g : Nat} {L : List Pr} (h : SW w0 g L W) {i : Nat} (hi : i < L.length) {c v : Int} (hx : at_ L i = (c, v)) : (∀ n os, (grow (W.drewN n) os).cell? ⟨g, i * 2, none⟩ = some (.int .i64 c)) ∧ (∀ n os, (grow (W.drewN n) os).cell? ⟨g, i * 2 + 1, none⟩ = some (.int .i32 v)) := by
  refine ⟨fun n os => ?_, fun n os => ?_⟩
  · have := ((h.grown n os).cell hi).1; rwa [hx] at this
  · have := ((h.grown n os).cell hi).2; rwa [hx] at this

set_option maxRecDepth 100000 in
set_option maxHeartbeats 4000000 in
theorem sym_one (g a b N : Nat) (X V Y : List Pr) (u : Pr) (w0 w : World) (h : SW w0 g (X ++ u :: (V ++ Y)) w) (hN : (X ++ u :: (V ++ Y)).length = N) (hN2 : N ≤ 70000) (ha : X.length = a) (m : Nat) (hm : a + 1 = m) (hb : m + V.length = b) (hV : SL V) (hc : Cross [u] V) :
    Calls Try.prog 54 #[.slice (some ⟨g, 0, none⟩) N N, .int .i64 (a : Int), .int .i64 (m : Int), .int .i64 (b : Int), .func (.func 40) #[] #[]] w fun e w' => e = .returned (.tuple #[]) ∧ ∃ Z, SW w0 g (X ++ Z ++ Y) w' ∧ Z.Perm (u :: V) ∧ SL Z := by
  have h0 := Hid.mk' h
  have ha0 := Hid.mk' ha
  have hV0 := Hid.mk' hV
  have hc0 := Hid.mk' hc
  have hbV := Hid.mk' hb
  have hbN : b ≤ N := by rw [← hN, ← hb, ← hm, ← ha]; simp only [List.length_append, List.length_cons]; omega
  have hN0 := Hid.mk' hN
  have hmb : m ≤ b := by omega
  have e1 : (m : Int) - (a : Int) = 1 := by omega
  have ea : Hid (at_ (X ++ u :: (V ++ Y)) a = u) := Hid.mk' (at_append ha)
  have mixed := mixed
  clear h hN ha hV hc hb
  go_enter Try.func54, Try.ntmps54
  go_wp2_with fail
  go_loopw [10, 11] (fun t10 t11 wx => ∃ (i j : Nat), m ≤ i ∧ i ≤ j ∧ j ≤ b ∧ t10 = .int .i64 (i : Int) ∧ t11 = .int .i64 (j : Int) ∧ Hid (∀ y ∈ V.take (i - m), lx y u) ∧ Hid (∀ y ∈ V.drop (j - m), lx u y) ∧ Hid (SW w0 g (X ++ u :: (V ++ Y)) wx)) (fun t10 t11 _ => (intOf t11 - intOf t10).toNat)
  case atStart => exact ⟨m, b, by omega, hmb, by omega, rfl, rfl, Hid.mk' (by simp), Hid.mk' (by rw [List.drop_of_length_le (by have := hbV.out; omega)]; simp), h0⟩
  case round =>
    obtain ⟨i, j, hmi, hij, hjb, rfl, rfl, hi1, hj1, hS⟩ := hrel
    clear h0
    by_cases hlt : i < j
    · obtain ⟨h, hh⟩ : ∃ h, Hid ((i + j) / 2 = h) := ⟨_, Hid.mk' rfl⟩
      have hh1 : i ≤ h := by have := hh.out; omega
      have hh2 : h < j := by have := hh.out; omega
      have hd : ((i : Int) + (j : Int)) / 2 = (h : Int) := by have := hh.out; omega
      have hltz : (i : Int) < (j : Int) := by omega
      have hkV : h - m < V.length := by have := hbV.out; omega
      obtain ⟨v, hv⟩ : ∃ v, v = V[h - m] := ⟨_, rfl⟩
      have ev : at_ (X ++ u :: (V ++ Y)) h = v := by
        rw [show X ++ u :: (V ++ Y) = (X ++ [u]) ++ V ++ Y by simp, hv]
        exact at_mid hkV (by simp only [List.length_append, ha0.out, List.length_cons, List.length_nil]; omega)
      have hmem : Hid (u.1 = v.1 → u.2 < v.2) := Hid.mk' (hc0.out u (by simp) v (by rw [hv]; exact List.getElem_mem hkV))
      have o1 : Hid (lx v u → ∀ y ∈ V.take (h + 1 - m), lx y u) := Hid.mk' (fun hl => by rw [show h + 1 - m = (h - m) + 1 by omega]; exact take_lt hV0.out hkV (hv ▸ hl))
      have o2 : Hid (lx u v → ∀ y ∈ V.drop (h - m), lx u y) := Hid.mk' (fun hl => drop_gt hV0.out hkV (hv ▸ hl))
      have hlN : h < (X ++ u :: (V ++ Y)).length := by rw [hN0.out]; omega
      have haN : a < (X ++ u :: (V ++ Y)).length := by rw [hN0.out]; omega
      obtain ⟨ua, ub⟩ := u
      obtain ⟨va, vb⟩ := v
      obtain ⟨cv, cv1⟩ := hS.out.reads hlN ev
      obtain ⟨cu, cu1⟩ := hS.out.reads haN ea.out
      have z1 : (h : Int) < (N : Int) := by omega
      have z2 : (a : Int) < (N : Int) := by omega
      have z3 : (0 : Int) ≤ (h : Int) := by omega
      have z4 : (0 : Int) ≤ (a : Int) := by omega
      clear hv ev hlN haN hkV
      by_cases hl : va < ua
      · have hcv := Hid.mk' (cmpI_lt hl)
        have q1 := Hid.mk' (o1.out (lt_lx hl))
        go_wp2_with fail
        go_quiet_grown (first | (go_at_call 40; exact cmp_grown _ _ _ _ _ hcv.out _ _ _))
        have hS3 := Hid.mk' (hS.out.grown nq osq)
        clear cv cv1 cu cu1 hS
        generalize grow (wr.drewN nq) osq = w3 at *
        go_wp2_with fail
        go_roundw
        case rel => exact ⟨h + 1, j, by omega, by omega, hjb, by go_num, rfl, q1, hj1, hS3⟩
        case measure => simp [intOf]; omega
      · obtain ⟨v, hv, hv0, hv1⟩ := cmpI_ge hl
        have hcv := Hid.mk' hv
        have hvn : ¬ v < 0 := by omega
        have hvd : decide (v < 0) = false := decide_eq_false hvn
        clear hv
        have q1 := Hid.mk' (o2.out (not_lt_lx hl hmem.out))
        go_wp2_with fail
        go_quiet_grown (first | (go_at_call 40; exact cmp_grown _ _ _ _ _ hcv.out _ _ _))
        have hS3 := Hid.mk' (hS.out.grown nq osq)
        clear cv cv1 cu cu1 hS
        generalize grow (wr.drewN nq) osq = w3 at *
        go_wp2_with fail
        go_roundw
        case rel => exact ⟨i, h, by omega, by omega, by omega, rfl, rfl, hi1, q1, hS3⟩
        case measure => simp [intOf]; omega
    · obtain rfl : i = j := by omega
      have hfin : Hid (SL (V.take (i - m) ++ u :: V.drop (i - m))) := Hid.mk' (sl_insert (by rw [List.take_append_drop]; exact hV0.out) hi1.out hj1.out)
      have hper : Hid ((V.take (i - m) ++ u :: V.drop (i - m)).Perm (u :: V)) := Hid.mk' (by
        have := List.perm_middle (a := u) (l₁ := V.take (i - m)) (l₂ := V.drop (i - m))
        rwa [List.take_append_drop] at this)
      have hltz : ¬ (i : Int) < (i : Int) := by omega
      go_wp2_with fail
      go_loopw [13] (fun t13 wx => ∃ (k : Nat), a ≤ k ∧ k + 1 ≤ i ∧ t13 = .int .i64 (k : Int) ∧ Hid (SW w0 g (X ++ V.take (k - a) ++ u :: (V.drop (k - a) ++ Y)) wx)) (fun t13 _ => i - (intOf t13).toNat)
      case atStart => exact ⟨a, by omega, by omega, rfl, Hid.mk' (by have := hS.out; simpa using this)⟩
      case round =>
        obtain ⟨k, hak, hki, rfl, hS1⟩ := hrel
        by_cases hk : k + 1 < i
        · have hkV : k - a < V.length := by have := hbV.out; omega
          obtain ⟨v, hv⟩ : ∃ v, v = V[k - a] := ⟨_, rfl⟩
          have hdv : V.drop (k - a) = v :: V.drop (k + 1 - a) := by rw [hv, List.drop_eq_getElem_cons hkV]; congr 2; omega
          have htv : V.take (k - a) ++ [v] = V.take (k + 1 - a) := by rw [hv, show k + 1 - a = (k - a) + 1 by omega, List.take_succ_eq_append_getElem hkV]
          have hS2 : Hid (SW w0 g ((X ++ V.take (k - a)) ++ u :: v :: (V.drop (k + 1 - a) ++ Y)) wr) := Hid.mk' (by have := hS1.out; rw [hdv] at this; simpa using this)
          have hln : k + 1 < ((X ++ V.take (k - a)) ++ u :: v :: (V.drop (k + 1 - a) ++ Y)).length := by
            simp only [List.length_append, List.length_cons, List.length_take, ha0.out]; omega
          have hlk : (X ++ V.take (k - a)).length = k := by rw [List.length_append, ha0.out, List.length_take]; omega
          have eu : at_ ((X ++ V.take (k - a)) ++ u :: v :: (V.drop (k + 1 - a) ++ Y)) k = u := at_append hlk
          have ew : at_ ((X ++ V.take (k - a)) ++ u :: v :: (V.drop (k + 1 - a) ++ Y)) (k + 1) = v := at_app2 hlk
          have hE : Hid (swp ((X ++ V.take (k - a)) ++ u :: v :: (V.drop (k + 1 - a) ++ Y)) k (k + 1) = X ++ V.take (k + 1 - a) ++ u :: (V.drop (k + 1 - a) ++ Y)) := Hid.mk' (by
            have := swp_adj' (X ++ V.take (k - a)) (V.drop (k + 1 - a) ++ Y) u v
            rw [hlk] at this
            rw [this, ← htv]
            simp)
          obtain ⟨c0, c1⟩ := hS2.out.cell (i := k) (by omega)
          obtain ⟨d0, d1⟩ := hS2.out.cell (i := k + 1) hln
          have hf := hS2.out.free (List.ne_nil_of_length_pos (by omega))
          rw [eu] at c0 c1
          rw [ew] at d0 d1
          obtain ⟨ua, ub⟩ := u
          obtain ⟨va, vb⟩ := v
          have hS4 := Hid.mk' (hS2.out.swap (p := k) (q := k + 1) (by omega) hln eu ew)
          rw [hE.out] at hS4
          simp only at c0 c1 d0 d1
          have n1 : ¬ k = k + 1 := by omega
          have n2 : ¬ k * 2 = (k + 1) * 2 + 1 := by omega
          have n3 : ¬ k * 2 + 1 = (k + 1) * 2 := by omega
          have n4 : ¬ (k + 1) * 2 = k * 2 + 1 := by omega
          have n5 : ¬ (k + 1) * 2 + 1 = k * 2 := by omega
          have z1 : (k : Int) < (N : Int) := by omega
          have z2 : (k : Int) + 1 < (N : Int) := by omega
          have z3 : (0 : Int) ≤ (k : Int) := by omega
          have z4 : (0 : Int) ≤ (k : Int) + 1 := by omega
          have z5 : ((k : Int) + 1).toNat = k + 1 := by omega
          have z6 : IntKind.i64.wrap ((k : Int) + 1) = (k : Int) + 1 := by rw [IntKind.wrap_i64]; omega
          have z7 : (k : Int) < (i : Int) - 1 := by omega
          clear hv hdv htv hkV hln hlk eu ew hS1 hS2 hE
          go_wp2_with fail
          go_big_region
          go_wp2_with fail
          go_roundw
          case rel => exact ⟨k + 1, by omega, by omega, by go_num, hS4⟩
          case measure => simp [intOf]; omega
        · have z7 : ¬ (k : Int) < (i : Int) - 1 := by omega
          have hka : k - a = i - m := by omega
          rw [hka] at hS1
          go_wp2_with fail
          (try simp only [Exit.inBlock, Exit.then]); refine bodyPost_ret (results_none rfl _ _ _) rfl ?_
          refine ⟨rfl, V.take (i - m) ++ u :: V.drop (i - m), ?_, hper.out, hfin.out⟩
          have := hS1.out
          simpa using this

set_option maxRecDepth 100000 in
set_option maxHeartbeats 4000000 in
theorem sym_last (g a b N : Nat) (X U Y : List Pr) (v : Pr) (w0 w : World) (h : SW w0 g (X ++ U ++ v :: Y) w) (hN : (X ++ U ++ v :: Y).length = N) (hN2 : N ≤ 70000) (ha : X.length = a) (m : Nat) (hm : a + U.length = m) (hb : m + 1 = b) (hU : SL U) (hU1 : U.length ≠ 1) (hc : Cross U [v]) :
    Calls Try.prog 54 #[.slice (some ⟨g, 0, none⟩) N N, .int .i64 (a : Int), .int .i64 (m : Int), .int .i64 (b : Int), .func (.func 40) #[] #[]] w fun e w' => e = .returned (.tuple #[]) ∧ ∃ Z, SW w0 g (X ++ Z ++ Y) w' ∧ Z.Perm (U ++ [v]) ∧ SL Z := by
  have h0 := Hid.mk' h
  have ha0 := Hid.mk' ha
  have hU0 := Hid.mk' hU
  have hc0 := Hid.mk' hc
  have hmU := Hid.mk' hm
  have hbN : b ≤ N := by rw [← hN, ← hb, ← hm, ← ha]; simp only [List.length_append, List.length_cons]; omega
  have hN0 := Hid.mk' hN
  have ham : a ≤ m := by omega
  have e1 : ((m : Int) - (a : Int) == 1) = false := by simp; omega
  have e1' : ¬ (m : Int) - (a : Int) = 1 := by omega
  have e2 : (b : Int) - (m : Int) = 1 := by omega
  have em : Hid (at_ (X ++ U ++ v :: Y) m = v) := Hid.mk' (at_append (by rw [List.length_append, ha, hm]))
  have mixed := mixed
  clear h hN ha hU hc hm hU1
  go_enter Try.func54, Try.ntmps54
  go_wp2_with fail
  go_loopw [14, 15] (fun t14 t15 wx => ∃ (i j : Nat), a ≤ i ∧ i ≤ j ∧ j ≤ m ∧ t14 = .int .i64 (i : Int) ∧ t15 = .int .i64 (j : Int) ∧ Hid (∀ y ∈ U.take (i - a), lx y v) ∧ Hid (∀ y ∈ U.drop (j - a), lx v y) ∧ Hid (SW w0 g (X ++ U ++ v :: Y) wx)) (fun t14 t15 _ => (intOf t15 - intOf t14).toNat)
  case atStart => exact ⟨a, m, by omega, ham, by omega, rfl, rfl, Hid.mk' (by simp), Hid.mk' (by rw [List.drop_of_length_le (by have := hmU.out; omega)]; simp), h0⟩
  case round =>
    obtain ⟨i, j, hmi, hij, hjb, rfl, rfl, hi1, hj1, hS⟩ := hrel
    clear h0
    by_cases hlt : i < j
    · obtain ⟨h, hh⟩ : ∃ h, Hid ((i + j) / 2 = h) := ⟨_, Hid.mk' rfl⟩
      have hh1 : i ≤ h := by have := hh.out; omega
      have hh2 : h < j := by have := hh.out; omega
      have hd : ((i : Int) + (j : Int)) / 2 = (h : Int) := by have := hh.out; omega
      have hltz : (i : Int) < (j : Int) := by omega
      have hkU : h - a < U.length := by have := hmU.out; omega
      obtain ⟨u, hu⟩ : ∃ u, u = U[h - a] := ⟨_, rfl⟩
      have eu : at_ (X ++ U ++ v :: Y) h = u := by
        rw [hu]
        exact at_mid hkU (by rw [ha0.out]; omega)
      have hmem : Hid (u.1 = v.1 → u.2 < v.2) := Hid.mk' (hc0.out u (by rw [hu]; exact List.getElem_mem hkU) v (by simp))
      have o1 : Hid (lx u v → ∀ y ∈ U.take (h + 1 - a), lx y v) := Hid.mk' (fun hl => by rw [show h + 1 - a = (h - a) + 1 by omega]; exact take_lt hU0.out hkU (hu ▸ hl))
      have o2 : Hid (lx v u → ∀ y ∈ U.drop (h - a), lx v y) := Hid.mk' (fun hl => drop_gt hU0.out hkU (hu ▸ hl))
      have hlN : h < (X ++ U ++ v :: Y).length := by rw [hN0.out]; omega
      have hmN : m < (X ++ U ++ v :: Y).length := by rw [hN0.out]; omega
      obtain ⟨ua, ub⟩ := u
      obtain ⟨va, vb⟩ := v
      obtain ⟨cu, cu1⟩ := hS.out.reads hlN eu
      obtain ⟨cv, cv1⟩ := hS.out.reads hmN em.out
      have z1 : (h : Int) < (N : Int) := by omega
      have z2 : (m : Int) < (N : Int) := by omega
      have z3 : (0 : Int) ≤ (h : Int) := by omega
      have z4 : (0 : Int) ≤ (m : Int) := by omega
      clear hu eu hlN hmN hkU
      by_cases hl : va < ua
      · have hcv := Hid.mk' (cmpI_lt hl)
        have q1 := Hid.mk' (o2.out (lt_lx hl))
        go_wp2_with fail
        go_quiet_grown (first | (go_at_call 40; exact cmp_grown _ _ _ _ _ hcv.out _ _ _))
        have hS3 := Hid.mk' (hS.out.grown nq osq)
        clear cv cv1 cu cu1 hS
        generalize grow (wr.drewN nq) osq = w3 at *
        go_wp2_with fail
        go_roundw
        case rel => exact ⟨i, h, by omega, by omega, by omega, rfl, rfl, hi1, q1, hS3⟩
        case measure => simp [intOf]; omega
      · obtain ⟨v, hv, hv0, hv1⟩ := cmpI_ge hl
        have hcv := Hid.mk' hv
        have hvn : ¬ v < 0 := by omega
        have hvd : decide (v < 0) = false := decide_eq_false hvn
        clear hv
        have q1 := Hid.mk' (o1.out (not_lt_lx hl hmem.out))
        go_wp2_with fail
        go_quiet_grown (first | (go_at_call 40; exact cmp_grown _ _ _ _ _ hcv.out _ _ _))
        have hS3 := Hid.mk' (hS.out.grown nq osq)
        clear cv cv1 cu cu1 hS
        generalize grow (wr.drewN nq) osq = w3 at *
        go_wp2_with fail
        go_roundw
        case rel => exact ⟨h + 1, j, by omega, by omega, hjb, by go_num, rfl, q1, hj1, hS3⟩
        case measure => simp [intOf]; omega
    · obtain rfl : i = j := by omega
      have hfin : Hid (SL (U.take (i - a) ++ v :: U.drop (i - a))) := Hid.mk' (sl_insert (by rw [List.take_append_drop]; exact hU0.out) hi1.out hj1.out)
      have hper : Hid ((U.take (i - a) ++ v :: U.drop (i - a)).Perm (U ++ [v])) := Hid.mk' (by
        have := List.perm_middle (a := v) (l₁ := U.take (i - a)) (l₂ := U.drop (i - a))
        rw [List.take_append_drop] at this
        exact this.trans (List.perm_append_singleton v U).symm)
      have hltz : ¬ (i : Int) < (i : Int) := by omega
      go_wp2_with fail
      go_loopw [17] (fun t17 wx => ∃ (k : Nat), i ≤ k ∧ k ≤ m ∧ t17 = .int .i64 (k : Int) ∧ Hid (SW w0 g (X ++ U.take (k - a) ++ v :: (U.drop (k - a) ++ Y)) wx)) (fun t17 _ => (intOf t17).toNat)
      case atStart => exact ⟨m, by omega, by omega, rfl, Hid.mk' (by have := hS.out; rw [show m - a = U.length by have := hmU.out; omega]; simpa using this)⟩
      case round =>
        obtain ⟨k, hik, hkm, rfl, hS1⟩ := hrel
        by_cases hk : i < k
        · obtain ⟨kp, rfl⟩ : ∃ kp, k = kp + 1 := ⟨k - 1, by omega⟩
          have hkU : kp - a < U.length := by have := hmU.out; omega
          obtain ⟨u, hu⟩ : ∃ u, u = U[kp - a] := ⟨_, rfl⟩
          have hdv : U.drop (kp - a) = u :: U.drop (kp + 1 - a) := by rw [hu, List.drop_eq_getElem_cons hkU]; congr 2; omega
          have htv : U.take (kp + 1 - a) = U.take (kp - a) ++ [u] := by rw [hu, show kp + 1 - a = (kp - a) + 1 by omega, List.take_succ_eq_append_getElem hkU]
          have hS2 : Hid (SW w0 g ((X ++ U.take (kp - a)) ++ u :: v :: (U.drop (kp + 1 - a) ++ Y)) wr) := Hid.mk' (by have := hS1.out; rw [htv] at this; simpa using this)
          have hln : kp + 1 < ((X ++ U.take (kp - a)) ++ u :: v :: (U.drop (kp + 1 - a) ++ Y)).length := by
            simp only [List.length_append, List.length_cons, List.length_take, ha0.out]; omega
          have hlk : (X ++ U.take (kp - a)).length = kp := by rw [List.length_append, ha0.out, List.length_take]; omega
          have eu : at_ ((X ++ U.take (kp - a)) ++ u :: v :: (U.drop (kp + 1 - a) ++ Y)) kp = u := at_append hlk
          have ew : at_ ((X ++ U.take (kp - a)) ++ u :: v :: (U.drop (kp + 1 - a) ++ Y)) (kp + 1) = v := at_app2 hlk
          have hE : Hid (swp ((X ++ U.take (kp - a)) ++ u :: v :: (U.drop (kp + 1 - a) ++ Y)) (kp + 1) kp = X ++ U.take (kp - a) ++ v :: (U.drop (kp - a) ++ Y)) := Hid.mk' (by
            have := swp_adj (X ++ U.take (kp - a)) (U.drop (kp + 1 - a) ++ Y) u v
            rw [hlk] at this
            rw [this, hdv]
            simp)
          obtain ⟨c0, c1⟩ := hS2.out.cell (i := kp) (by omega)
          obtain ⟨d0, d1⟩ := hS2.out.cell (i := kp + 1) hln
          have hf := hS2.out.free (List.ne_nil_of_length_pos (by omega))
          rw [eu] at c0 c1
          rw [ew] at d0 d1
          obtain ⟨ua, ub⟩ := u
          obtain ⟨va, vb⟩ := v
          have hS4 := Hid.mk' (hS2.out.swap (p := kp + 1) (q := kp) hln (by omega) ew eu)
          rw [hE.out] at hS4
          simp only at c0 c1 d0 d1
          have n1 : ¬ kp = kp + 1 := by omega
          have n2 : ¬ kp * 2 = (kp + 1) * 2 + 1 := by omega
          have n3 : ¬ kp * 2 + 1 = (kp + 1) * 2 := by omega
          have n4 : ¬ (kp + 1) * 2 = kp * 2 + 1 := by omega
          have n5 : ¬ (kp + 1) * 2 + 1 = kp * 2 := by omega
          have z1 : (kp : Int) < (N : Int) := by omega
          have z2 : (kp : Int) + 1 < (N : Int) := by omega
          have z3 : (0 : Int) ≤ (kp : Int) := by omega
          have z4 : (0 : Int) ≤ (kp : Int) + 1 := by omega
          have z5 : ((kp : Int) + 1).toNat = kp + 1 := by omega
          have z6 : IntKind.i64.wrap (kp : Int) = (kp : Int) := by rw [IntKind.wrap_i64]; omega
          have z8 : (kp : Int) + 1 - 1 = (kp : Int) := by omega
          have z7 : (i : Int) < (kp : Int) + 1 := by omega
          clear hu hdv htv hkU hln hlk eu ew hS1 hS2 hE
          go_wp2_with fail
          go_big_region
          go_wp2_with fail
          go_roundw
          case rel => exact ⟨kp, by omega, by omega, by go_num, hS4⟩
          case measure => simp [intOf]
        · obtain rfl : k = i := by omega
          have z7 : ¬ (k : Int) < (k : Int) := by omega
          go_wp2_with fail
          (try simp only [Exit.inBlock, Exit.then]); refine bodyPost_ret (results_none rfl _ _ _) rfl ?_
          refine ⟨rfl, U.take (k - a) ++ v :: U.drop (k - a), ?_, hper.out, hfin.out⟩
          have := hS1.out
          simpa using this
end Go.Proofs.Ytcoiddmgcoeocaa.Tr
