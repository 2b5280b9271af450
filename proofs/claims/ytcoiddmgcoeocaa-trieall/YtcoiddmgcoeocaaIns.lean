/- The comparison, and insertion: walks. -/
import Derived.Test.YtcoiddmgcoeocaaLx
namespace Go.Proofs.Ytcoiddmgcoeocaa.Tr
open Go.ChangeShapes Go.WideShapes Go.ChangeAt Go.RowKit Go.Maps Go.Proofs.Ytcoiddmgcoeocaa.Mem Go.Proofs.Ytcoiddmgcoeocaa.El Go.Sort
set_option linter.unusedVariables false
set_option linter.unusedSimpArgs false

def cmpI (x y : Int) : Int := if x < y then -1 else if y < x then 1 else 0
theorem mixed : Try.prog.follows .mixedOrders = true := by kernel_rfl
set_option maxRecDepth 100000 in
set_option maxHeartbeats 1000000 in
theorem cmp_any (xa xb ya yb : Int) (w : World) :
    Calls Try.prog 40 #[.agg #[.int .i64 xa, .int .i32 xb], .agg #[.int .i64 ya, .int .i32 yb]] w fun e w' => e = .returned (.int .i64 (cmpI xa ya)) ∧ ∃ q os, w' = grow (w.drewN q) os := by
  rcases Int.lt_trichotomy xa ya with h | h | h
  · have : cmpI xa ya = -1 := by unfold cmpI; rw [if_pos h]
    rw [this]
    go_enter Try.func40, Try.ntmps40
    go_wp2
    go_ret
    exact ⟨rfl, 0, #[_, _], by rw [alloc_eq_grow, alloc_eq_grow, grow_grow]; rfl⟩
  · subst h
    have : cmpI xa xa = 0 := by unfold cmpI; simp
    rw [this]
    go_enter Try.func40, Try.ntmps40
    go_wp2
    go_ret
    exact ⟨rfl, 0, #[_, _], by rw [alloc_eq_grow, alloc_eq_grow, grow_grow]; rfl⟩
  · have : cmpI xa ya = 1 := by unfold cmpI; rw [if_neg (by omega), if_pos h]
    rw [this]
    have h2 : ¬ xa < ya := by omega
    go_enter Try.func40, Try.ntmps40
    go_wp2
    go_ret
    exact ⟨rfl, 0, #[_, _], by rw [alloc_eq_grow, alloc_eq_grow, grow_grow]; rfl⟩
theorem cmp_grown (xa xb ya yb v : Int) (hv : cmpI xa ya = v) (w : World) (n : Nat) (os : Array Obj) :
    Calls Try.prog 40 #[.agg #[.int .i64 xa, .int .i32 xb], .agg #[.int .i64 ya, .int .i32 yb]] (grow (w.drewN n) os) fun e w'' => e = .returned (.int .i64 v) ∧ ∃ p : GrownBy, w'' = grow (w.drewN p.n) p.os := by
  subst hv
  exact Calls.grown_of (cmp_any xa xb ya yb _)
theorem cmpI_lt {x y : Int} (h : x < y) : cmpI x y = -1 := by unfold cmpI; rw [if_pos h]
theorem cmpI_ge {x y : Int} (h : ¬ x < y) : ∃ v : Int, cmpI x y = v ∧ 0 ≤ v ∧ v ≤ 1 := by
  refine ⟨_, rfl, ?_⟩
  unfold cmpI
  rw [if_neg h]
  split <;> omega

set_option maxRecDepth 100000 in
set_option maxHeartbeats 2000000 in
theorem ins_any (g a b N : Nat) (X S Y : List Pr) (w0 w : World) (h : SW w0 g (X ++ S ++ Y) w) (hN : (X ++ S ++ Y).length = N) (hN2 : N ≤ 70000) (ha : X.length = a) (hb : a + S.length = b) (hst : St S) :
    Calls Try.prog 53 #[.slice (some ⟨g, 0, none⟩) N N, .int .i64 (a : Int), .int .i64 (b : Int), .func (.func 40) #[] #[]] w fun e w' => e = .returned (.tuple #[]) ∧ ∃ S', SW w0 g (X ++ S' ++ Y) w' ∧ S'.Perm S ∧ SL S' := by
  have h0 := Hid.mk' h
  have hN0 := Hid.mk' hN
  have ha0 := Hid.mk' ha
  have hb0 := Hid.mk' hb
  have hst0 := Hid.mk' hst
  have hbN : b ≤ N := by rw [← hN, ← hb, ← ha]; simp only [List.length_append]; omega
  have hab : a ≤ b := by omega
  have mixed := mixed
  clear h hN ha hb hst
  go_enter Try.func53, Try.ntmps53
  go_wp2_with fail
  go_loopw [8] (fun t8 wx => ∃ (i : Nat) (T R : List Pr), a + 1 ≤ i ∧ i ≤ b + 1 ∧ t8 = .int .i64 (i : Int) ∧ Hid (a + T.length = i ∨ S = []) ∧ Hid (SW w0 g (X ++ T ++ R ++ Y) wx) ∧ Hid (SL T) ∧ Hid (∃ S1, T.Perm S1 ∧ S = S1 ++ R)) (fun t8 _ => b + 1 - (intOf t8).toNat)
  case atStart =>
    refine ⟨a + 1, S.take 1, S.drop 1, by omega, by omega, by go_num, Hid.mk' ?_, Hid.mk' ?_, Hid.mk' ?_, Hid.mk' ⟨S.take 1, List.Perm.refl _, (List.take_append_drop 1 S).symm⟩⟩
    · cases S with
      | nil => exact .inr rfl
      | cons x S => exact .inl (by simp)
    · have := h0.out
      rwa [show X ++ S.take 1 ++ S.drop 1 ++ Y = X ++ S ++ Y by rw [List.append_assoc X, List.take_append_drop]]
    · cases S with
      | nil => exact List.Pairwise.nil
      | cons x S => simp [SL]
  case round =>
    obtain ⟨i, T, R, hai, hib, rfl, hT, hS, hTs, hTp⟩ := hrel
    clear h0
    by_cases hlt : i < b
    · have hltz : (i : Int) < (b : Int) := by omega
      have hTi : Hid (a + T.length = i) := Hid.mk' (by
        rcases hT.out with h | h
        · exact h
        · have := hb0.out; rw [h] at this; simp at this; omega)
      obtain ⟨x, R', hR⟩ : ∃ x R', R = x :: R' := by
        cases R with
        | cons x R' => exact ⟨x, R', rfl⟩
        | nil =>
          exfalso
          obtain ⟨S1, hp, hs⟩ := hTp.out
          have h1 := hTi.out
          have h2 := hb0.out
          rw [hs, List.append_nil, ← hp.length_eq] at h2
          omega
      subst hR
      go_wp2_with fail
      go_loopw [9] (fun t9 wx => ∃ (j : Nat) (T1 T2 : List Pr), a ≤ j ∧ j ≤ i ∧ t9 = .int .i64 (j : Int) ∧ Hid (a + T1.length = j) ∧ Hid (T1 ++ T2 = T) ∧ Hid (SW w0 g (X ++ T1 ++ x :: (T2 ++ R' ++ Y)) wx) ∧ Hid (∀ y ∈ T2, lx x y)) (fun t9 _ => (intOf t9).toNat)
      case atStart => exact ⟨i, T, [], by omega, by omega, rfl, hTi, Hid.mk' (by simp), Hid.mk' (by have := hS.out; simpa using this), Hid.mk' (by simp)⟩
      case round =>
        obtain ⟨j, T1, T2, haj, hji, rfl, hT1, hTT, hS1, hT2⟩ := hrel
        clear hS
        have out : (∀ y ∈ T1, lx y x) → Hid (SL (T1 ++ x :: T2)) ∧ Hid (∃ S1, (T1 ++ x :: T2).Perm S1 ∧ S = S1 ++ R') := by
          intro hy
          refine ⟨Hid.mk' (sl_insert (by rw [hTT.out]; exact hTs.out) hy hT2.out), Hid.mk' ?_⟩
          obtain ⟨S1, hp, hs⟩ := hTp.out
          refine ⟨S1 ++ [x], ?_, by rw [hs]; simp⟩
          refine List.perm_middle.trans ?_
          rw [hTT.out]
          exact (List.Perm.cons x hp).trans (List.perm_append_singleton x S1).symm
        have OUT := Hid.mk' out
        have hlen1 : Hid (a + (T1 ++ x :: T2).length = i + 1 ∨ S = []) := Hid.mk' (.inl (by have e1 := hTi.out; rw [← hTT.out] at e1; simp at e1 ⊢; omega))
        have hb2 : Hid (a + T1.length = j) := hT1
        clear out
        rcases List.eq_nil_or_concat T1 with hnil | ⟨T1', z, hz⟩
        · subst hnil
          have hja : j = a := by have := hT1.out; simp at this; omega
          have g1 : decide ((a : Int) < (j : Int)) = false := decide_eq_false (by omega)
          have g2 : ¬ (a : Int) < (j : Int) := by omega
          have g3 : decide (a < j) = false := decide_eq_false (by omega)
          have g4 : ¬ a < j := by omega
          obtain ⟨o1, o2⟩ := OUT.out (by simp)
          clear hT1 OUT hja
          have hS2 := Hid.mk' (hS1.out.kept (grownBy_drew (grownBy_refl wr none)))
          go_wp2_with fail
          go_big_region
          go_wp2_with fail
          go_roundw
          case rel => exact ⟨i + 1, [] ++ x :: T2, R', by omega, by omega, by go_num, hlen1, Hid.mk' (by have := hS2.out; simpa using this), o1, o2⟩
          case measure => simp [intOf]; omega
        · subst hz
          obtain ⟨jp, hjp⟩ : ∃ jp, j = jp + 1 := ⟨j - 1, by have := hT1.out; simp at this; omega⟩
          subst hjp
          have hjx : Hid ((X ++ T1').length = jp) := Hid.mk' (by have := hT1.out; have e2 := ha0.out; simp at this ⊢; omega)
          have hS2 : Hid (SW w0 g ((X ++ T1') ++ z :: x :: (T2 ++ R' ++ Y)) wr) := Hid.mk' (by have := hS1.out; simpa using this)
          have hln : Hid (jp + 1 < ((X ++ T1') ++ z :: x :: (T2 ++ R' ++ Y)).length) := Hid.mk' (by have := hjx.out; simp only [List.length_append, List.length_cons] at this ⊢; omega)
          have ez : Hid (at_ ((X ++ T1') ++ z :: x :: (T2 ++ R' ++ Y)) jp = z) := Hid.mk' (at_append hjx.out)
          have ex : Hid (at_ ((X ++ T1') ++ z :: x :: (T2 ++ R' ++ Y)) (jp + 1) = x) := Hid.mk' (at_app2 hjx.out)
          have hmem : Hid (z.1 = x.1 → z.2 < x.2) := Hid.mk' (by
            obtain ⟨S1, hp, hs⟩ := hTp.out
            have h1 := hst0.out
            rw [hs] at h1
            refine (List.pairwise_append.1 h1).2.2 z (hp.mem_iff.1 ?_) x (by simp)
            rw [← hTT.out]
            simp)
          have g2 : (a : Int) < (jp : Int) + 1 := by have := hT1.out; simp at this; omega
          have g1 : decide ((a : Int) < (jp : Int) + 1) = true := decide_eq_true g2
          have g1' : decide (a < jp + 1) = true := decide_eq_true (by have := hT1.out; simp at this; omega)
          have g2' : a < jp + 1 := by have := hT1.out; simp at this; omega
          have hwp : IntKind.i64.wrap (jp : Int) = (jp : Int) := by rw [IntKind.wrap_i64]; omega
          have hwp1 : IntKind.i64.wrap ((jp : Int) + 1) = (jp : Int) + 1 := by rw [IntKind.wrap_i64]; omega
          have jz : (jp : Int) + 1 < (N : Int) := by omega
          have jz1 : (jp : Int) < (N : Int) := by omega
          have p0 : (0 : Int) ≤ (jp : Int) + 1 := by omega
          have p1 : (0 : Int) ≤ (jp : Int) := by omega
          have e0 : ((jp : Int) + 1).toNat = jp + 1 := by omega
          have e1 : (jp : Int) + 1 - 1 = (jp : Int) := by omega
          have cz : ∀ n os, (grow (wr.drewN n) os).cell? ⟨g, jp * 2, none⟩ = some (.int .i64 z.1) := fun n os => by have := ((hS2.out.grown n os).cell (i := jp) (by have := hln.out; omega)).1; rw [ez.out] at this; exact this
          have cz1 : ∀ n os, (grow (wr.drewN n) os).cell? ⟨g, jp * 2 + 1, none⟩ = some (.int .i32 z.2) := fun n os => by have := ((hS2.out.grown n os).cell (i := jp) (by have := hln.out; omega)).2; rw [ez.out] at this; exact this
          have cx : ∀ n os, (grow (wr.drewN n) os).cell? ⟨g, (jp + 1) * 2, none⟩ = some (.int .i64 x.1) := fun n os => by have := ((hS2.out.grown n os).cell (i := jp + 1) hln.out).1; rw [ex.out] at this; exact this
          have cx1 : ∀ n os, (grow (wr.drewN n) os).cell? ⟨g, (jp + 1) * 2 + 1, none⟩ = some (.int .i32 x.2) := fun n os => by have := ((hS2.out.grown n os).cell (i := jp + 1) hln.out).2; rw [ex.out] at this; exact this
          obtain ⟨za, zb⟩ := z
          obtain ⟨xa, xb⟩ := x
          simp only at cz cz1 cx cx1 hmem
          clear hT1 hS1
          by_cases hxz : xa < za
          · have hcv := Hid.mk' (cmpI_lt hxz)
            go_wp2_with fail
            go_quiet_grown (first | (go_at_call 40; exact cmp_grown _ _ _ _ _ hcv.out _ _ _))
            have hS3 := Hid.mk' (hS2.out.grown nq osq)
            have dz := cz nq osq
            have dz1 := cz1 nq osq
            have dx := cx nq osq
            have dx1 := cx1 nq osq
            have hf := hS3.out.free (List.ne_nil_of_length_pos (by have := hln.out; omega))
            clear cz cz1 cx cx1 hS2
            generalize grow (wr.drewN nq) osq = w3 at *
            have n2 : ¬ jp * 2 = (jp + 1) * 2 + 1 := by omega
            have n3 : ¬ jp * 2 + 1 = (jp + 1) * 2 := by omega
            have n1 : ¬ jp = jp + 1 := by omega
            have hE : Hid (swp ((X ++ T1') ++ (za, zb) :: (xa, xb) :: (T2 ++ R' ++ Y)) (jp + 1) jp = X ++ T1' ++ (xa, xb) :: ((za, zb) :: T2 ++ R' ++ Y)) := Hid.mk' (by
              have := swp_adj (X ++ T1') (T2 ++ R' ++ Y) (za, zb) (xa, xb)
              rw [hjx.out] at this
              rw [this]
              simp)
            go_wp2_with fail
            go_big_region
            have hS4 := Hid.mk' (hS3.out.swap (p := jp + 1) (q := jp) hln.out (by have := hln.out; omega) ex.out ez.out)
            rw [hE.out] at hS4
            go_wp2_with fail
            go_roundw
            case rel => exact ⟨jp, T1', (za, zb) :: T2, by omega, by omega, by go_num, Hid.mk' (by have := hb2.out; simp at this; omega), Hid.mk' (by have := hTT.out; simpa using this), hS4, Hid.mk' (by
              intro y hy
              rcases List.mem_cons.1 hy with rfl | hy
              · exact lt_lx hxz
              · exact hT2.out y hy)⟩
            case measure => simp [intOf]
          · obtain ⟨v, hv, hv0, hv1⟩ := cmpI_ge hxz
            have hcv := Hid.mk' hv
            have hvn : ¬ v < 0 := by omega
            clear hv
            obtain ⟨o1, o2⟩ := OUT.out (by
              intro y hy
              have hzx : lx (za, zb) (xa, xb) := not_lt_lx hxz hmem.out
              rw [List.concat_eq_append] at hy
              rcases List.mem_append.1 hy with hy | hy
              · have h1 := hTs.out
                rw [← hTT.out] at h1
                have h2 := sl_left h1
                rw [List.concat_eq_append] at h2
                exact lx_trans (sl_cross h2 y hy _ (by simp)) hzx
              · rw [List.mem_singleton.1 hy]; exact hzx)
            go_wp2_with fail
            go_quiet_grown (first | (go_at_call 40; exact cmp_grown _ _ _ _ _ hcv.out _ _ _))
            have hS3 := Hid.mk' (hS2.out.grown nq osq)
            clear cz cz1 cx cx1 hS2
            generalize grow (wr.drewN nq) osq = w3 at *
            go_wp2_with fail
            go_roundw
            case rel => exact ⟨i + 1, _, R', by omega, by omega, by go_num, hlen1, Hid.mk' (by have := hS3.out; simpa using this), o1, o2⟩
            case measure => simp [intOf]; omega
    · have hltz : ¬ (i : Int) < (b : Int) := by omega
      have hfin : Hid (∃ S', SW w0 g (X ++ S' ++ Y) wr ∧ S'.Perm S ∧ SL S') := Hid.mk' (by
        obtain ⟨S1, hp, hs⟩ := hTp.out
        have hR : R = [] := by
          rcases hT.out with h1 | h1
          · have h2 := hb0.out
            rw [hs, List.length_append, ← hp.length_eq] at h2
            exact List.length_eq_zero_iff.1 (by omega)
          · rw [h1] at hs
            exact (List.append_eq_nil_iff.1 hs.symm).2
        subst hR
        refine ⟨T, ?_, ?_, hTs.out⟩
        · have := hS.out; simpa using this
        · rw [hs, List.append_nil]; exact hp)
      go_wp2_with fail
      go_end0
      exact ⟨rfl, by simpa using hfin.out⟩
end Go.Proofs.Ytcoiddmgcoeocaa.Tr
