/- New, Scalar, Code, Blocks: walks. -/
import Derived.Test.YtcoiddmgcoeocaaTt
namespace Go.Proofs.Ytcoiddmgcoeocaa.Tr
open Go.ChangeShapes Go.WideShapes Go.ChangeAt Go.RowKit Go.Maps Go.Proofs.Ytcoiddmgcoeocaa.Mem Go.Proofs.Ytcoiddmgcoeocaa.Ucs Go.Proofs.Ytcoiddmgcoeocaa.El Go.Sort Go.Proofs.Ytcoiddmgcoeocaa.Rn
set_option linter.unusedVariables false
set_option linter.unusedSimpArgs false

theorem newSide_any (b o cap : Nat) (Q : List Pr) (n : Nat) (hn : Q.length = n) (hn2 : n ≤ 65536) (w : World) (hB : EE.Rd w (some ⟨b, o, none⟩) Q) (hc : n ≤ cap) (hcm : cap ≤ 70000) (hr : ∀ p ∈ Q, (0 ≤ p.1 ∧ p.1 ≤ 16777215) ∧ 0 ≤ p.2 ∧ p.2 ≤ 16777215) (ha : Asc Q) :
    Calls Try.prog 20 #[.slice (some ⟨b, o, none⟩) n cap] w fun e w' => ∃ co nc bo nb cap, e = .returned (.agg #[.slice co nc nc, .slice bo nb cap]) ∧ (∃ C, SideOk w' co nc bo nb cap Q C) ∧ w.grownBy w' none := by
  by_cases h0 : n = 0
  · subst h0
    have hQ : Q = [] := List.length_eq_zero_iff.1 hn
    subst hQ
    refine (newSide_none _ cap w).mono ?_
    rintro e w' ⟨bo, rfl, h1, h2⟩
    exact ⟨none, 0, bo, 1, 1, rfl, ⟨[], h1⟩, h2⟩
  · exact newSide_some b o cap Q n hn (by omega) hn2 w hB hc hcm hr ha

/-- A table in memory. -/
structure TrieAt (w : World) (T : Nat) (L : List Pr) (co : Option Addr) (nc : Nat) (bo : Option Addr) (nb cap : Nat) (co' : Option Addr) (nc' : Nat) (bo' : Option Addr) (nb' cap' : Nat) (C C' : List Int) : Prop where
  blk : w.heap[T]? = some (.cells #[.slice co nc nc, .slice bo nb cap, .slice co' nc' nc', .slice bo' nb' cap'] 60 (0, 0))
  codes : SideOk w co nc bo nb cap L C
  scalars : SideOk w co' nc' bo' nb' cap' (byScalar L) C'
  ok : okP (-1) L = true
  len : L.length ≤ 65536
def Trie (w : World) (T : Nat) (L : List Pr) : Prop := ∃ co nc bo nb cap co' nc' bo' nb' cap' C C', TrieAt w T L co nc bo nb cap co' nc' bo' nb' cap' C C'
theorem Trie.kept {w w' : World} {T : Nat} {L : List Pr} (h : Trie w T L) (hg : w.grownBy w' none) : Trie w' T L := by
  obtain ⟨co, nc, bo, nb, cap, co', nc', bo', nb', cap', C, C', h⟩ := h
  exact ⟨co, nc, bo, nb, cap, co', nc', bo', nb', cap', C, C', ⟨blk_kept h.blk hg, h.codes.kept hg, h.scalars.kept hg, h.ok, h.len⟩⟩

set_option maxRecDepth 100000 in
set_option maxHeartbeats 1000000 in
theorem new_no (ao : Option Addr) (cap : Nat) (L : List Pr) (w : World) (hB : PE.Rd w ao L) (hc : L.length ≤ cap) (hcm : cap ≤ 9223372036854775807) (E : Int) (hE : Hid (rightE L = E)) (hne : ¬ E = 0) :
    Calls Try.prog 7 #[.slice ao L.length cap] w fun e w' => e = .returned (.tuple #[.pointer none, .int .i64 E]) ∧ w.grownBy w' none := by
  have hB0 := Hid.mk' hB
  clear hB
  obtain ⟨Q, hQ⟩ : ∃ Q, Hid (packR L = Q) := ⟨_, Hid.mk' rfl⟩
  have hb : (E == 0) = false := by simpa using hne
  go_enter Try.func7, Try.ntmps7
  go_wp2_with (go_at_call 17; refine (pack_any ao cap L _ hB0.out hc hcm E hE Q hQ).mono ?_; rintro e w1 ⟨ro, rc, rfl, ho, hg⟩)
  go_ret2
  exact ⟨rfl, hg⟩

set_option maxRecDepth 100000 in
set_option maxHeartbeats 2000000 in
theorem new_ok (ao : Option Addr) (cap : Nat) (L : List Pr) (n : Nat) (hn : L.length = n) (w : World) (hB : PE.Rd w ao L) (hc : n ≤ cap) (hcm : cap ≤ 9223372036854775807) (hE : Hid (rightE L = 0)) :
    Calls Try.prog 7 #[.slice ao n cap] w fun e w' => ∃ T, e = .returned (.tuple #[.pointer (some ⟨T, 0, none⟩), .int .i64 0]) ∧ Trie w' T L ∧ w.grownBy w' none := by
  have hB0 := Hid.mk' hB
  have hn0 := Hid.mk' hn
  obtain ⟨hl, hok⟩ := rightE_ok.1 hE.out
  have hok0 := Hid.mk' hok
  have hasc := Hid.mk' (okP_asc L _ hok).2
  have hrng := Hid.mk' (okP_range hok)
  have hn2 : n ≤ 65536 := by omega
  have hst := Hid.mk' (st_turned hasc.out)
  clear hB hn hl hok
  obtain ⟨Q, hQ⟩ : ∃ Q, Hid (packR L = Q) := ⟨_, Hid.mk' rfl⟩
  have hr1 : Hid (∀ p ∈ L, (0 ≤ p.1 ∧ p.1 ≤ 16777215) ∧ 0 ≤ p.2 ∧ p.2 ≤ 16777215) := Hid.mk' (fun p hp => by have := hrng.out p hp; omega)
  have hr2 : Hid (∀ p ∈ byScalar L, (0 ≤ p.1 ∧ p.1 ≤ 16777215) ∧ 0 ≤ p.2 ∧ p.2 ≤ 16777215) := Hid.mk' (fun p hp => by have := hrng.out _ (byScalar_mem hasc.out p hp); omega)
  have hr3 : Hid (∀ p ∈ L, 0 ≤ p.1 ∧ p.1 ≤ 16777215 ∧ 0 ≤ p.2 ∧ p.2 ≤ 1114111) := Hid.mk' (fun p hp => by have := hrng.out p hp; omega)
  have hpk : Hid (∀ w, PE.Rd w ao L → Calls Try.prog 17 #[.slice ao n cap] w fun e w' => ∃ ro rc, e = .returned (.tuple #[.slice ro Q.length rc, .int .i64 0]) ∧ RE.Own w' ro rc Q ∧ w.grownBy w' none) := Hid.mk' (fun w hw => by have := pack_any ao cap L w hw (by rw [hn0.out]; exact hc) hcm 0 hE Q hQ; rwa [hn0.out] at this)
  go_enter Try.func7, Try.ntmps7
  go_upto_region 4 with (go_at_call 17; refine (hpk.out _ hB0.out).mono ?_; rintro e w1 ⟨ro, rc, rfl, ho, hg1⟩)
  have hB1 := Hid.mk' (hB0.out.kept0 hg1)
  clear ho
  go_wp2_with (first
    | (go_at_call 21; refine (byCode_any ao cap L n hn0.out hn2 w1 hB1.out hc hcm).mono ?_; rintro e w2 ⟨g, rfl, ho2, hg2, hge⟩; have hB2 := Hid.mk' (hB1.out.kept0 hg2))
    | (go_at_call 22; refine (byScalar_any ao cap L n hn0.out hn2 w3 hB3.out hc hcm hr3.out hst.out).mono ?_; rintro e w4 ⟨g4, m4, D, rfl, hm4, hmn, hp4, hs4, hr4, hg4⟩; have hcb := Hid.mk' (comp_byScalar hasc.out hp4 hs4); rw [hcb.out] at hr4 hm4; have hm40 := Hid.mk' hm4; clear hm4)
    | (go_at_call_of 20 (Value.slice (some ⟨g, 0, none⟩) n n); refine (newSide_any g 0 n L n hn0.out hn2 w2 ho2.rd (Nat.le_refl _) (by omega) hr1.out hasc.out).mono ?_; rintro e w3 ⟨co, nc, bo, nb, cp, rfl, ⟨C, hs3⟩, hg3⟩; have hB3 := Hid.mk' (hB2.out.kept0 hg3))
    | (go_at_call_of 20 (Value.slice (some ⟨g4, 0, none⟩) m4 n); refine (newSide_any g4 0 n (byScalar L) m4 hm40.out.symm (by omega) w4 hr4 hmn (by omega) hr2.out (byScalar_asc L)).mono ?_; rintro e w5 ⟨co', nc', bo', nb', cp', rfl, ⟨C', hs5⟩, hg5⟩))
  go_ret2
  refine ⟨_, rfl, ⟨co, nc, bo, nb, cp, co', nc', bo', nb', cp', C, C', ?_⟩, ?_⟩
  · have hga := World.grownBy_alloc w5 (.cells #[.slice co nc nc, .slice bo nb cp, .slice co' nc' nc', .slice bo' nb' cp'] 60) none
    exact ⟨heap_alloc_new w5 _, ((hs3.kept hg4).kept hg5).kept hga, hs5.kept hga, hok0.out, by rw [hn0.out]; exact hn2⟩
  · exact grownBy_trans (grownBy_trans (grownBy_trans (grownBy_trans (grownBy_trans hg1 hg2) hg3) hg4) hg5) (World.grownBy_alloc w5 _ none)

theorem side_nb {w : World} {co : Option Addr} {nc : Nat} {bo : Option Addr} {nb cap : Nat} {Q : List Pr} {C : List Int} (h : SideOk w co nc bo nb cap Q C) (hl : Q.length ≤ 65536) : 1 ≤ nb ∧ nb ≤ 70000 ∧ nb ≤ cap := by
  have h1 := allB_le Q
  have h2 := h.nb
  have h3 := h.own.cap_le
  simp only [List.length_cons] at h3
  omega
set_option maxRecDepth 100000 in
set_option maxHeartbeats 1000000 in
theorem tScalar_any (T : Nat) (L : List Pr) (code : Int) (hk1 : -9223372036854775808 ≤ code) (hk2 : code ≤ 9223372036854775807) (w : World) (h : Trie w T L) (R : Option Int) (hR : Hid (pS L code = R)) :
    Calls Try.prog 10 #[.pointer (some ⟨T, 0, none⟩), .int .i64 code] w fun e w' => e = .returned (.tuple #[.int .i32 (R.getD 0), .bool R.isSome]) ∧ w.grownBy w' none := by
  obtain ⟨co, nc, bo, nb, cap, co', nc', bo', nb', cap', C, C', h⟩ := h
  have c0 := cell_at h.blk 0 (v := .slice co nc nc) rfl
  have c1 := cell_at h.blk 1 (v := .slice bo nb cap) rfl
  have hasc := (okP_asc L _ h.ok).2
  have hrng := okP_range h.ok
  obtain ⟨n1, n2, n3⟩ := side_nb h.codes h.len
  have hl := Hid.mk' (look_any T 0 co nc bo nb cap L C code hk1 hk2 w h.codes hasc (fun q hq => by have := hrng q hq; omega) n2 n3 c0 c1 R (Hid.mk' (by rw [look_pS, hR.out])))
  clear h hasc hrng
  go_enter Try.func10, Try.ntmps10
  go_wp2_with (go_at_call 24; refine hl.out.mono ?_; rintro e w1 ⟨he, hg⟩; obtain ⟨V, hV⟩ : ∃ V, Hid (V = R.getD 0) := ⟨_, Hid.mk' rfl⟩; obtain ⟨I, hI⟩ : ∃ I, Hid (I = R.isSome) := ⟨_, Hid.mk' rfl⟩; unfold lookV at he; rw [← hV.out, ← hI.out] at he; subst he)
  go_ret2
  exact ⟨by rw [← hV.out, ← hI.out]; rfl, hg⟩
set_option maxRecDepth 100000 in
set_option maxHeartbeats 1000000 in
theorem tCode_any (T : Nat) (L : List Pr) (u : Int) (hk1 : -2147483648 ≤ u) (hk2 : u ≤ 2147483647) (w : World) (h : Trie w T L) (R : Option Int) (hR : Hid (pC L u = R)) :
    Calls Try.prog 12 #[.pointer (some ⟨T, 0, none⟩), .int .i32 u] w fun e w' => e = .returned (.tuple #[.int .i64 (R.getD 0), .bool R.isSome]) ∧ w.grownBy w' none := by
  obtain ⟨co, nc, bo, nb, cap, co', nc', bo', nb', cap', C, C', h⟩ := h
  have c0 := cell_at h.blk 2 (v := .slice co' nc' nc') rfl
  have c1 := cell_at h.blk 3 (v := .slice bo' nb' cap') rfl
  have hasc := (okP_asc L _ h.ok).2
  have hrng := okP_range h.ok
  obtain ⟨n1, n2, n3⟩ := side_nb h.scalars (Nat.le_trans (byScalar_len L) h.len)
  have hl := Hid.mk' (look_any T 2 co' nc' bo' nb' cap' (byScalar L) C' u (by omega) (by omega) w h.scalars (byScalar_asc L) (fun q hq => by have := hrng _ (byScalar_mem hasc q hq); omega) n2 n3 c0 c1 R (Hid.mk' (by rw [byScalar_pC, hR.out])))
  have hVb : Hid (0 ≤ R.getD 0 ∧ R.getD 0 ≤ 16777215) := Hid.mk' (by
    cases R with
    | none => exact ⟨by simp, by simp⟩
    | some v =>
      have := hrng _ (pC_min L hasc u v hR.out).1
      simp only [Option.getD_some]
      omega)
  clear h hasc hrng
  go_enter Try.func12, Try.ntmps12
  go_wp2_with (go_at_call 24; refine hl.out.mono ?_; rintro e w1 ⟨he, hg⟩; obtain ⟨V, hV⟩ : ∃ V, Hid (V = R.getD 0) := ⟨_, Hid.mk' rfl⟩; obtain ⟨I, hI⟩ : ∃ I, Hid (I = R.isSome) := ⟨_, Hid.mk' rfl⟩; unfold lookV at he; rw [← hV.out, ← hI.out] at he; subst he; have hVb' := hVb.out; rw [← hV.out] at hVb'; obtain ⟨hV1, hV2⟩ := hVb')
  go_ret2
  exact ⟨by rw [← hV.out, ← hI.out]; rfl, hg⟩
set_option maxRecDepth 100000 in
set_option maxHeartbeats 1000000 in
theorem tBlocks_any (T : Nat) (L : List Pr) (w : World) (h : Trie w T L) (A B : Nat) (hA : Hid (blocksN L = A)) (hB : Hid (blocksN (byScalar L) = B)) :
    Calls Try.prog 14 #[.pointer (some ⟨T, 0, none⟩)] w fun e w' => e = .returned (.tuple #[.int .i64 (A : Int), .int .i64 (B : Int)]) ∧ w.grownBy w' none := by
  obtain ⟨co, nc, bo, nb, cap, co', nc', bo', nb', cap', C, C', h⟩ := h
  have c1 := cell_at h.blk 1 (v := .slice bo nb cap) rfl
  have c3 := cell_at h.blk 3 (v := .slice bo' nb' cap') rfl
  have hasc := (okP_asc L _ h.ok).2
  have hrng := okP_range h.ok
  obtain ⟨n1, n2, n3⟩ := side_nb h.codes h.len
  obtain ⟨m1, m2, m3⟩ := side_nb h.scalars (Nat.le_trans (byScalar_len L) h.len)
  have e1 : (nb : Int) - 1 = (A : Int) := by
    have h1 := h.codes.nb
    have h2 := allB_len hasc (fun q hq => (hrng q hq).2.1)
    have h3 := hA.out
    omega
  have e2 : (nb' : Int) - 1 = (B : Int) := by
    have h1 := h.scalars.nb
    have h2 := allB_len (byScalar_asc L) (fun q hq => by have := hrng _ (byScalar_mem hasc q hq); omega)
    have h3 := hB.out
    omega
  have k1 : ∀ n, Calls Try.prog 27 #[.pointer (some ⟨T, 0, none⟩)] (w.drewN n) fun e w' => e = .returned (.int .i64 (A : Int)) ∧ w' = w.drewN n := fun n => by
    have := count_any T 0 bo nb cap (w.drewN n) n1 n2 c1
    rwa [e1] at this
  have k2 : ∀ n, Calls Try.prog 27 #[.pointer (some ⟨T, 2, none⟩)] (w.drewN n) fun e w' => e = .returned (.int .i64 (B : Int)) ∧ w' = w.drewN n := fun n => by
    have := count_any T 2 bo' nb' cap' (w.drewN n) m1 m2 c3
    rwa [e2] at this
  have k10 := Hid.mk' k1
  have k20 := Hid.mk' k2
  clear h hasc hrng k1 k2 e1 e2
  go_enter Try.func14, Try.ntmps14
  go_wp2_with fail
  go_quiet (first
    | (go_at_call_of 27 (Value.pointer (some ⟨T, 0, none⟩)); exact Calls.quiet_of_same (k10.out _))
    | (go_at_call_of 27 (Value.pointer (some ⟨T, 2, none⟩)); exact Calls.quiet_of_same (k20.out _)))
  go_wp2_with fail
  go_ret2
  exact ⟨rfl, ⟨rfl, rfl, rfl, Nat.le_refl _, fun _ _ _ => rfl⟩⟩
end Go.Proofs.Ytcoiddmgcoeocaa.Tr
