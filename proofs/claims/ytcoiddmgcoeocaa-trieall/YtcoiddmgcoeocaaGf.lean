/- Lk, Tt, Tn, joined. -/
import Derived.Test.YtcoiddmgcoeocaaGe
import Derived.Test.YtcoiddmgcoeocaaTs
import Derived.Test.YtcoiddmgcoeocaaPack
/- look, count, and what a table tells: walks. -/
namespace Go.Proofs.Ytcoiddmgcoeocaa.Tr
open Go.ChangeShapes Go.WideShapes Go.ChangeAt Go.RowKit Go.Maps Go.Proofs.Ytcoiddmgcoeocaa.Mem Go.Proofs.Ytcoiddmgcoeocaa.El Go.Sort Go.Proofs.Ytcoiddmgcoeocaa.Rn
set_option linter.unusedVariables false
set_option linter.unusedSimpArgs false

/-- What stands at a number: what the two rows hold. -/
theorem SideOk.at {w : World} {co : Option Addr} {nc : Nat} {bo : Option Addr} {nb cap : Nat} {Q : List Pr} {C : List Int} (h : SideOk w co nc bo nb cap Q C) (ha : Asc Q) {key : Int} {k j : Nat} (hk : key / 64 = (k : Int)) (hj : key % 64 = (j : Int)) (hkn : k < nc) :
    ∃ c g ix : Nat, co = some ⟨c, 0, none⟩ ∧ bo = some ⟨g, 0, none⟩ ∧ ix < nb ∧ w.cell? ⟨c, k, none⟩ = some (.int .i32 (ix : Int)) ∧ w.cell? ⟨g, ix * 64 + j, none⟩ = some (.int .i32 ((look Q key).elim 0 (· + 1))) := by
  have hkl : k < C.length := by rw [h.clen]; exact hkn
  obtain ⟨c, e1, _, _, hc⟩ := h.con.at (List.ne_nil_of_length_pos (by omega))
  obtain ⟨g, e2, _, _, hg⟩ := h.own.at (by simp)
  obtain ⟨ix, i1, i2⟩ := h.leads k hkl
  have hil : ix < (zB :: allB Q).length := (List.getElem?_eq_some_iff.1 i2).1
  have hie : (zB :: allB Q)[ix] = blkB Q (k : Int) := (List.getElem?_eq_some_iff.1 i2).2
  have hj64 : j < 64 := by omega
  refine ⟨c, g, ix, e1, e2, by rw [h.nb]; simpa using hil, ?_, ?_⟩
  · have := hc k hkl 0 (.int .i32 C[k]) rfl
    have e : k * CE.size + 0 = k := Nat.mul_one k
    rw [e] at this
    rw [this]
    rw [List.getD_eq_getElem?_getD, List.getElem?_eq_getElem hkl] at i1
    simp only [Option.getD_some] at i1
    rw [i1]
  · refine hg ix hil j _ ?_
    rw [hie]
    have hcl := con_look ha (k : Int) j hj64
    rw [show 64 * (k : Int) + (j : Int) = key by omega] at hcl
    rw [List.getD_eq_getElem?_getD, List.getElem?_eq_getElem (by rw [conZ_len]; exact hj64)] at hcl
    simp only [Option.getD_some] at hcl
    show ((conZ (filt Q (k : Int))).map (Value.int .i32))[j]? = _
    rw [List.getElem?_map, List.getElem?_eq_getElem (by rw [conZ_len]; exact hj64)]
    simp [hcl]
theorem SideOk.out {w : World} {co : Option Addr} {nc : Nat} {bo : Option Addr} {nb cap : Nat} {Q : List Pr} {C : List Int} (h : SideOk w co nc bo nb cap Q C) {key : Int} (hk : (nc : Int) ≤ key / 64) : look Q key = none := by
  unfold look
  rw [List.find?_eq_none.2 ?_]
  · rfl
  · intro q hq e
    have := h.all q hq
    have e2 : q.1 = key := by simpa using e
    rw [e2] at this
    omega
def lookV (o : Option Int) : Value := .tuple #[.int .i32 (o.getD 0), .bool o.isSome]

set_option maxRecDepth 100000 in
set_option maxHeartbeats 2000000 in
theorem look_any (T off : Nat) (co : Option Addr) (nc : Nat) (bo : Option Addr) (nb cap : Nat) (Q : List Pr) (C : List Int) (key : Int) (hk1 : -9223372036854775808 ≤ key) (hk2 : key ≤ 9223372036854775807) (w : World) (h : SideOk w co nc bo nb cap Q C) (ha : Asc Q) (hv : ∀ q ∈ Q, 0 ≤ q.1 ∧ 0 ≤ q.2 ∧ q.2 ≤ 16777215) (hnb : nb ≤ 70000) (hcap : nb ≤ cap)
    (c0 : w.cell? ⟨T, off, none⟩ = some (.slice co nc nc)) (c1 : w.cell? ⟨T, off + 1, none⟩ = some (.slice bo nb cap)) (R : Option Int) (hR : Hid (look Q key = R)) :
    Calls Try.prog 24 #[.pointer (some ⟨T, off, none⟩), .int .i64 key] w fun e w' => e = .returned (lookV R) ∧ w.grownBy w' none := by
  have h0 := Hid.mk' h
  have ha0 := Hid.mk' ha
  have hv0 := Hid.mk' hv
  clear h ha hv
  by_cases hneg : key < 0
  · have hn : Hid (R = none) := Hid.mk' (by
      rw [← hR.out]
      exact look_none (fun q hq => by have := (hv0.out q hq).1; omega))
    rw [hn.out]
    go_enter Try.func24, Try.ntmps24
    go_wp2_with fail
    go_ret2
    exact ⟨rfl, grownBy_refl _ _⟩
  · have hneg' : ¬ key < 0 := hneg
    have htd : key.tdiv 64 = key / 64 := Int.tdiv_eq_ediv_of_nonneg (by omega)
    have htm : key.tmod 64 = key % 64 := Int.tmod_eq_emod_of_nonneg (by omega)
    obtain ⟨k, hk⟩ : ∃ k : Nat, key / 64 = (k : Int) := ⟨(key / 64).toNat, by omega⟩
    obtain ⟨j, hj⟩ : ∃ j : Nat, key % 64 = (j : Int) := ⟨(key % 64).toNat, by omega⟩
    have hkb : (k : Int) ≤ 144115188075855871 := by omega
    rw [hk] at htd
    rw [hj] at htm
    by_cases hkn : k < nc
    · obtain ⟨c, g, ix, rfl, rfl, hix, x0, x1⟩ := h0.out.at ha0.out hk hj hkn
      have hkn' : (k : Int) < (nc : Int) := by omega
      have hkn2 : ¬ (nc : Int) ≤ (k : Int) := by omega
      have hkn3 : decide ((nc : Int) ≤ (k : Int)) = false := decide_eq_false hkn2
      have hd : decide (key < 0) = false := decide_eq_false hneg
      have p1 : (0 : Int) ≤ (k : Int) := by omega
      have p2 : (0 : Int) ≤ (j : Int) := by omega
      have p3 : (j : Int) < 64 := by omega
      have p4 : (0 : Int) ≤ (ix : Int) := by omega
      have p5 : (ix : Int) < (nb : Int) := by omega
      have p6 : IntKind.i64.wrap (k : Int) = (k : Int) := by rw [IntKind.wrap_i64]; omega
      have p7 : j < 64 := by omega
      have hvR : Hid (∀ v, R = some v → 0 ≤ v ∧ v ≤ 16777215) := Hid.mk' (by
        intro v hv
        rw [← hR.out] at hv
        unfold look at hv
        obtain ⟨q, hq, rfl⟩ := Option.map_eq_some_iff.1 hv
        exact (hv0.out q (List.mem_of_find?_eq_some hq)).2)
      rw [hR.out] at x1
      clear hk hj
      cases R with
      | none =>
        simp only [Option.elim_none] at x1
        go_enter Try.func24, Try.ntmps24
        go_wp2_with fail
        go_quiet (fail)
        go_wp2_with fail
        go_ret2
        exact ⟨rfl, ⟨rfl, rfl, rfl, Nat.le_refl _, fun _ _ _ => rfl⟩⟩
      | some v =>
        obtain ⟨v1, v2⟩ := hvR.out v rfl
        simp only [Option.elim_some] at x1
        have v3 : ¬ v + 1 = 0 := by omega
        have v4 : (v + 1 == 0) = false := by simp; omega
        have v5 : v + 1 - 1 = v := by omega
        go_enter Try.func24, Try.ntmps24
        go_wp2_with fail
        go_quiet (fail)
        go_wp2_with fail
        go_ret2
        exact ⟨rfl, ⟨rfl, rfl, rfl, Nat.le_refl _, fun _ _ _ => rfl⟩⟩
    · have hn : Hid (R = none) := Hid.mk' (by rw [← hR.out]; exact h0.out.out (by omega))
      rw [hn.out]
      have hkn2 : (nc : Int) ≤ (k : Int) := by omega
      go_enter Try.func24, Try.ntmps24
      go_wp2_with fail
      go_ret2
      exact ⟨rfl, grownBy_refl _ _⟩
set_option maxRecDepth 100000 in
theorem count_any (T off : Nat) (bo : Option Addr) (nb cap : Nat) (w : World) (hnb : 1 ≤ nb) (hnb2 : nb ≤ 70000) (c1 : w.cell? ⟨T, off + 1, none⟩ = some (.slice bo nb cap)) :
    Calls Try.prog 27 #[.pointer (some ⟨T, off, none⟩)] w fun e w' => e = .returned (.int .i64 ((nb : Int) - 1)) ∧ w' = w := by
  go_enter Try.func27, Try.ntmps27
  go_wp2_with fail
  go_ret
  first | exact ⟨rfl, rfl⟩ | (refine ⟨?_, rfl⟩; go_num) | (refine ⟨?_, rfl⟩; congr 2; go_num)
end Go.Proofs.Ytcoiddmgcoeocaa.Tr

/- What a table tells, in plain functions. -/
namespace Go.Proofs.Ytcoiddmgcoeocaa.Tr
open Go.Proofs.Ytcoiddmgcoeocaa.Mem Go.Proofs.Ytcoiddmgcoeocaa.Ucs Go.Proofs.Ytcoiddmgcoeocaa.El Go.Proofs.Ytcoiddmgcoeocaa.Rn
set_option linter.unusedVariables false

theorem okP_asc : ∀ (L : List Pr) (b : Int), okP b L = true → (∀ p ∈ L, b < p.1) ∧ Asc L
  | [], b, _ => ⟨by simp, List.Pairwise.nil⟩
  | p :: L, b, h => by
    obtain ⟨c, u⟩ := p
    obtain ⟨h1, h2, h3, h4⟩ := okP_cons.1 h
    obtain ⟨i1, i2⟩ := okP_asc L c h4
    refine ⟨?_, List.pairwise_cons.2 ⟨i1, i2⟩⟩
    intro q hq
    rcases List.mem_cons.1 hq with rfl | hq
    · exact h2
    · have := i1 q hq; omega
theorem okP_mem : ∀ (L : List Pr) (b : Int), okP b L = true → ∀ p ∈ L, (0 ≤ p.1 ∧ p.1 ≤ 16777215) ∧ scB p.2 = true
  | [], b, _ => by simp
  | p :: L, b, h => by
    obtain ⟨c, u⟩ := p
    obtain ⟨h1, h2, h3, h4⟩ := okP_cons.1 h
    intro q hq
    rcases List.mem_cons.1 hq with rfl | hq
    · exact ⟨h1, h3⟩
    · exact okP_mem L c h4 q hq
theorem okP_range {L : List Pr} (h : okP (-1) L = true) : ∀ p ∈ L, (0 ≤ p.1 ∧ p.1 ≤ 16777215) ∧ 0 ≤ p.2 ∧ p.2 ≤ 1114111 := by
  intro p hp
  obtain ⟨h1, h2⟩ := okP_mem L _ h p hp
  have := scB_iff.1 h2
  exact ⟨h1, by omega, by omega⟩
theorem look_pS : ∀ (L : List Pr) (c : Int), look L c = pS L c
  | [], c => rfl
  | p :: L, c => by
    unfold pS
    split
    · rename_i h; exact look_cons_eq h
    · rename_i h; rw [look_cons_ne h]; exact look_pS L c
theorem find_pC : ∀ (L : List Pr) (u : Int), (L.find? (fun p => p.2 == u)).map (·.1) = pC L u
  | [], u => rfl
  | p :: L, u => by
    unfold pC
    split
    · rename_i h; simp [h]
    · rename_i h
      have : (p.2 == u) = false := by simpa using h
      rw [List.find?_cons, this]
      exact find_pC L u
theorem byScalar_pC (L : List Pr) (u : Int) : look (byScalar L) u = pC L u := by rw [byScalar_look, find_pC]
theorem st_turned {L : List Pr} (h : Asc L) : St (turned L) := by
  unfold St turned
  rw [List.pairwise_map]
  refine List.Pairwise.imp ?_ h
  intro a b hab _
  exact hab
/-- The first of each number. -/
theorem compF_mem : ∀ (R : List Pr) (p : Pr), SL (p :: R) → (∀ x ∈ compF p R, p.1 < x.1 ∧ x ∈ R) ∧ Asc (compF p R) ∧ ∀ x ∈ R, p.1 < x.1 → (∀ y ∈ R, y.1 = x.1 → x.2 ≤ y.2) → x ∈ compF p R
  | [], p, _ => ⟨by simp [compF], List.Pairwise.nil, by simp⟩
  | z :: R, p, h => by
    have h1 := List.pairwise_cons.1 h
    have h2 : SL (z :: R) := h1.2
    have hzp : lx p z := h1.1 z (by simp)
    have h3 := List.pairwise_cons.1 h2
    obtain ⟨i1, i2, i3⟩ := compF_mem R z h2
    unfold compF
    by_cases hz : z.1 = p.1
    · rw [if_pos hz]
      refine ⟨fun x hx => ?_, i2, ?_⟩
      · obtain ⟨a, b⟩ := i1 x hx
        exact ⟨by omega, by simp [b]⟩
      · intro x hx hpx hmin
        rcases List.mem_cons.1 hx with rfl | hx
        · omega
        · exact i3 x hx (by omega) (fun y hy => hmin y (by simp [hy]))
    · rw [if_neg hz]
      have hpz : p.1 < z.1 := by unfold lx at hzp; omega
      refine ⟨fun x hx => ?_, List.pairwise_cons.2 ⟨fun x hx => (i1 x hx).1, i2⟩, ?_⟩
      · rcases List.mem_cons.1 hx with rfl | hx
        · exact ⟨hpz, by simp⟩
        · obtain ⟨a, b⟩ := i1 x hx
          exact ⟨by omega, by simp [b]⟩
      · intro x hx hpx hmin
        rcases List.mem_cons.1 hx with rfl | hx
        · simp
        · by_cases hxz : z.1 < x.1
          · exact List.mem_cons_of_mem _ (i3 x hx hxz (fun y hy => hmin y (by simp [hy])))
          · have hl := h3.1 x hx
            have := hmin z (by simp)
            unfold lx at hl
            omega
theorem comp_asc {D : List Pr} (h : SL D) : Asc (comp D) := by
  cases D with
  | nil => exact List.Pairwise.nil
  | cons p R =>
    obtain ⟨i1, i2, i3⟩ := compF_mem R p h
    exact List.pairwise_cons.2 ⟨fun x hx => (i1 x hx).1, i2⟩
theorem comp_sub : ∀ (R : List Pr) (p : Pr), ∀ x ∈ compF p R, x ∈ R
  | [], p => by simp [compF]
  | z :: R, p => by
    intro x hx
    unfold compF at hx
    split at hx
    · exact List.mem_cons_of_mem _ (comp_sub R z x hx)
    · rcases List.mem_cons.1 hx with rfl | hx
      · simp
      · exact List.mem_cons_of_mem _ (comp_sub R z x hx)
theorem comp_mem_sub {D : List Pr} : ∀ x ∈ comp D, x ∈ D := by
  cases D with
  | nil => simp [comp]
  | cons p R =>
    intro x hx
    rcases List.mem_cons.1 hx with rfl | hx
    · simp
    · exact List.mem_cons_of_mem _ (comp_sub R p x hx)
theorem comp_min {D : List Pr} (h : SL D) {x : Pr} (hx : x ∈ D) (hmin : ∀ y ∈ D, y.1 = x.1 → x.2 ≤ y.2) : x ∈ comp D := by
  cases D with
  | nil => simp at hx
  | cons p R =>
    obtain ⟨i1, i2, i3⟩ := compF_mem R p h
    have h1 := List.pairwise_cons.1 h
    rcases List.mem_cons.1 hx with rfl | hx
    · exact List.mem_cons_self
    · have hl := h1.1 x hx
      by_cases hpx : p.1 < x.1
      · exact List.mem_cons_of_mem _ (i3 x hx hpx (fun y hy => hmin y (by simp [hy])))
      · have := hmin p (by simp)
        unfold lx at hl
        omega
theorem pC_min : ∀ (L : List Pr), Asc L → ∀ (u v : Int), pC L u = some v → (v, u) ∈ L ∧ ∀ c, (c, u) ∈ L → v ≤ c
  | [], _, u, v, h => by simp [pC] at h
  | p :: L, ha, u, v, h => by
    have hp := List.pairwise_cons.1 ha
    unfold pC at h
    split at h
    · rename_i he
      simp at h
      subst h
      subst he
      refine ⟨List.mem_cons_self, fun c hc => ?_⟩
      rcases List.mem_cons.1 hc with e | hc
      · rw [← e]; exact Int.le_refl _
      · have := hp.1 _ hc; simp only at this; omega
    · rename_i he
      obtain ⟨i1, i2⟩ := pC_min L hp.2 u v h
      refine ⟨List.mem_cons_of_mem _ i1, fun c hc => ?_⟩
      rcases List.mem_cons.1 hc with e | hc
      · exact absurd (by rw [← e]) he
      · exact i2 c hc
theorem pC_some : ∀ (L : List Pr) (c u : Int), (c, u) ∈ L → ∃ v, pC L u = some v
  | [], c, u, h => by simp at h
  | p :: L, c, u, h => by
    unfold pC
    split
    · exact ⟨_, rfl⟩
    · rename_i he
      rcases List.mem_cons.1 h with e | h
      · exact absurd (by rw [← e]) he
      · exact pC_some L c u h
theorem asc_unique : ∀ (A B : List Pr), Asc A → Asc B → (∀ x, x ∈ A ↔ x ∈ B) → A = B
  | [], [], _, _, _ => rfl
  | [], b :: B, _, _, h => by have := (h b).2 (by simp); simp at this
  | a :: A, [], _, _, h => by have := (h a).1 (by simp); simp at this
  | a :: A, b :: B, hA, hB, h => by
    have pa := List.pairwise_cons.1 hA
    have pb := List.pairwise_cons.1 hB
    have hab : a = b := by
      rcases List.mem_cons.1 ((h a).1 (by simp)) with e | e
      · exact e
      · rcases List.mem_cons.1 ((h b).2 (by simp)) with e2 | e2
        · exact e2.symm
        · have h1 := pb.1 a e
          have h2 := pa.1 b e2
          omega
    subst hab
    rw [asc_unique A B pa.2 pb.2 (fun x => ?_)]
    constructor
    · intro hx
      rcases List.mem_cons.1 ((h x).1 (by simp [hx])) with e | e
      · subst e; have := pa.1 x hx; omega
      · exact e
    · intro hx
      rcases List.mem_cons.1 ((h x).2 (by simp [hx])) with e | e
      · subst e; have := pb.1 x hx; omega
      · exact e
/-- The sort and what follows it make the document's list by scalars. -/
theorem comp_byScalar {L D : List Pr} (ha : Asc L) (hp : D.Perm (turned L)) (hs : SL D) : comp D = byScalar L := by
  have hmemT : ∀ x : Pr, x ∈ D ↔ (x.2, x.1) ∈ L := by
    intro x
    rw [hp.mem_iff]
    unfold turned
    rw [List.mem_map]
    constructor
    · rintro ⟨p, hp, rfl⟩; exact hp
    · intro h; exact ⟨_, h, rfl⟩
  refine asc_unique _ _ (comp_asc hs) (byScalar_asc L) (fun x => ?_)
  obtain ⟨u, v⟩ := x
  rw [← look_mem (byScalar_asc L) u v, byScalar_pC]
  constructor
  · intro hx
    have hxD := comp_mem_sub _ hx
    have hxL := (hmemT _).1 hxD
    obtain ⟨v', hv'⟩ := pC_some L v u hxL
    obtain ⟨m1, m2⟩ := pC_min L ha u v' hv'
    have hx' : (u, v') ∈ comp D := comp_min hs ((hmemT (u, v')).2 m1) (fun y hy e => m2 y.2 (by have := (hmemT y).1 hy; rw [e] at this; exact this))
    have e1 := (look_mem (comp_asc hs) u v).2 hx
    have e2 := (look_mem (comp_asc hs) u v').2 hx'
    rw [e1] at e2
    rw [hv', Option.some.inj e2]
  · intro hv
    obtain ⟨m1, m2⟩ := pC_min L ha u v hv
    exact comp_min hs ((hmemT (u, v)).2 m1) (fun y hy e => m2 y.2 (by have := (hmemT y).1 hy; rw [e] at this; exact this))
theorem byScalar_mem {L : List Pr} (ha : Asc L) : ∀ x ∈ byScalar L, (x.2, x.1) ∈ L := by
  intro x hx
  obtain ⟨u, v⟩ := x
  have := (look_mem (byScalar_asc L) u v).2 hx
  rw [byScalar_pC] at this
  exact (pC_min L ha u v this).1
theorem allB_le (Q : List Pr) : (allB Q).length ≤ Q.length := by
  unfold allB
  refine Nat.le_trans (length_nub _) ?_
  rw [List.length_map]
  refine Nat.le_trans (length_nub _) ?_
  rw [List.length_map]
  exact Nat.le_refl _
theorem byScalar_len (L : List Pr) : (byScalar L).length ≤ L.length := by
  unfold byScalar
  rw [List.length_map, (msort_perm _ (firsts L) (Nat.le_refl _)).length_eq]
  exact (firsts_sub L).2
end Go.Proofs.Ytcoiddmgcoeocaa.Tr

/- New, Scalar, Code, Blocks: walks. -/
namespace Go.Proofs.Ytcoiddmgcoeocaa.Tr
open Go.ChangeShapes Go.WideShapes Go.ChangeAt Go.RowKit Go.Maps Go.Proofs.Ytcoiddmgcoeocaa.Mem Go.Proofs.Ytcoiddmgcoeocaa.Ucs Go.Proofs.Ytcoiddmgcoeocaa.El Go.Sort Go.Proofs.Ytcoiddmgcoeocaa.Rn
set_option linter.unusedVariables false
set_option linter.unusedSimpArgs false

theorem newSide_any (b o cap : Nat) (Q : List Pr) (n : Nat) (hn : Q.length = n) (hn2 : n ≤ 65536) (w : World) (hB : EE.Rd w (some ⟨b, o, none⟩) Q) (hc : n ≤ cap) (hcm : cap ≤ 70000) (hr : ∀ p ∈ Q, (0 ≤ p.1 ∧ p.1 ≤ 16777215) ∧ 0 ≤ p.2 ∧ p.2 ≤ 16777215) (ha : Asc Q) :
    Calls Try.prog 20 #[.slice (some ⟨b, o, none⟩) n cap] w fun e w' => ∃ co nc bo nb cap, e = .returned (.agg #[.slice co nc nc, .slice bo nb cap]) ∧ (∃ C, SideOk w' co nc bo nb cap Q C) ∧ w.grownBy w' none := by
  by_cases h0 : n = 0
  · subst h0
    have hQ : Q = [] := List.length_eq_zero_iff.1 hn
    subst hQ
    refine (newSide_none _ cap w).mono ?_
    rintro e w' ⟨bo, rfl, h1, h2⟩
    exact ⟨none, 0, bo, 1, 1, rfl, ⟨[], h1⟩, h2⟩
  · exact newSide_some b o cap Q n hn (by omega) hn2 w hB hc hcm hr ha

/-- A table in memory. -/
structure TrieAt (w : World) (T : Nat) (L : List Pr) (co : Option Addr) (nc : Nat) (bo : Option Addr) (nb cap : Nat) (co' : Option Addr) (nc' : Nat) (bo' : Option Addr) (nb' cap' : Nat) (C C' : List Int) : Prop where
  blk : w.heap[T]? = some (.cells #[.slice co nc nc, .slice bo nb cap, .slice co' nc' nc', .slice bo' nb' cap'] 60 (0, 0))
  codes : SideOk w co nc bo nb cap L C
  scalars : SideOk w co' nc' bo' nb' cap' (byScalar L) C'
  ok : okP (-1) L = true
  len : L.length ≤ 65536
def Trie (w : World) (T : Nat) (L : List Pr) : Prop := ∃ co nc bo nb cap co' nc' bo' nb' cap' C C', TrieAt w T L co nc bo nb cap co' nc' bo' nb' cap' C C'
theorem Trie.kept {w w' : World} {T : Nat} {L : List Pr} (h : Trie w T L) (hg : w.grownBy w' none) : Trie w' T L := by
  obtain ⟨co, nc, bo, nb, cap, co', nc', bo', nb', cap', C, C', h⟩ := h
  exact ⟨co, nc, bo, nb, cap, co', nc', bo', nb', cap', C, C', ⟨blk_kept h.blk hg, h.codes.kept hg, h.scalars.kept hg, h.ok, h.len⟩⟩

set_option maxRecDepth 100000 in
set_option maxHeartbeats 1000000 in
theorem new_no (ao : Option Addr) (cap : Nat) (L : List Pr) (w : World) (hB : PE.Rd w ao L) (hc : L.length ≤ cap) (hcm : cap ≤ 9223372036854775807) (E : Int) (hE : Hid (rightE L = E)) (hne : ¬ E = 0) :
    Calls Try.prog 7 #[.slice ao L.length cap] w fun e w' => e = .returned (.tuple #[.pointer none, .int .i64 E]) ∧ w.grownBy w' none := by
  have hB0 := Hid.mk' hB
  clear hB
  obtain ⟨Q, hQ⟩ : ∃ Q, Hid (packR L = Q) := ⟨_, Hid.mk' rfl⟩
  have hb : (E == 0) = false := by simpa using hne
  go_enter Try.func7, Try.ntmps7
  go_wp2_with (go_at_call 17; refine (pack_any ao cap L _ hB0.out hc hcm E hE Q hQ).mono ?_; rintro e w1 ⟨ro, rc, rfl, ho, hg⟩)
  go_ret2
  exact ⟨rfl, hg⟩

set_option maxRecDepth 100000 in
set_option maxHeartbeats 2000000 in
theorem new_ok (ao : Option Addr) (cap : Nat) (L : List Pr) (n : Nat) (hn : L.length = n) (w : World) (hB : PE.Rd w ao L) (hc : n ≤ cap) (hcm : cap ≤ 9223372036854775807) (hE : Hid (rightE L = 0)) :
    Calls Try.prog 7 #[.slice ao n cap] w fun e w' => ∃ T, e = .returned (.tuple #[.pointer (some ⟨T, 0, none⟩), .int .i64 0]) ∧ Trie w' T L ∧ w.grownBy w' none := by
  have hB0 := Hid.mk' hB
  have hn0 := Hid.mk' hn
  obtain ⟨hl, hok⟩ := rightE_ok.1 hE.out
  have hok0 := Hid.mk' hok
  have hasc := Hid.mk' (okP_asc L _ hok).2
  have hrng := Hid.mk' (okP_range hok)
  have hn2 : n ≤ 65536 := by omega
  have hst := Hid.mk' (st_turned hasc.out)
  clear hB hn hl hok
  obtain ⟨Q, hQ⟩ : ∃ Q, Hid (packR L = Q) := ⟨_, Hid.mk' rfl⟩
  have hr1 : Hid (∀ p ∈ L, (0 ≤ p.1 ∧ p.1 ≤ 16777215) ∧ 0 ≤ p.2 ∧ p.2 ≤ 16777215) := Hid.mk' (fun p hp => by have := hrng.out p hp; omega)
  have hr2 : Hid (∀ p ∈ byScalar L, (0 ≤ p.1 ∧ p.1 ≤ 16777215) ∧ 0 ≤ p.2 ∧ p.2 ≤ 16777215) := Hid.mk' (fun p hp => by have := hrng.out _ (byScalar_mem hasc.out p hp); omega)
  have hr3 : Hid (∀ p ∈ L, 0 ≤ p.1 ∧ p.1 ≤ 16777215 ∧ 0 ≤ p.2 ∧ p.2 ≤ 1114111) := Hid.mk' (fun p hp => by have := hrng.out p hp; omega)
  have hpk : Hid (∀ w, PE.Rd w ao L → Calls Try.prog 17 #[.slice ao n cap] w fun e w' => ∃ ro rc, e = .returned (.tuple #[.slice ro Q.length rc, .int .i64 0]) ∧ RE.Own w' ro rc Q ∧ w.grownBy w' none) := Hid.mk' (fun w hw => by have := pack_any ao cap L w hw (by rw [hn0.out]; exact hc) hcm 0 hE Q hQ; rwa [hn0.out] at this)
  go_enter Try.func7, Try.ntmps7
  go_upto_region 4 with (go_at_call 17; refine (hpk.out _ hB0.out).mono ?_; rintro e w1 ⟨ro, rc, rfl, ho, hg1⟩)
  have hB1 := Hid.mk' (hB0.out.kept0 hg1)
  clear ho
  go_wp2_with (first
    | (go_at_call 21; refine (byCode_any ao cap L n hn0.out hn2 w1 hB1.out hc hcm).mono ?_; rintro e w2 ⟨g, rfl, ho2, hg2, hge⟩; have hB2 := Hid.mk' (hB1.out.kept0 hg2))
    | (go_at_call 22; refine (byScalar_any ao cap L n hn0.out hn2 w3 hB3.out hc hcm hr3.out hst.out).mono ?_; rintro e w4 ⟨g4, m4, D, rfl, hm4, hmn, hp4, hs4, hr4, hg4⟩; have hcb := Hid.mk' (comp_byScalar hasc.out hp4 hs4); rw [hcb.out] at hr4 hm4; have hm40 := Hid.mk' hm4; clear hm4)
    | (go_at_call_of 20 (Value.slice (some ⟨g, 0, none⟩) n n); refine (newSide_any g 0 n L n hn0.out hn2 w2 ho2.rd (Nat.le_refl _) (by omega) hr1.out hasc.out).mono ?_; rintro e w3 ⟨co, nc, bo, nb, cp, rfl, ⟨C, hs3⟩, hg3⟩; have hB3 := Hid.mk' (hB2.out.kept0 hg3))
    | (go_at_call_of 20 (Value.slice (some ⟨g4, 0, none⟩) m4 n); refine (newSide_any g4 0 n (byScalar L) m4 hm40.out.symm (by omega) w4 hr4 hmn (by omega) hr2.out (byScalar_asc L)).mono ?_; rintro e w5 ⟨co', nc', bo', nb', cp', rfl, ⟨C', hs5⟩, hg5⟩))
  go_ret2
  refine ⟨_, rfl, ⟨co, nc, bo, nb, cp, co', nc', bo', nb', cp', C, C', ?_⟩, ?_⟩
  · have hga := World.grownBy_alloc w5 (.cells #[.slice co nc nc, .slice bo nb cp, .slice co' nc' nc', .slice bo' nb' cp'] 60) none
    exact ⟨heap_alloc_new w5 _, ((hs3.kept hg4).kept hg5).kept hga, hs5.kept hga, hok0.out, by rw [hn0.out]; exact hn2⟩
  · exact grownBy_trans (grownBy_trans (grownBy_trans (grownBy_trans (grownBy_trans hg1 hg2) hg3) hg4) hg5) (World.grownBy_alloc w5 _ none)

theorem side_nb {w : World} {co : Option Addr} {nc : Nat} {bo : Option Addr} {nb cap : Nat} {Q : List Pr} {C : List Int} (h : SideOk w co nc bo nb cap Q C) (hl : Q.length ≤ 65536) : 1 ≤ nb ∧ nb ≤ 70000 ∧ nb ≤ cap := by
  have h1 := allB_le Q
  have h2 := h.nb
  have h3 := h.own.cap_le
  simp only [List.length_cons] at h3
  omega
set_option maxRecDepth 100000 in
set_option maxHeartbeats 1000000 in
theorem tScalar_any (T : Nat) (L : List Pr) (code : Int) (hk1 : -9223372036854775808 ≤ code) (hk2 : code ≤ 9223372036854775807) (w : World) (h : Trie w T L) (R : Option Int) (hR : Hid (pS L code = R)) :
    Calls Try.prog 10 #[.pointer (some ⟨T, 0, none⟩), .int .i64 code] w fun e w' => e = .returned (.tuple #[.int .i32 (R.getD 0), .bool R.isSome]) ∧ w.grownBy w' none := by
  obtain ⟨co, nc, bo, nb, cap, co', nc', bo', nb', cap', C, C', h⟩ := h
  have c0 := cell_at h.blk 0 (v := .slice co nc nc) rfl
  have c1 := cell_at h.blk 1 (v := .slice bo nb cap) rfl
  have hasc := (okP_asc L _ h.ok).2
  have hrng := okP_range h.ok
  obtain ⟨n1, n2, n3⟩ := side_nb h.codes h.len
  have hl := Hid.mk' (look_any T 0 co nc bo nb cap L C code hk1 hk2 w h.codes hasc (fun q hq => by have := hrng q hq; omega) n2 n3 c0 c1 R (Hid.mk' (by rw [look_pS, hR.out])))
  clear h hasc hrng
  go_enter Try.func10, Try.ntmps10
  go_wp2_with (go_at_call 24; refine hl.out.mono ?_; rintro e w1 ⟨he, hg⟩; obtain ⟨V, hV⟩ : ∃ V, Hid (V = R.getD 0) := ⟨_, Hid.mk' rfl⟩; obtain ⟨I, hI⟩ : ∃ I, Hid (I = R.isSome) := ⟨_, Hid.mk' rfl⟩; unfold lookV at he; rw [← hV.out, ← hI.out] at he; subst he)
  go_ret2
  exact ⟨by rw [← hV.out, ← hI.out]; rfl, hg⟩
set_option maxRecDepth 100000 in
set_option maxHeartbeats 1000000 in
theorem tCode_any (T : Nat) (L : List Pr) (u : Int) (hk1 : -2147483648 ≤ u) (hk2 : u ≤ 2147483647) (w : World) (h : Trie w T L) (R : Option Int) (hR : Hid (pC L u = R)) :
    Calls Try.prog 12 #[.pointer (some ⟨T, 0, none⟩), .int .i32 u] w fun e w' => e = .returned (.tuple #[.int .i64 (R.getD 0), .bool R.isSome]) ∧ w.grownBy w' none := by
  obtain ⟨co, nc, bo, nb, cap, co', nc', bo', nb', cap', C, C', h⟩ := h
  have c0 := cell_at h.blk 2 (v := .slice co' nc' nc') rfl
  have c1 := cell_at h.blk 3 (v := .slice bo' nb' cap') rfl
  have hasc := (okP_asc L _ h.ok).2
  have hrng := okP_range h.ok
  obtain ⟨n1, n2, n3⟩ := side_nb h.scalars (Nat.le_trans (byScalar_len L) h.len)
  have hl := Hid.mk' (look_any T 2 co' nc' bo' nb' cap' (byScalar L) C' u (by omega) (by omega) w h.scalars (byScalar_asc L) (fun q hq => by have := hrng _ (byScalar_mem hasc q hq); omega) n2 n3 c0 c1 R (Hid.mk' (by rw [byScalar_pC, hR.out])))
  have hVb : Hid (0 ≤ R.getD 0 ∧ R.getD 0 ≤ 16777215) := Hid.mk' (by
    cases R with
    | none => exact ⟨by simp, by simp⟩
    | some v =>
      have := hrng _ (pC_min L hasc u v hR.out).1
      simp only [Option.getD_some]
      omega)
  clear h hasc hrng
  go_enter Try.func12, Try.ntmps12
  go_wp2_with (go_at_call 24; refine hl.out.mono ?_; rintro e w1 ⟨he, hg⟩; obtain ⟨V, hV⟩ : ∃ V, Hid (V = R.getD 0) := ⟨_, Hid.mk' rfl⟩; obtain ⟨I, hI⟩ : ∃ I, Hid (I = R.isSome) := ⟨_, Hid.mk' rfl⟩; unfold lookV at he; rw [← hV.out, ← hI.out] at he; subst he; have hVb' := hVb.out; rw [← hV.out] at hVb'; obtain ⟨hV1, hV2⟩ := hVb')
  go_ret2
  exact ⟨by rw [← hV.out, ← hI.out]; rfl, hg⟩
set_option maxRecDepth 100000 in
set_option maxHeartbeats 1000000 in
theorem tBlocks_any (T : Nat) (L : List Pr) (w : World) (h : Trie w T L) (A B : Nat) (hA : Hid (blocksN L = A)) (hB : Hid (blocksN (byScalar L) = B)) :
    Calls Try.prog 14 #[.pointer (some ⟨T, 0, none⟩)] w fun e w' => e = .returned (.tuple #[.int .i64 (A : Int), .int .i64 (B : Int)]) ∧ w.grownBy w' none := by
  obtain ⟨co, nc, bo, nb, cap, co', nc', bo', nb', cap', C, C', h⟩ := h
  have c1 := cell_at h.blk 1 (v := .slice bo nb cap) rfl
  have c3 := cell_at h.blk 3 (v := .slice bo' nb' cap') rfl
  have hasc := (okP_asc L _ h.ok).2
  have hrng := okP_range h.ok
  obtain ⟨n1, n2, n3⟩ := side_nb h.codes h.len
  obtain ⟨m1, m2, m3⟩ := side_nb h.scalars (Nat.le_trans (byScalar_len L) h.len)
  have e1 : (nb : Int) - 1 = (A : Int) := by
    have h1 := h.codes.nb
    have h2 := allB_len hasc (fun q hq => (hrng q hq).2.1)
    have h3 := hA.out
    omega
  have e2 : (nb' : Int) - 1 = (B : Int) := by
    have h1 := h.scalars.nb
    have h2 := allB_len (byScalar_asc L) (fun q hq => by have := hrng _ (byScalar_mem hasc q hq); omega)
    have h3 := hB.out
    omega
  have k1 : ∀ n, Calls Try.prog 27 #[.pointer (some ⟨T, 0, none⟩)] (w.drewN n) fun e w' => e = .returned (.int .i64 (A : Int)) ∧ w' = w.drewN n := fun n => by
    have := count_any T 0 bo nb cap (w.drewN n) n1 n2 c1
    rwa [e1] at this
  have k2 : ∀ n, Calls Try.prog 27 #[.pointer (some ⟨T, 2, none⟩)] (w.drewN n) fun e w' => e = .returned (.int .i64 (B : Int)) ∧ w' = w.drewN n := fun n => by
    have := count_any T 2 bo' nb' cap' (w.drewN n) m1 m2 c3
    rwa [e2] at this
  have k10 := Hid.mk' k1
  have k20 := Hid.mk' k2
  clear h hasc hrng k1 k2 e1 e2
  go_enter Try.func14, Try.ntmps14
  go_wp2_with fail
  go_quiet (first
    | (go_at_call_of 27 (Value.pointer (some ⟨T, 0, none⟩)); exact Calls.quiet_of_same (k10.out _))
    | (go_at_call_of 27 (Value.pointer (some ⟨T, 2, none⟩)); exact Calls.quiet_of_same (k20.out _)))
  go_wp2_with fail
  go_ret2
  exact ⟨rfl, ⟨rfl, rfl, rfl, Nat.le_refl _, fun _ _ _ => rfl⟩⟩
end Go.Proofs.Ytcoiddmgcoeocaa.Tr
