/- What a table tells, in plain functions. -/
import Derived.Test.YtcoiddmgcoeocaaLk
import Derived.Test.YtcoiddmgcoeocaaPack
namespace Go.Proofs.Ytcoiddmgcoeocaa.Tr
open Go.Proofs.Ytcoiddmgcoeocaa.Mem Go.Proofs.Ytcoiddmgcoeocaa.Ucs Go.Proofs.Ytcoiddmgcoeocaa.El Go.Proofs.Ytcoiddmgcoeocaa.Rn
set_option linter.unusedVariables false

theorem okP_asc : ∀ (L : List Pr) (b : Int), okP b L = true → (∀ p ∈ L, b < p.1) ∧ Asc L
  | [], b, _ => ⟨by simp, List.Pairwise.nil⟩
  | p :: L, b, h => by
    obtain ⟨c, u⟩ := p
    obtain ⟨h1, h2, h3, h4⟩ := okP_cons.1 h
    obtain ⟨i1, i2⟩ := okP_asc L c h4
    refine ⟨?_, List.pairwise_cons.2 ⟨i1, i2⟩⟩
    intro q hq
    rcases List.mem_cons.1 hq with rfl | hq
    · exact h2
    · have := i1 q hq; omega
theorem okP_mem : ∀ (L : List Pr) (b : Int), okP b L = true → ∀ p ∈ L, (0 ≤ p.1 ∧ p.1 ≤ 16777215) ∧ scB p.2 = true
  | [], b, _ => by simp
  | p :: L, b, h => by
    obtain ⟨c, u⟩ := p
    obtain ⟨h1, h2, h3, h4⟩ := okP_cons.1 h
    intro q hq
    rcases List.mem_cons.1 hq with rfl | hq
    · exact ⟨h1, h3⟩
    · exact okP_mem L c h4 q hq
theorem okP_range {L : List Pr} (h : okP (-1) L = true) : ∀ p ∈ L, (0 ≤ p.1 ∧ p.1 ≤ 16777215) ∧ 0 ≤ p.2 ∧ p.2 ≤ 1114111 := by
  intro p hp
  obtain ⟨h1, h2⟩ := okP_mem L _ h p hp
  have := scB_iff.1 h2
  exact ⟨h1, by omega, by omega⟩
theorem look_pS : ∀ (L : List Pr) (c : Int), look L c = pS L c
  | [], c => rfl
  | p :: L, c => by
    unfold pS
    split
    · rename_i h; exact look_cons_eq h
    · rename_i h; rw [look_cons_ne h]; exact look_pS L c
theorem find_pC : ∀ (L : List Pr) (u : Int), (L.find? (fun p => p.2 == u)).map (·.1) = pC L u
  | [], u => rfl
  | p :: L, u => by
    unfold pC
    split
    · rename_i h; simp [h]
    · rename_i h
      have : (p.2 == u) = false := by simpa using h
      rw [List.find?_cons, this]
      exact find_pC L u
theorem byScalar_pC (L : List Pr) (u : Int) : look (byScalar L) u = pC L u := by rw [byScalar_look, find_pC]
theorem st_turned {L : List Pr} (h : Asc L) : St (turned L) := by
  unfold St turned
  rw [List.pairwise_map]
  refine List.Pairwise.imp ?_ h
  intro a b hab _
  exact hab
/-- The first of each number. -/
theorem compF_mem : ∀ (R : List Pr) (p : Pr), SL (p :: R) → (∀ x ∈ compF p R, p.1 < x.1 ∧ x ∈ R) ∧ Asc (compF p R) ∧ ∀ x ∈ R, p.1 < x.1 → (∀ y ∈ R, y.1 = x.1 → x.2 ≤ y.2) → x ∈ compF p R
  | [], p, _ => ⟨by simp [compF], List.Pairwise.nil, by simp⟩
  | z :: R, p, h => by
    have h1 := List.pairwise_cons.1 h
    have h2 : SL (z :: R) := h1.2
    have hzp : lx p z := h1.1 z (by simp)
    have h3 := List.pairwise_cons.1 h2
    obtain ⟨i1, i2, i3⟩ := compF_mem R z h2
    unfold compF
    by_cases hz : z.1 = p.1
    · rw [if_pos hz]
      refine ⟨fun x hx => ?_, i2, ?_⟩
      · obtain ⟨a, b⟩ := i1 x hx
        exact ⟨by omega, by simp [b]⟩
      · intro x hx hpx hmin
        rcases List.mem_cons.1 hx with rfl | hx
        · omega
        · exact i3 x hx (by omega) (fun y hy => hmin y (by simp [hy]))
    · rw [if_neg hz]
      have hpz : p.1 < z.1 := by unfold lx at hzp; omega
      refine ⟨fun x hx => ?_, List.pairwise_cons.2 ⟨fun x hx => (i1 x hx).1, i2⟩, ?_⟩
      · rcases List.mem_cons.1 hx with rfl | hx
        · exact ⟨hpz, by simp⟩
        · obtain ⟨a, b⟩ := i1 x hx
          exact ⟨by omega, by simp [b]⟩
      · intro x hx hpx hmin
        rcases List.mem_cons.1 hx with rfl | hx
        · simp
        · by_cases hxz : z.1 < x.1
          · exact List.mem_cons_of_mem _ (i3 x hx hxz (fun y hy => hmin y (by simp [hy])))
          · have hl := h3.1 x hx
            have := hmin z (by simp)
            unfold lx at hl
            omega
theorem comp_asc {D : List Pr} (h : SL D) : Asc (comp D) := by
  cases D with
  | nil => exact List.Pairwise.nil
  | cons p R =>
    obtain ⟨i1, i2, i3⟩ := compF_mem R p h
    exact List.pairwise_cons.2 ⟨fun x hx => (i1 x hx).1, i2⟩
theorem comp_sub : ∀ (R : List Pr) (p : Pr), ∀ x ∈ compF p R, x ∈ R
  | [], p => by simp [compF]
  | z :: R, p => by
    intro x hx
    unfold compF at hx
    split at hx
    · exact List.mem_cons_of_mem _ (comp_sub R z x hx)
    · rcases List.mem_cons.1 hx with rfl | hx
      · simp
      · exact List.mem_cons_of_mem _ (comp_sub R z x hx)
theorem comp_mem_sub {D : List Pr} : ∀ x ∈ comp D, x ∈ D := by
  cases D with
  | nil => simp [comp]
  | cons p R =>
    intro x hx
    rcases List.mem_cons.1 hx with rfl | hx
    · simp
    · exact List.mem_cons_of_mem _ (comp_sub R p x hx)
theorem comp_min {D : List Pr} (h : SL D) {x : Pr} (hx : x ∈ D) (hmin : ∀ y ∈ D, y.1 = x.1 → x.2 ≤ y.2) : x ∈ comp D := by
  cases D with
  | nil => simp at hx
  | cons p R =>
    obtain ⟨i1, i2, i3⟩ := compF_mem R p h
    have h1 := List.pairwise_cons.1 h
    rcases List.mem_cons.1 hx with rfl | hx
    · exact List.mem_cons_self
    · have hl := h1.1 x hx
      by_cases hpx : p.1 < x.1
      · exact List.mem_cons_of_mem _ (i3 x hx hpx (fun y hy => hmin y (by simp [hy])))
      · have := hmin p (by simp)
        unfold lx at hl
        omega
theorem pC_min : ∀ (L : List Pr), Asc L → ∀ (u v : Int), pC L u = some v → (v, u) ∈ L ∧ ∀ c, (c, u) ∈ L → v ≤ c
  | [], _, u, v, h => by simp [pC] at h
  | p :: L, ha, u, v, h => by
    have hp := List.pairwise_cons.1 ha
    unfold pC at h
    split at h
    · rename_i he
      simp at h
      subst h
      subst he
      refine ⟨List.mem_cons_self, fun c hc => ?_⟩
      rcases List.mem_cons.1 hc with e | hc
      · rw [← e]; exact Int.le_refl _
      · have := hp.1 _ hc; simp only at this; omega
    · rename_i he
      obtain ⟨i1, i2⟩ := pC_min L hp.2 u v h
      refine ⟨List.mem_cons_of_mem _ i1, fun c hc => ?_⟩
      rcases List.mem_cons.1 hc with e | hc
      · exact absurd (by rw [← e]) he
      · exact i2 c hc
theorem pC_some : ∀ (L : List Pr) (c u : Int), (c, u) ∈ L → ∃ v, pC L u = some v
  | [], c, u, h => by simp at h
  | p :: L, c, u, h => by
    unfold pC
    split
    · exact ⟨_, rfl⟩
    · rename_i he
      rcases List.mem_cons.1 h with e | h
      · exact absurd (by rw [← e]) he
      · exact pC_some L c u h
theorem asc_unique : ∀ (A B : List Pr), Asc A → Asc B → (∀ x, x ∈ A ↔ x ∈ B) → A = B
  | [], [], _, _, _ => rfl
  | [], b :: B, _, _, h => by have := (h b).2 (by simp); simp at this
  | a :: A, [], _, _, h => by have := (h a).1 (by simp); simp at this
  | a :: A, b :: B, hA, hB, h => by
    have pa := List.pairwise_cons.1 hA
    have pb := List.pairwise_cons.1 hB
    have hab : a = b := by
      rcases List.mem_cons.1 ((h a).1 (by simp)) with e | e
      · exact e
      · rcases List.mem_cons.1 ((h b).2 (by simp)) with e2 | e2
        · exact e2.symm
        · have h1 := pb.1 a e
          have h2 := pa.1 b e2
          omega
    subst hab
    rw [asc_unique A B pa.2 pb.2 (fun x => ?_)]
    constructor
    · intro hx
      rcases List.mem_cons.1 ((h x).1 (by simp [hx])) with e | e
      · subst e; have := pa.1 x hx; omega
      · exact e
    · intro hx
      rcases List.mem_cons.1 ((h x).2 (by simp [hx])) with e | e
      · subst e; have := pb.1 x hx; omega
      · exact e
/-- The sort and what follows it make the document's list by scalars. -/
theorem comp_byScalar {L D : List Pr} (ha : Asc L) (hp : D.Perm (turned L)) (hs : SL D) : comp D = byScalar L := by
  have hmemT : ∀ x : Pr, x ∈ D ↔ (x.2, x.1) ∈ L := by
    intro x
    rw [hp.mem_iff]
    unfold turned
    rw [List.mem_map]
    constructor
    · rintro ⟨p, hp, rfl⟩; exact hp
    · intro h; exact ⟨_, h, rfl⟩
  refine asc_unique _ _ (comp_asc hs) (byScalar_asc L) (fun x => ?_)
  obtain ⟨u, v⟩ := x
  rw [← look_mem (byScalar_asc L) u v, byScalar_pC]
  constructor
  · intro hx
    have hxD := comp_mem_sub _ hx
    have hxL := (hmemT _).1 hxD
    obtain ⟨v', hv'⟩ := pC_some L v u hxL
    obtain ⟨m1, m2⟩ := pC_min L ha u v' hv'
    have hx' : (u, v') ∈ comp D := comp_min hs ((hmemT (u, v')).2 m1) (fun y hy e => m2 y.2 (by have := (hmemT y).1 hy; rw [e] at this; exact this))
    have e1 := (look_mem (comp_asc hs) u v).2 hx
    have e2 := (look_mem (comp_asc hs) u v').2 hx'
    rw [e1] at e2
    rw [hv', Option.some.inj e2]
  · intro hv
    obtain ⟨m1, m2⟩ := pC_min L ha u v hv
    exact comp_min hs ((hmemT (u, v)).2 m1) (fun y hy e => m2 y.2 (by have := (hmemT y).1 hy; rw [e] at this; exact this))
theorem byScalar_mem {L : List Pr} (ha : Asc L) : ∀ x ∈ byScalar L, (x.2, x.1) ∈ L := by
  intro x hx
  obtain ⟨u, v⟩ := x
  have := (look_mem (byScalar_asc L) u v).2 hx
  rw [byScalar_pC] at this
  exact (pC_min L ha u v this).1
theorem allB_le (Q : List Pr) : (allB Q).length ≤ Q.length := by
  unfold allB
  refine Nat.le_trans (length_nub _) ?_
  rw [List.length_map]
  refine Nat.le_trans (length_nub _) ?_
  rw [List.length_map]
  exact Nat.le_refl _
theorem byScalar_len (L : List Pr) : (byScalar L).length ≤ L.length := by
  unfold byScalar
  rw [List.length_map, (msort_perm _ (firsts L) (Nat.le_refl _)).length_eq]
  exact (firsts_sub L).2
end Go.Proofs.Ytcoiddmgcoeocaa.Tr
