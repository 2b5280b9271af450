/- The document's Blocks: what lies in memory while the scalars are gone through. -/
import Derived.Test.YtcoiddmgcoeocaaSt
namespace Go.Proofs.Ytcoiddmgcoeocaa.Tr
open Go.ChangeShapes Go.WideShapes Go.ChangeAt Go.RowKit Go.Maps Go.Proofs.Ytcoiddmgcoeocaa.Mem Go.Proofs.Ytcoiddmgcoeocaa.Ucs Go.Proofs.Ytcoiddmgcoeocaa.El
set_option linter.unusedVariables false
set_option linter.unusedSimpArgs false

theorem mem_merge : ∀ (n : Nat) (A B : List Pr), A.length + B.length ≤ n → ∀ x, x ∈ merge A B ↔ x ∈ A ∨ x ∈ B := by
  intro n
  induction n with
  | zero =>
    intro A B h x
    have h1 : A = [] := List.length_eq_zero_iff.1 (by omega)
    subst h1
    rw [merge_nil_left]; simp
  | succ n ih =>
    intro A B h x
    cases A with
    | nil => rw [merge_nil_left]; simp
    | cons a A =>
      cases B with
      | nil => rw [merge_nil_right]; simp
      | cons b B =>
        simp only [List.length_cons] at h
        by_cases hab : a.2 ≤ b.2
        · rw [merge_le hab, List.mem_cons, ih A (b :: B) (by simp; omega), List.mem_cons, List.mem_cons (l := A), or_assoc]
        · rw [merge_gt hab, List.mem_cons, ih (a :: A) B (by simp; omega), List.mem_cons, List.mem_cons]
          constructor
          · rintro (h1 | (h1 | h1) | h1)
            · exact .inr (.inl h1)
            · exact .inl (.inl h1)
            · exact .inl (.inr h1)
            · exact .inr (.inr h1)
          · rintro ((h1 | h1) | h1 | h1)
            · exact .inr (.inl (.inl h1))
            · exact .inr (.inl (.inr h1))
            · exact .inl h1
            · exact .inr (.inr h1)
theorem mem_msort : ∀ (n : Nat) (L : List Pr), L.length ≤ n → ∀ x, x ∈ msort L ↔ x ∈ L := by
  intro n
  induction n with
  | zero => intro L h x; rw [msort_small (by omega)]
  | succ n ih =>
    intro L h x
    by_cases hs : L.length < 2
    · rw [msort_small hs]
    · rw [msort_big hs, mem_merge _ _ _ (Nat.le_refl _), ih _ (by rw [List.length_take]; omega), ih _ (by rw [List.length_drop]; omega), ← List.mem_append, List.take_append_drop]

/-- The second half: w3 the world when it begins. -/
structure St2 (w w3 wx : World) (m2 : Nat) (bo : Option Addr) (bc : Nat) (K : List Int) (F : Lit → DataW Unit) (n : Nat) : Prop where
  s : MF wx 3 9 m2 eStr F n
  b : IE.Own wx bo bc K
  hb : ∀ g, blk bo = some g → w3.heap.size ≤ g
  k3 : ∀ j, j < w3.heap.size → j ≠ m2 → wx.heap[j]? = w3.heap[j]?
  sz : w3.heap.size ≤ wx.heap.size
  gr : w.grownBy wx none
  h2 : w.heap.size ≤ m2
  mp : ∃ es clock, w3.heap[m2]? = some (.map es clock)
section
variable {w w3 wx w1 w2 : World} {m2 : Nat} {bo : Option Addr} {bc : Nat} {K : List Int} {F : Lit → DataW Unit} {n : Nat}
theorem St2.m2lt (h : St2 w w3 wx m2 bo bc K F n) : m2 < w3.heap.size := by obtain ⟨es, clock, hm⟩ := h.mp; exact lt_of_block hm
theorem St2.rd {α : Type} {E : Elem α} (h : St2 w w3 wx m2 bo bc K F n) {ao : Option Addr} {L : List α} (hr : E.Rd w3 ao L) : E.Rd wx ao L := by
  rcases hr with hr | ⟨a, rfl, hc⟩
  · exact .inl hr
  · refine .inr ⟨a, rfl, fun j u hu => ?_⟩
    have hx := hc j u hu
    have hlt := World.block_lt_of_cell? w3 _ hx
    have hne : (a.add j).block ≠ m2 := by
      intro e
      obtain ⟨es, clock, hm⟩ := h.mp
      simp [World.cell?, e, hm] at hx
    have he := h.k3 _ hlt hne
    unfold World.cell? at hx ⊢
    rw [he]
    exact hx
theorem St2.mf (h : St2 w w3 wx m2 bo bc K F n) {m1 k e N : Nat} {zd : DataW Unit} {G : Lit → DataW Unit} (hm : MF w3 k e m1 zd G N) (hne : m1 ≠ m2) : MF wx k e m1 zd G N := hm.same (h.k3 m1 hm.lt hne)
theorem St2.kept0 (h : St2 w w3 wx m2 bo bc K F n) (hg : wx.grownBy w1 none) : St2 w w3 w1 m2 bo bc K F n :=
  ⟨h.s.kept0 hg, h.b.kept0 hg, h.hb, fun j hj hne => (hg.block j (Nat.lt_of_lt_of_le hj h.sz) (by simp)).trans (h.k3 j hj hne), Nat.le_trans h.sz hg.size, grownBy_trans h.gr hg, h.h2, h.mp⟩
theorem St2.appB (h : St2 w w3 wx m2 bo bc K F n) (hw3 : w.heap.size ≤ w3.heap.size) (hg : wx.grownBy w2 (blk bo)) {bo' : Option Addr} {bc' : Nat} {K' : List Int} (ho : IE.Own w2 bo' bc' K') (hat : bo' = bo ∨ bo' = some ⟨wx.heap.size, 0, none⟩) : St2 w w3 w2 m2 bo' bc' K' F n := by
  obtain ⟨e1, c1, b1⟩ := h.s.isMap
  refine ⟨h.s.kept hg (own_ne h.b b1), ho, ?_, fun j hj hne => (hg.block j (Nat.lt_of_lt_of_le hj h.sz) (fun e => by have := h.hb j e.symm; omega)).trans (h.k3 j hj hne), Nat.le_trans h.sz hg.size, grownBy_new h.gr hg (fun g e => by have := h.hb g e; omega), h.h2, h.mp⟩
  intro g e
  rcases hat with rfl | rfl
  · exact h.hb g e
  · have e1 : wx.heap.size = g := Option.some.inj e
    have := h.sz
    omega
theorem St2.putS (h : St2 w w3 wx m2 bo bc K F n) (hg : wx.grownBy w2 (some m2)) {G : Lit → DataW Unit} {n' : Nat} (ho : MF w2 3 9 m2 eStr G n') : St2 w w3 w2 m2 bo bc K G n' := by
  obtain ⟨e1, c1, b1⟩ := h.s.isMap
  exact ⟨ho, h.b.kept hg (ne_row h.b b1), h.hb, fun j hj hne => (hg.block j (Nat.lt_of_lt_of_le hj h.sz) (fun e => hne (Option.some.inj e))).trans (h.k3 j hj hne), Nat.le_trans h.sz hg.size, grownBy_new h.gr hg (fun g e => by have := Option.some.inj e; have := h.h2; omega), h.h2, h.mp⟩
theorem StB.two {m1 m3 : Nat} {ao po : Option Addr} {ac pc : Nat} {Fp : List Pr} {F1 F2 F3 : Lit → DataW Unit} {n1 n2 n3 : Nat} (h : StB w w3 m1 m2 m3 ao po ac pc K Fp F1 F2 F3 n1 n2 n3) : St2 w w3 w3 m2 none 0 [] F2 n2 :=
  ⟨h.s, .inl ⟨rfl, rfl, rfl⟩, (by intro g e; cases e), fun _ _ _ => rfl, Nat.le_refl _, h.gr, h.h2, h.s.isMap⟩
end
theorem keys_bound {Q : List (Int × Int)} (h : ∀ q ∈ Q, 0 ≤ q.1 ∧ q.1 ≤ 16777215) : ∀ k ∈ keys Q, 0 ≤ k ∧ k ≤ 262143 := by
  intro k hk
  obtain ⟨q, hq, rfl⟩ := List.mem_map.1 ((mem_nub _ _).1 hk)
  obtain ⟨a, b⟩ := h q hq
  omega
end Go.Proofs.Ytcoiddmgcoeocaa.Tr
