/- The document's Blocks: what lies in memory while it goes on. -/
import Derived.Test.YtcoiddmgcoeocaaDiff
import Derived.Test.YtcoiddmgcoeocaaSrt
namespace Go.Proofs.Ytcoiddmgcoeocaa.Tr
open Go.ChangeShapes Go.WideShapes Go.ChangeAt Go.RowKit Go.Maps Go.Proofs.Ytcoiddmgcoeocaa.Mem Go.Proofs.Ytcoiddmgcoeocaa.Ucs Go.Proofs.Ytcoiddmgcoeocaa.El
set_option linter.unusedVariables false
set_option linter.unusedSimpArgs false

/-- Pairs with a scalar that none ahead of them has. -/
def addF (a : List Pr) (p : Pr) : List Pr := if p.2 ∈ a.map (·.2) then a else a ++ [p]
def firsts (P : List Pr) : List Pr := P.foldl addF []
theorem firsts_snoc (P : List Pr) (p : Pr) : firsts (P ++ [p]) = addF (firsts P) p := by simp [firsts, List.foldl_append]
theorem firsts_mem (P : List Pr) : ∀ x, x ∈ (firsts P).map (·.2) ↔ x ∈ P.map (·.2) := by
  have gen : ∀ (P a : List Pr) (x : Int), x ∈ (P.foldl addF a).map (·.2) ↔ x ∈ a.map (·.2) ∨ x ∈ P.map (·.2) := by
    intro P
    induction P with
    | nil => intro a x; simp
    | cons p P ih =>
      intro a x
      rw [List.foldl_cons, ih]
      unfold addF
      by_cases h : p.2 ∈ a.map (·.2)
      · rw [if_pos h, List.map_cons, List.mem_cons]
        constructor
        · rintro (h1 | h1)
          · exact .inl h1
          · exact .inr (.inr h1)
        · rintro (h1 | rfl | h1)
          · exact .inl h1
          · exact .inl h
          · exact .inr h1
      · rw [if_neg h, List.map_append, List.mem_append, List.map_cons, List.mem_cons, List.map_cons, List.mem_cons, List.map_nil]
        simp only [List.not_mem_nil, or_false, or_assoc]
  intro x
  have := gen P [] x
  simpa [firsts] using this
theorem firsts_sub (P : List Pr) : (∀ q ∈ firsts P, q ∈ P) ∧ (firsts P).length ≤ P.length := by
  have gen : ∀ (P a : List Pr), (∀ q ∈ P.foldl addF a, q ∈ a ∨ q ∈ P) ∧ (P.foldl addF a).length ≤ a.length + P.length := by
    intro P
    induction P with
    | nil => intro a; simp
    | cons p P ih =>
      intro a
      obtain ⟨h1, h2⟩ := ih (addF a p)
      have hl : (addF a p).length ≤ a.length + 1 := by unfold addF; split <;> simp
      refine ⟨?_, by rw [List.foldl_cons, List.length_cons]; omega⟩
      intro q hq
      rw [List.foldl_cons] at hq
      rcases h1 q hq with h | h
      · unfold addF at h
        split at h
        · exact .inl h
        · rcases List.mem_append.1 h with h | h
          · exact .inl h
          · exact .inr (by simp at h; simp [h])
      · exact .inr (by simp [h])
  have := gen P []
  simpa [firsts] using this
theorem take_snoc {α : Type} {L : List α} {i : Nat} (hi : i < L.length) : L.take (i + 1) = L.take i ++ [L[i]] := List.take_succ_eq_append_getElem hi

theorem item_len {c : Int × Int} : (itemC c).length ≤ 25 := by
  have sz : ∀ u : Int, (hexL u).length ≤ 8 := by
    intro u
    unfold hexL hex
    split
    · have e : (⟨#[85, 43]⟩ ++ low (cnt u) u : ByteArray).data.toList.length = 2 + cnt u := by
        rw [Array.length_toList]
        show (⟨#[85, 43]⟩ ++ low (cnt u) u : ByteArray).size = _
        rw [ByteArray.size_append, low_size]
        rfl
      rw [e]
      have := cnt_le u
      omega
    · simp
  unfold itemC
  have h1 := sz c.1
  have h2 := sz (c.2 % 4096)
  have h3 := sz (c.2 / 4096)
  simp only [List.length_append, List.length_cons, List.length_nil]
  omega
theorem txt_len (C : List (Int × Int)) : (txtC C).length ≤ 25 * C.length := by
  induction C with
  | nil => simp [txtC]
  | cons c C ih =>
    have := item_len (c := c)
    have e : txtC (c :: C) = itemC c ++ txtC C := by simp [txtC]
    rw [e, List.length_append, List.length_cons]
    omega
theorem cont_len (Q : List (Int × Int)) (k : Int) : (cont Q k).length ≤ Q.length := by
  unfold cont
  rw [List.length_map]
  exact List.length_filter_le _ _

/-- The maps of texts and of scalars, and the two rows, while pairs are gone through. -/
structure StB (w0 wx : World) (m1 m2 m3 : Nat) (ao po : Option Addr) (ac pc : Nat) (K : List Int) (Fp : List Pr) (F1 F2 F3 : Lit → DataW Unit) (n1 n2 n3 : Nat) : Prop where
  c : MF wx 3 9 m1 eStr F1 n1
  s : MF wx 3 9 m2 eStr F2 n2
  n : MF wx 21 4 m3 eBool F3 n3
  a : IE.Own wx ao ac K
  p : PE.Own wx po pc Fp
  gr : w0.grownBy wx none
  h1 : w0.heap.size ≤ m1
  h2 : w0.heap.size ≤ m2
  h3 : w0.heap.size ≤ m3
  d12 : m1 ≠ m2
  d13 : m1 ≠ m3
  d23 : m2 ≠ m3
  ha : ∀ g, blk ao = some g → w0.heap.size ≤ g
  hp : ∀ g, blk po = some g → w0.heap.size ≤ g
theorem own_ne {α : Type} {E : Elem α} {w : World} {ao : Option Addr} {cap : Nat} {L : List α} (h : E.Own w ao cap L) {b : Nat} {es : Array MapEntry} {clock : Nat} (hb : w.heap[b]? = some (.map es clock)) : some b ≠ blk ao := by
  intro e
  rcases h with ⟨rfl, _⟩ | ⟨g, cur, rfl, hh, _⟩
  · cases e
  · obtain rfl : b = g := Option.some.inj e
    rw [hb] at hh
    cases hh
theorem own_ne2 {α β : Type} {E : Elem α} {G : Elem β} {w : World} {ao bo : Option Addr} {ac bc : Nat} {L : List α} {M : List β} (h : E.Own w ao ac L) (k : G.Own w bo bc M) (ht : E.ty ≠ G.ty) : blk ao = none ∨ blk ao ≠ blk bo := by
  rcases h with ⟨rfl, _⟩ | ⟨g, cur, rfl, hh, _⟩
  · exact .inl rfl
  · refine .inr (fun e => ?_)
    rcases k with ⟨rfl, _⟩ | ⟨g', cur', rfl, hh', _⟩
    · cases e
    · obtain rfl : g = g' := Option.some.inj e
      rw [hh] at hh'
      simp at hh'
      exact ht hh'.2
section
variable {w0 wx w1 w2 : World} {m1 m2 m3 : Nat} {ao po : Option Addr} {ac pc : Nat} {K : List Int} {Fp : List Pr} {F1 F2 F3 : Lit → DataW Unit} {n1 n2 n3 : Nat}
theorem StB.kept0 (h : StB w0 wx m1 m2 m3 ao po ac pc K Fp F1 F2 F3 n1 n2 n3) (hg : wx.grownBy w1 none) : StB w0 w1 m1 m2 m3 ao po ac pc K Fp F1 F2 F3 n1 n2 n3 :=
  ⟨h.c.kept0 hg, h.s.kept0 hg, h.n.kept0 hg, h.a.kept0 hg, h.p.kept0 hg, grownBy_trans h.gr hg, h.h1, h.h2, h.h3, h.d12, h.d13, h.d23, h.ha, h.hp⟩
theorem StB.appA (h : StB w0 wx m1 m2 m3 ao po ac pc K Fp F1 F2 F3 n1 n2 n3) (hg : wx.grownBy w2 (blk ao)) {ao' : Option Addr} {ac' : Nat} {K' : List Int} (ho : IE.Own w2 ao' ac' K') (hat : ao' = ao ∨ ao' = some ⟨wx.heap.size, 0, none⟩) : StB w0 w2 m1 m2 m3 ao' po ac' pc K' Fp F1 F2 F3 n1 n2 n3 := by
  obtain ⟨e1, c1, b1⟩ := h.c.isMap
  obtain ⟨e2, c2, b2⟩ := h.s.isMap
  obtain ⟨e3, c3, b3⟩ := h.n.isMap
  refine ⟨h.c.kept hg (own_ne h.a b1), h.s.kept hg (own_ne h.a b2), h.n.kept hg (own_ne h.a b3), ho, h.p.kept hg (own_ne2 h.p h.a (by decide)), grownBy_new h.gr hg (fun g e => h.ha g e), h.h1, h.h2, h.h3, h.d12, h.d13, h.d23, ?_, h.hp⟩
  intro g e
  rcases hat with rfl | rfl
  · exact h.ha g e
  · have e1 : wx.heap.size = g := Option.some.inj e
    have := h.gr.size
    omega
theorem StB.appP (h : StB w0 wx m1 m2 m3 ao po ac pc K Fp F1 F2 F3 n1 n2 n3) (hg : wx.grownBy w2 (blk po)) {po' : Option Addr} {pc' : Nat} {Fp' : List Pr} (ho : PE.Own w2 po' pc' Fp') (hat : po' = po ∨ po' = some ⟨wx.heap.size, 0, none⟩) : StB w0 w2 m1 m2 m3 ao po' ac pc' K Fp' F1 F2 F3 n1 n2 n3 := by
  obtain ⟨e1, c1, b1⟩ := h.c.isMap
  obtain ⟨e2, c2, b2⟩ := h.s.isMap
  obtain ⟨e3, c3, b3⟩ := h.n.isMap
  refine ⟨h.c.kept hg (own_ne h.p b1), h.s.kept hg (own_ne h.p b2), h.n.kept hg (own_ne h.p b3), h.a.kept hg (own_ne2 h.a h.p (by decide)), ho, grownBy_new h.gr hg (fun g e => h.hp g e), h.h1, h.h2, h.h3, h.d12, h.d13, h.d23, h.ha, ?_⟩
  intro g e
  rcases hat with rfl | rfl
  · exact h.hp g e
  · have e1 : wx.heap.size = g := Option.some.inj e
    have := h.gr.size
    omega
theorem ne_row {α : Type} {E : Elem α} {ao : Option Addr} {ac : Nat} {L : List α} (h : E.Own wx ao ac L) {b : Nat} {es : Array MapEntry} {clock : Nat} (hb : wx.heap[b]? = some (.map es clock)) : blk ao = none ∨ blk ao ≠ some b := .inr (Ne.symm (own_ne h hb))
theorem StB.putC (h : StB w0 wx m1 m2 m3 ao po ac pc K Fp F1 F2 F3 n1 n2 n3) (hg : wx.grownBy w2 (some m1)) {G : Lit → DataW Unit} {n' : Nat} (ho : MF w2 3 9 m1 eStr G n') : StB w0 w2 m1 m2 m3 ao po ac pc K Fp G F2 F3 n' n2 n3 := by
  obtain ⟨e1, c1, b1⟩ := h.c.isMap
  exact ⟨ho, h.s.kept hg (fun e => h.d12 (Option.some.inj e).symm), h.n.kept hg (fun e => h.d13 (Option.some.inj e).symm), h.a.kept hg (ne_row h.a b1), h.p.kept hg (ne_row h.p b1), grownBy_new h.gr hg (fun g e => by have := Option.some.inj e; have := h.h1; omega), h.h1, h.h2, h.h3, h.d12, h.d13, h.d23, h.ha, h.hp⟩
theorem StB.putS (h : StB w0 wx m1 m2 m3 ao po ac pc K Fp F1 F2 F3 n1 n2 n3) (hg : wx.grownBy w2 (some m2)) {G : Lit → DataW Unit} {n' : Nat} (ho : MF w2 3 9 m2 eStr G n') : StB w0 w2 m1 m2 m3 ao po ac pc K Fp F1 G F3 n1 n' n3 := by
  obtain ⟨e1, c1, b1⟩ := h.s.isMap
  exact ⟨h.c.kept hg (fun e => h.d12 (Option.some.inj e)), ho, h.n.kept hg (fun e => h.d23 (Option.some.inj e).symm), h.a.kept hg (ne_row h.a b1), h.p.kept hg (ne_row h.p b1), grownBy_new h.gr hg (fun g e => by have := Option.some.inj e; have := h.h2; omega), h.h1, h.h2, h.h3, h.d12, h.d13, h.d23, h.ha, h.hp⟩
theorem StB.putN (h : StB w0 wx m1 m2 m3 ao po ac pc K Fp F1 F2 F3 n1 n2 n3) (hg : wx.grownBy w2 (some m3)) {G : Lit → DataW Unit} {n' : Nat} (ho : MF w2 21 4 m3 eBool G n') : StB w0 w2 m1 m2 m3 ao po ac pc K Fp F1 F2 G n1 n2 n' := by
  obtain ⟨e1, c1, b1⟩ := h.n.isMap
  exact ⟨h.c.kept hg (fun e => h.d13 (Option.some.inj e)), h.s.kept hg (fun e => h.d23 (Option.some.inj e)), ho, h.a.kept hg (ne_row h.a b1), h.p.kept hg (ne_row h.p b1), grownBy_new h.gr hg (fun g e => by have := Option.some.inj e; have := h.h3; omega), h.h1, h.h2, h.h3, h.d12, h.d13, h.d23, h.ha, h.hp⟩
end
/-- The texts of a list's blocks. -/
def TX (Q : List (Int × Int)) (k : Int) : List UInt8 := txtC (cont Q k)
theorem TX_len (Q : List (Int × Int)) (k : Int) : (TX Q k).length ≤ 25 * Q.length := Nat.le_trans (txt_len _) (Nat.mul_le_mul_left _ (cont_len Q k))
theorem TX_nil (Q : List (Int × Int)) (k : Int) : (TX Q k).isEmpty = decide (k ∉ keys Q) := by
  have h := cont_nil Q k
  have h2 := txt_nil (cont Q k)
  unfold TX
  by_cases hk : k ∈ keys Q
  · have : ¬ txtC (cont Q k) = [] := fun e => (h.1 (h2.1 e)) hk
    simp [hk, this]
  · have : txtC (cont Q k) = [] := h2.2 (h.2 hk)
    simp [hk, this]
theorem TX_snoc (Q : List (Int × Int)) (q : Int × Int) : TX (Q ++ [q]) (q.1 / 64) = TX Q (q.1 / 64) ++ itemC (q.1 % 64, q.2) ∧ ∀ k, k ≠ q.1 / 64 → TX (Q ++ [q]) k = TX Q k := by
  unfold TX
  refine ⟨?_, ?_⟩
  · rw [cont_snoc, if_pos rfl, txt_snoc]
  · intro k hk
    rw [cont_snoc, if_neg (Ne.symm hk)]
theorem FT_put (Q : List (Int × Int)) (q : Int × Int) : FT (TX (Q ++ [q])) (.int .i64 (q.1 / 64)) = .lit (.string (TX Q (q.1 / 64) ++ itemC (q.1 % 64, q.2))) ∧ ∀ x, WideAt.IsKeyLit x → x ≠ .int .i64 (q.1 / 64) → FT (TX (Q ++ [q])) x = FT (TX Q) x := by
  obtain ⟨h1, h2⟩ := TX_snoc Q q
  refine ⟨by simp only [FT]; rw [h1], ?_⟩
  intro x _ hne
  cases x with
  | int a b =>
    cases a with
    | i64 =>
      have hb : b ≠ q.1 / 64 := fun e => hne (by rw [e])
      simp only [FT]
      rw [h2 b hb]
    | _ => rfl
  | _ => rfl
theorem FR_put (S : List Int) (u : Int) : FR (S ++ [u]) (.int .i32 u) = .lit (.bool true) ∧ ∀ x, WideAt.IsKeyLit x → x ≠ .int .i32 u → FR (S ++ [u]) x = FR S x := by
  refine ⟨by simp [FR], ?_⟩
  intro x _ hne
  cases x with
  | int a b =>
    cases a with
    | i32 =>
      have hb : b ≠ u := fun e => hne (by rw [e])
      simp [FR, hb]
    | _ => rfl
  | _ => rfl
theorem FT_none : FT (TX []) = fun _ => eStr := by
  funext x
  cases x with
  | int a b => cases a <;> rfl
  | _ => rfl
theorem FR_none : FR [] = fun _ => eBool := by
  funext x
  cases x with
  | int a b => cases a <;> rfl
  | _ => rfl
end Go.Proofs.Ytcoiddmgcoeocaa.Tr
