/- Pairs by their scalars: the document's, a walk. -/
import Derived.Test.YtcoiddmgcoeocaaPp
namespace Go.Proofs.Ytcoiddmgcoeocaa.Tr
open Go.ChangeShapes Go.WideShapes Go.ChangeAt Go.RowKit Go.Maps Go.Proofs.Ytcoiddmgcoeocaa.Mem Go.Proofs.Ytcoiddmgcoeocaa.Ucs Go.Proofs.Ytcoiddmgcoeocaa.El
set_option linter.unusedVariables false
set_option linter.unusedSimpArgs false

/-- Two lists merged, in so many steps at most. -/
def mergeF : Nat → List Pr → List Pr → List Pr
  | 0, A, B => A ++ B
  | _ + 1, [], B => B
  | _ + 1, x :: A, [] => x :: A
  | f + 1, x :: A, y :: B => if x.2 ≤ y.2 then x :: mergeF f A (y :: B) else y :: mergeF f (x :: A) B
def merge (A B : List Pr) : List Pr := mergeF (A.length + B.length) A B
theorem mergeF_nil (f : Nat) (B : List Pr) : mergeF f [] B = B := by cases f <;> rfl
theorem mergeF_nil' (f : Nat) (A : List Pr) : mergeF f A [] = A := by
  cases f with
  | zero => simp [mergeF]
  | succ f => cases A <;> rfl
theorem merge_nil_left (B : List Pr) : merge [] B = B := mergeF_nil _ B
theorem merge_nil_right (A : List Pr) : merge A [] = A := mergeF_nil' _ A
theorem merge_le {x y : Pr} {A B : List Pr} (h : x.2 ≤ y.2) : merge (x :: A) (y :: B) = x :: merge A (y :: B) := by
  unfold merge
  rw [show (x :: A).length + (y :: B).length = (A.length + (y :: B).length) + 1 by simp only [List.length_cons]; omega, mergeF, if_pos h]
theorem merge_gt {x y : Pr} {A B : List Pr} (h : ¬ x.2 ≤ y.2) : merge (x :: A) (y :: B) = y :: merge (x :: A) B := by
  unfold merge
  rw [show (x :: A).length + (y :: B).length = ((x :: A).length + B.length) + 1 by simp only [List.length_cons]; omega, mergeF, if_neg h]
/-- A list sorted by halves, in so many steps at most. -/
def msortF : Nat → List Pr → List Pr
  | 0, L => L
  | f + 1, L => if L.length < 2 then L else merge (msortF f (L.take (L.length / 2))) (msortF f (L.drop (L.length / 2)))
def msort (L : List Pr) : List Pr := msortF L.length L
theorem msortF_fuel : ∀ (f g : Nat) (L : List Pr), L.length ≤ f → L.length ≤ g → msortF f L = msortF g L
  | 0, 0, _, _, _ => rfl
  | 0, g + 1, L, h, _ => by
    have : L.length < 2 := by omega
    rw [msortF, msortF, if_pos this]
  | f + 1, 0, L, _, h => by
    have : L.length < 2 := by omega
    rw [msortF, msortF, if_pos this]
  | f + 1, g + 1, L, h1, h2 => by
    rw [msortF, msortF]
    by_cases hs : L.length < 2
    · rw [if_pos hs, if_pos hs]
    · rw [if_neg hs, if_neg hs, msortF_fuel f g (L.take (L.length / 2)) (by rw [List.length_take]; omega) (by rw [List.length_take]; omega), msortF_fuel f g (L.drop (L.length / 2)) (by rw [List.length_drop]; omega) (by rw [List.length_drop]; omega)]
theorem merge_length : ∀ (n : Nat) (A B : List Pr), A.length + B.length ≤ n → (merge A B).length = A.length + B.length := by
  intro n
  induction n with
  | zero =>
    intro A B h
    have h1 : A = [] := List.length_eq_zero_iff.1 (by omega)
    subst h1
    rw [merge_nil_left]; simp
  | succ n ih =>
    intro A B h
    cases A with
    | nil => rw [merge_nil_left]; simp
    | cons x A =>
      cases B with
      | nil => rw [merge_nil_right]; simp
      | cons y B =>
        simp only [List.length_cons] at h
        by_cases hxy : x.2 ≤ y.2
        · rw [merge_le hxy, List.length_cons, ih A (y :: B) (by simp; omega)]; simp; omega
        · rw [merge_gt hxy, List.length_cons, ih (x :: A) B (by simp; omega)]; simp; omega
theorem msort_small {L : List Pr} (h : L.length < 2) : msort L = L := by
  unfold msort
  cases hl : L.length with
  | zero => rfl
  | succ k => rw [msortF, if_pos h]
theorem msort_big {L : List Pr} (h : ¬ L.length < 2) : msort L = merge (msort (L.take (L.length / 2))) (msort (L.drop (L.length / 2))) := by
  unfold msort
  obtain ⟨k, hk⟩ : ∃ k, L.length = k + 1 := ⟨L.length - 1, by omega⟩
  have e : msortF L.length L = merge (msortF k (L.take (L.length / 2))) (msortF k (L.drop (L.length / 2))) := by
    conv => lhs; rw [hk]
    rw [msortF, if_neg h]
  rw [e, msortF_fuel k _ (L.take (L.length / 2)) (by rw [List.length_take]; omega) (Nat.le_refl _), msortF_fuel k _ (L.drop (L.length / 2)) (by rw [List.length_drop]; omega) (Nat.le_refl _)]
theorem msort_length : ∀ (n : Nat) (L : List Pr), L.length ≤ n → (msort L).length = L.length := by
  intro n
  induction n with
  | zero => intro L h; rw [msort_small (by omega)]
  | succ n ih =>
    intro L h
    by_cases hs : L.length < 2
    · rw [msort_small hs]
    · rw [msort_big hs, merge_length _ _ _ (Nat.le_refl _), ih _ (by rw [List.length_take]; omega), ih _ (by rw [List.length_drop]; omega), List.length_take, List.length_drop]
      omega

/-- A slice's elements, cut. -/
theorem rd_take {w : World} {ao : Option Addr} {L : List Pr} (h : PE.Rd w ao L) (n : Nat) : PE.Rd w ao (L.take n) := by
  rcases h with ⟨rfl, rfl⟩ | ⟨a, rfl, hc⟩
  · exact .inl ⟨rfl, by simp⟩
  · refine .inr ⟨a, rfl, fun j u hu => hc j u ?_⟩
    have e : PE.cells L = PE.cells (L.take n) ++ PE.cells (L.drop n) := by rw [← cells_append, List.take_append_drop]
    rw [e, List.getElem?_append_left (List.getElem?_eq_some_iff.1 hu).1]
    exact hu
theorem rd_drop {w : World} {a : Addr} {L : List Pr} (h : PE.Rd w (some a) L) (n : Nat) (hn : n ≤ L.length) : PE.Rd w (some (a.add (n * 2))) (L.drop n) := by
  rcases h with ⟨h, _⟩ | ⟨a', e, hc⟩
  · cases h
  · cases e
    refine .inr ⟨_, rfl, fun j u hu => ?_⟩
    rw [add_add]
    refine hc _ u ?_
    have e : PE.cells L = PE.cells (L.take n) ++ PE.cells (L.drop n) := by rw [← cells_append, List.take_append_drop]
    have hl : (PE.cells (L.take n)).length = n * 2 := by rw [cells_length, List.length_take, Nat.min_eq_left hn]; rfl
    rw [e, List.getElem?_append_right (by omega), hl, Nat.add_sub_cancel_left]
    exact hu

/-- A merge under way. -/
structure MS (w2 wx : World) (ra rb ro : Option Addr) (ca cb rc : Nat) (A' B' O A B : List Pr) : Prop where
  la : PE.Rd wx ra A'
  lb : PE.Rd wx rb B'
  own : PE.Own wx ro rc O
  gr : w2.grownBy wx none
  ba : ∀ g, blk ra = some g → g < w2.heap.size
  bb : ∀ g, blk rb = some g → g < w2.heap.size
  bo : ∀ g, blk ro = some g → w2.heap.size ≤ g
  eq : O ++ merge A' B' = merge A B
theorem rd_tail {w : World} {b o : Nat} {x : Pr} {A : List Pr} (h : PE.Rd w (some ⟨b, o, none⟩) (x :: A)) : PE.Rd w (some ⟨b, o + 2, none⟩) A := by
  have := rd_drop h 1 (by simp)
  rw [addr_add] at this
  simpa using this
theorem MS.stepA {w2 wr w0 w3 : World} {b o ca : Nat} {rb ro ro' : Option Addr} {cb rc rc' : Nat} {x : Pr} {A1 B' O A B : List Pr} (h : MS w2 wr (some ⟨b, o, none⟩) rb ro ca cb rc (x :: A1) B' O A B) (hp : merge (x :: A1) B' = x :: merge A1 B')
    (h0 : wr.grownBy w0 none) (hg : w0.grownBy w3 (blk ro)) (ho : PE.Own w3 ro' rc' (O ++ [x])) (hat : ro' = ro ∨ ro' = some ⟨w0.heap.size, 0, none⟩) (na : Option Addr) (hna : na = some ⟨b, o + 2, none⟩ ∨ (na = some ⟨b, o, none⟩ ∧ A1 = [])) (ca' : Nat) :
    MS w2 w3 na rb ro' ca' cb rc' A1 B' (O ++ [x]) A B := by
  have hne : ∀ ao : Option Addr, (∀ g, blk ao = some g → g < w2.heap.size) → blk ao = none ∨ blk ao ≠ blk ro := by
    intro ao hao
    cases hb : blk ao with
    | none => exact .inl rfl
    | some g =>
      refine .inr (fun e => ?_)
      have h1 := hao g hb
      have h2 := h.bo g e.symm
      omega
  have g3 : w2.grownBy w3 none := grownBy_new (grownBy_trans h.gr h0) hg (fun g e => h.bo g e)
  have hat' : ∀ g, blk ro' = some g → w2.heap.size ≤ g := by
    intro g e
    rcases hat with rfl | rfl
    · exact h.bo g e
    · have e1 : w0.heap.size = g := Option.some.inj e
      have := h.gr.size
      have := h0.size
      omega
  refine ⟨?_, (h.lb.kept0 h0).kept hg (hne _ h.bb), ho, g3, ?_, h.bb, hat', ?_⟩
  · rcases hna with rfl | ⟨rfl, rfl⟩
    · exact rd_tail ((h.la.kept0 h0).kept hg (hne _ h.ba))
    · exact Elem.Rd.nil w3 _
  · intro g e
    rcases hna with rfl | ⟨rfl, _⟩ <;> exact h.ba g e
  · rw [List.append_assoc, List.singleton_append, ← hp]; exact h.eq
theorem MS.stepB {w2 wr w0 w3 : World} {b o ca : Nat} {ra ro ro' : Option Addr} {cb rc rc' : Nat} {y : Pr} {A' B1 O A B : List Pr} (h : MS w2 wr ra (some ⟨b, o, none⟩) ro ca cb rc A' (y :: B1) O A B) (hp : merge A' (y :: B1) = y :: merge A' B1)
    (h0 : wr.grownBy w0 none) (hg : w0.grownBy w3 (blk ro)) (ho : PE.Own w3 ro' rc' (O ++ [y])) (hat : ro' = ro ∨ ro' = some ⟨w0.heap.size, 0, none⟩) (nb : Option Addr) (hnb : nb = some ⟨b, o + 2, none⟩ ∨ (nb = some ⟨b, o, none⟩ ∧ B1 = [])) (cb' : Nat) :
    MS w2 w3 ra nb ro' ca cb' rc' A' B1 (O ++ [y]) A B := by
  have hne : ∀ ao : Option Addr, (∀ g, blk ao = some g → g < w2.heap.size) → blk ao = none ∨ blk ao ≠ blk ro := by
    intro ao hao
    cases hb : blk ao with
    | none => exact .inl rfl
    | some g =>
      refine .inr (fun e => ?_)
      have h1 := hao g hb
      have h2 := h.bo g e.symm
      omega
  have g3 : w2.grownBy w3 none := grownBy_new (grownBy_trans h.gr h0) hg (fun g e => h.bo g e)
  have hat' : ∀ g, blk ro' = some g → w2.heap.size ≤ g := by
    intro g e
    rcases hat with rfl | rfl
    · exact h.bo g e
    · have e1 : w0.heap.size = g := Option.some.inj e
      have := h.gr.size
      have := h0.size
      omega
  refine ⟨(h.la.kept0 h0).kept hg (hne _ h.ba), ?_, ho, g3, h.ba, ?_, hat', ?_⟩
  · rcases hnb with rfl | ⟨rfl, rfl⟩
    · exact rd_tail ((h.lb.kept0 h0).kept hg (hne _ h.bb))
    · exact Elem.Rd.nil w3 _
  · intro g e
    rcases hnb with rfl | ⟨rfl, _⟩ <;> exact h.bb g e
  · rw [List.append_assoc, List.singleton_append, ← hp]; exact h.eq
theorem MS.drew {w2 wr : World} {ra rb ro : Option Addr} {ca cb rc : Nat} {A' B' O A B : List Pr} (h : MS w2 wr ra rb ro ca cb rc A' B' O A B) (n : Nat) : MS w2 (wr.drewN n) ra rb ro ca cb rc A' B' O A B :=
  ⟨h.la, h.lb, h.own, grownBy_trans h.gr ⟨rfl, rfl, rfl, Nat.le_refl _, fun _ _ _ => rfl⟩, h.ba, h.bb, h.bo, h.eq⟩
theorem ret_slice {ro : Option Addr} {a b rc : Nat} (h : a = b) : Ending.returned (.slice ro a rc) = .returned (.slice ro b rc) := by rw [h]
def lenOf : Value → Nat | .slice _ n _ => n | _ => 0

set_option maxRecDepth 100000 in
set_option maxHeartbeats 4000000 in
theorem sorted_step (n : Nat) (ih : ∀ (L : List Pr), L.length ≤ n → ∀ (m : Nat), L.length = m → ∀ (ao : Option Addr) (cap : Nat) (w : World), PE.Rd w ao L → m ≤ cap → cap ≤ 9223372036854775807 → Calls Try.prog 29 #[.slice ao m cap] w fun e w' => ∃ ro rc, e = .returned (.slice ro m rc) ∧ PE.Rd w' ro (msort L) ∧ m ≤ rc ∧ rc ≤ 9223372036854775807 ∧ w.grownBy w' none)
    (L : List Pr) (hL : L.length ≤ n + 1) (h65 : n ≤ 70000) (hbig : ¬ L.length < 2) (ao : Option Addr) (cap : Nat) (w : World) (hR : PE.Rd w ao L) (hc : L.length ≤ cap) (hcm : cap ≤ 9223372036854775807) :
    Calls Try.prog 29 #[.slice ao L.length cap] w fun e w' => ∃ ro rc, e = .returned (.slice ro L.length rc) ∧ PE.Rd w' ro (msort L) ∧ L.length ≤ rc ∧ rc ≤ 9223372036854775807 ∧ w.grownBy w' none := by
  obtain ⟨b, o, hao, hb, _⟩ := hR.at (List.ne_nil_of_length_pos (by omega)) (by decide)
  subst hao
  obtain ⟨N, hN⟩ : ∃ N, Hid (L.length = N) := ⟨_, Hid.mk' rfl⟩
  rw [hN.out] at hc ⊢
  obtain ⟨h, hh⟩ : ∃ h, Hid (N / 2 = h) := ⟨_, Hid.mk' rfl⟩
  have hN2 : 2 ≤ N := by rw [← hN.out]; omega
  have hN3 : N ≤ 70001 := by rw [← hN.out]; omega
  have hh1 : 1 ≤ h := by rw [← hh.out]; omega
  have hh2 : h < N := by rw [← hh.out]; omega
  have hdv : (N : Int).tdiv 2 = (h : Int) := by rw [← hh.out, Int.tdiv_eq_ediv_of_nonneg (by omega)]; omega
  have p1 : (h : Int) ≤ (cap : Int) := by omega
  have p2 : h ≤ cap := by omega
  have p3 : (0 : Int) ≤ (h : Int) := by omega
  have p4 : (h : Int) ≤ (N : Int) := by omega
  have p5 : h ≤ N := by omega
  have p6 : ¬ cap = h := by omega
  have p7 : (N : Int) ≤ (cap : Int) := by omega
  have hNd : decide ((N : Int) < 2) = false := decide_eq_false (by omega)
  have p8 : IntKind.i64.wrap (h : Int) = (h : Int) := by rw [IntKind.wrap_i64]; omega
  have hR0 := Hid.mk' hR
  have hbig0 := Hid.mk' hbig
  have hL0 := Hid.mk' hL
  have ih0 := Hid.mk' ih
  clear hR hbig hL ih
  go_enter Try.func29, Try.ntmps29
  go_wp2_with fail
  have hlt : Hid ((L.take h).length = h) := Hid.mk' (by rw [List.length_take, hN.out]; omega)
  obtain ⟨m, hm⟩ : ∃ m, Hid (N - h = m) := ⟨_, Hid.mk' rfl⟩
  have hld : Hid ((L.drop h).length = m) := Hid.mk' (by rw [List.length_drop, hN.out, hm.out])
  have hm1 : 1 ≤ m := by rw [← hm.out]; omega
  have hm2 : m ≤ cap - h := by rw [← hm.out]; omega
  have hmh : h + m = N := by rw [← hm.out]; omega
  have hRd := Hid.mk' (rd_drop hR0.out h (by rw [hN.out]; omega))
  have ead : Hid ((⟨b, o, none⟩ : Addr).add (h * 2) = ⟨b, o + h * 2, none⟩) := Hid.mk' (addr_add b o (h * 2))
  rw [ead.out] at hRd
  have hm' : N - h = m := hm.out
  have hR1 : Hid (PE.Rd w.drew (some ⟨b, o, none⟩) (L.take h)) := Hid.mk' (rd_take hR0.out h)
  have hR2 : Hid (PE.Rd w.drew (some ⟨b, o + h * 2, none⟩) (L.drop h)) := Hid.mk' hRd.out
  have hn1 : Hid ((L.take h).length ≤ n) := Hid.mk' (by rw [hlt.out]; have := hL0.out; rw [hN.out] at this; omega)
  have hn2 : Hid ((L.drop h).length ≤ n) := Hid.mk' (by rw [hld.out]; have := hL0.out; rw [hN.out] at this; omega)
  have hcap2 : cap - h ≤ 9223372036854775807 := by omega
  go_region_held3 (fun _ => True) (first | trivial) (first
    | (go_at_call_of 29 (Value.slice (some ⟨b, o, none⟩) h cap); refine (ih0.out (L.take h) hn1.out h hlt.out _ cap w.drew hR1.out p2 hcm).mono ?_; rintro e w1 ⟨r1, c1, rfl, hr1, hc1, hc1', hg1⟩)
    | (go_at_call_of 29 (Value.slice (some ⟨b, o + h * 2, none⟩) m (cap - h)); refine (ih0.out (L.drop h) hn2.out m hld.out _ (cap - h) _ (Elem.Rd.kept0 hR2.out hg1) hm2 hcap2).mono ?_; rintro e w2 ⟨r2, c2, rfl, hr2, hc2, hc2', hg2⟩))
  have hg12 : Hid (w.grownBy w2 none) := Hid.mk' (grownBy_of_drew (grownBy_trans hg1 hg2))
  have hla := msort_length _ (L.take h) (Nat.le_refl _)
  have hlb := msort_length _ (L.drop h) (Nat.le_refl _)
  rw [hlt.out] at hla
  rw [hld.out] at hlb
  have hms0 : Hid (msort L = merge (msort (L.take h)) (msort (L.drop h))) := Hid.mk' (by rw [msort_big hbig0.out, hN.out, hh.out])
  have hml : Hid ((merge (msort (L.take h)) (msort (L.drop h))).length = N) := Hid.mk' (by rw [merge_length _ _ _ (Nat.le_refl _), hla, hlb]; omega)
  have hra := hr1.kept0 hg2
  obtain ⟨b1, o1, e1, hb1, _⟩ := hra.at (List.ne_nil_of_length_pos (by omega)) (by decide)
  obtain ⟨b2, o2, e2, hb2, _⟩ := hr2.at (List.ne_nil_of_length_pos (by omega)) (by decide)
  have hst : Hid (MS w2 w2 r1 r2 none c1 c2 0 (msort (L.take h)) (msort (L.drop h)) [] (msort (L.take h)) (msort (L.drop h))) := Hid.mk' ⟨hra, hr2, .inl ⟨rfl, rfl, rfl⟩, grownBy_refl _ _, (by rw [e1]; intro g e; have := Option.some.inj e; simp only at this; omega), (by rw [e2]; intro g e; have := Option.some.inj e; simp only at this; omega), (by intro g e; cases e), rfl⟩
  generalize msort (L.take h) = A at *
  generalize msort (L.drop h) = B at *
  clear hr1 hr2 hg1 hg2 hra e1 e2 hb1 hb2 hR0 hR1 hR2 hRd ih0 hn1 hn2 hlt hld hL0 hbig0
  go_wp2_with fail
  go_loopw [3, 4, 5] (fun t3 t4 t5 wx => ∃ (i j : Nat) (ra rb ro : Option Addr) (ca cb rc : Nat) (A' B' O : List Pr), t3 = .slice ra i ca ∧ t4 = .slice rb j cb ∧ t5 = .slice ro O.length rc ∧ A'.length = i ∧ B'.length = j ∧ i + j + O.length = N ∧ i ≤ ca ∧ ca ≤ 9223372036854775807 ∧ j ≤ cb ∧ cb ≤ 9223372036854775807 ∧ Hid (MS w2 wx ra rb ro ca cb rc A' B' O A B)) (fun t3 t4 _ _ => lenOf t3 + lenOf t4)
  case atStart => exact ⟨h, m, r1, r2, none, c1, c2, 0, A, B, [], rfl, rfl, rfl, hla, hlb, by simp; omega, hc1, hc1', hc2, hc2', hst⟩
  case round =>
    clear hst hc1 hc1' hc2 hc2' hla hlb
    obtain ⟨i, j, ra, rb, ro, ca, cb, rc, A', B', O, rfl, rfl, rfl, hi, hj, hs, hia, hca, hjb, hcb, hM⟩ := hrel
    have hO : O.length ≤ 70001 := by omega
    cases A' with
    | nil =>
      cases B' with
      | nil =>
        simp only [List.length_nil] at hi hj
        subst hi
        subst hj
        have hfin : Hid (PE.Rd wr ro (msort L)) := Hid.mk' (by have := hM.out.eq; rw [merge_nil_left, List.append_nil] at this; rw [hms0.out, ← this]; exact hM.out.own.rd)
        have hle : O.length = N := by omega
        have hcap1 := hM.out.own.cap_le
        have hcap2' := hM.out.own.cap_max
        go_wp2_with fail
        go_ret
        exact ⟨ro, rc, ret_slice hle, hfin.out, by omega, hcap2', grownBy_trans hg12.out hM.out.gr⟩
      | cons y B1 =>
        simp only [List.length_nil, List.length_cons] at hi hj
        subst hi
        by_cases hcap : cb = 1
        · obtain ⟨b3, o3, hr3, hb3, x0, x1⟩ := pcells (i := 0) hM.out.lb (by simp) (c := y.1) (u := y.2) rfl
          subst hr3
          simp only [Nat.zero_mul, Nat.add_zero] at x0 x1
          have hk1 : B1.length = j - 1 := by omega
          have hk2 : 1 ≤ j := by omega
          have g1 : (0 : Int) < ((0 : Nat) : Int) + (j : Int) := by omega
          have g2 : ((j : Int) == 0) = false := by simp; omega
          have hp := Hid.mk' (show merge [] (y :: B1) = y :: merge [] B1 by rw [merge_nil_left, merge_nil_left])
          have hnil : B1 = [] := List.length_eq_zero_iff.1 (by omega)
          obtain ⟨ya, yb⟩ := y
          simp only at x0 x1
          have hj0 := Hid.mk' hj
          clear hj
          go_wp2_with fail
          go_quiet (fail)
          have hM2 := Hid.mk' (hM.out.drew nq)
          have z0 : (wr.drewN nq).cell? ⟨b3, o3, none⟩ = some (.int .i64 ya) := x0
          have z1 : (wr.drewN nq).cell? ⟨b3, o3 + 1, none⟩ = some (.int .i32 yb) := x1
          clear x0 x1
          generalize wr.drewN nq = w3 at *
          go_wp2_with (at_builtin; refine wpList_pair _ rfl _ _ rfl ro rc O rfl (hM2.out.own.alloc _) _ rfl [(ya, yb)] (src_pair1 w3 ya yb) (by simp; omega) (O ++ [(ya, yb)]) rfl ?_; intro ro' rc' w4 ho4 hg4 hat4)
          go_roundw
          case rel =>
            refine ⟨_, _, _, _, _, _, _, _, [], B1, O ++ [(ya, yb)], rfl, rfl, by simp, rfl, hk1, by simp; omega, by omega, by omega, by omega, by omega, Hid.mk' (MS.stepB hM2.out hp.out (World.grownBy_alloc _ _ _) hg4 ho4 hat4 _ (.inr ⟨rfl, hnil⟩) _)⟩
          case measure => simp [lenOf]; omega
        · obtain ⟨b3, o3, hr3, hb3, x0, x1⟩ := pcells (i := 0) hM.out.lb (by simp) (c := y.1) (u := y.2) rfl
          subst hr3
          simp only [Nat.zero_mul, Nat.add_zero] at x0 x1
          have hk1 : B1.length = j - 1 := by omega
          have hk2 : 1 ≤ j := by omega
          have g1 : (0 : Int) < ((0 : Nat) : Int) + (j : Int) := by omega
          have g2 : ((j : Int) == 0) = false := by simp; omega
          have hp := Hid.mk' (show merge [] (y :: B1) = y :: merge [] B1 by rw [merge_nil_left, merge_nil_left])
          obtain ⟨ya, yb⟩ := y
          simp only at x0 x1
          have hj0 := Hid.mk' hj
          clear hj
          go_wp2_with fail
          go_quiet (fail)
          have hM2 := Hid.mk' (hM.out.drew nq)
          have z0 : (wr.drewN nq).cell? ⟨b3, o3, none⟩ = some (.int .i64 ya) := x0
          have z1 : (wr.drewN nq).cell? ⟨b3, o3 + 1, none⟩ = some (.int .i32 yb) := x1
          clear x0 x1
          generalize wr.drewN nq = w3 at *
          go_wp2_with (at_builtin; refine wpList_pair _ rfl _ _ rfl ro rc O rfl (hM2.out.own.alloc _) _ rfl [(ya, yb)] (src_pair1 w3 ya yb) (by simp; omega) (O ++ [(ya, yb)]) rfl ?_; intro ro' rc' w4 ho4 hg4 hat4)
          go_roundw
          case rel =>
            refine ⟨_, _, _, _, _, _, _, _, [], B1, O ++ [(ya, yb)], rfl, rfl, by simp, rfl, hk1, by simp; omega, by omega, by omega, by omega, by omega, Hid.mk' (MS.stepB hM2.out hp.out (World.grownBy_alloc _ _ _) hg4 ho4 hat4 _ (.inl rfl) _)⟩
          case measure => simp [lenOf]; omega
    | cons x A1 =>
      cases B' with
      | nil =>
        simp only [List.length_nil, List.length_cons] at hi hj
        subst hj
        by_cases hcap : ca = 1
        · obtain ⟨b3, o3, hr3, hb3, x0, x1⟩ := pcells (i := 0) hM.out.la (by simp) (c := x.1) (u := x.2) rfl
          subst hr3
          simp only [Nat.zero_mul, Nat.add_zero] at x0 x1
          have hk1 : A1.length = i - 1 := by omega
          have hk2 : 1 ≤ i := by omega
          have g1 : (0 : Int) < (i : Int) + ((0 : Nat) : Int) := by omega
          have hp := Hid.mk' (show merge (x :: A1) [] = x :: merge A1 [] by rw [merge_nil_right, merge_nil_right])
          have hnil : A1 = [] := List.length_eq_zero_iff.1 (by omega)
          obtain ⟨xa, xb⟩ := x
          simp only at x0 x1
          have hi0 := Hid.mk' hi
          clear hi
          go_wp2_with fail
          go_quiet (fail)
          have hM2 := Hid.mk' (hM.out.drew nq)
          have z0 : (wr.drewN nq).cell? ⟨b3, o3, none⟩ = some (.int .i64 xa) := x0
          have z1 : (wr.drewN nq).cell? ⟨b3, o3 + 1, none⟩ = some (.int .i32 xb) := x1
          clear x0 x1
          generalize wr.drewN nq = w3 at *
          go_wp2_with (at_builtin; refine wpList_pair _ rfl _ _ rfl ro rc O rfl (hM2.out.own.alloc _) _ rfl [(xa, xb)] (src_pair1 w3 xa xb) (by simp; omega) (O ++ [(xa, xb)]) rfl ?_; intro ro' rc' w4 ho4 hg4 hat4)
          go_roundw
          case rel =>
            refine ⟨_, _, _, _, _, _, _, _, A1, [], O ++ [(xa, xb)], rfl, rfl, by simp, hk1, rfl, by simp; omega, by omega, by omega, by omega, by omega, Hid.mk' (MS.stepA hM2.out hp.out (World.grownBy_alloc _ _ _) hg4 ho4 hat4 _ (.inr ⟨rfl, hnil⟩) _)⟩
          case measure => simp [lenOf]; omega
        · obtain ⟨b3, o3, hr3, hb3, x0, x1⟩ := pcells (i := 0) hM.out.la (by simp) (c := x.1) (u := x.2) rfl
          subst hr3
          simp only [Nat.zero_mul, Nat.add_zero] at x0 x1
          have hk1 : A1.length = i - 1 := by omega
          have hk2 : 1 ≤ i := by omega
          have g1 : (0 : Int) < (i : Int) + ((0 : Nat) : Int) := by omega
          have hp := Hid.mk' (show merge (x :: A1) [] = x :: merge A1 [] by rw [merge_nil_right, merge_nil_right])
          obtain ⟨xa, xb⟩ := x
          simp only at x0 x1
          have hi0 := Hid.mk' hi
          clear hi
          go_wp2_with fail
          go_quiet (fail)
          have hM2 := Hid.mk' (hM.out.drew nq)
          have z0 : (wr.drewN nq).cell? ⟨b3, o3, none⟩ = some (.int .i64 xa) := x0
          have z1 : (wr.drewN nq).cell? ⟨b3, o3 + 1, none⟩ = some (.int .i32 xb) := x1
          clear x0 x1
          generalize wr.drewN nq = w3 at *
          go_wp2_with (at_builtin; refine wpList_pair _ rfl _ _ rfl ro rc O rfl (hM2.out.own.alloc _) _ rfl [(xa, xb)] (src_pair1 w3 xa xb) (by simp; omega) (O ++ [(xa, xb)]) rfl ?_; intro ro' rc' w4 ho4 hg4 hat4)
          go_roundw
          case rel =>
            refine ⟨_, _, _, _, _, _, _, _, A1, [], O ++ [(xa, xb)], rfl, rfl, by simp, hk1, rfl, by simp; omega, by omega, by omega, by omega, by omega, Hid.mk' (MS.stepA hM2.out hp.out (World.grownBy_alloc _ _ _) hg4 ho4 hat4 _ (.inl rfl) _)⟩
          case measure => simp [lenOf]; omega
      | cons y B1 =>
        simp only [List.length_cons] at hi hj
        by_cases hxy : x.2 ≤ y.2
        · skip
          by_cases hcap : ca = 1
          · obtain ⟨b3, o3, hr3, hb3, x0, x1⟩ := pcells (i := 0) hM.out.la (by simp) (c := x.1) (u := x.2) rfl
            obtain ⟨b4, o4, hr4, hb4, y0, y1⟩ := pcells (i := 0) hM.out.lb (by simp) (c := y.1) (u := y.2) rfl
            simp only [Nat.zero_mul, Nat.add_zero] at y0 y1
            subst hr4
            subst hr3
            simp only [Nat.zero_mul, Nat.add_zero] at x0 x1
            have hk1 : A1.length = i - 1 := by omega
            have hk2 : 1 ≤ i := by omega
            have g1 : (0 : Int) < (i : Int) + (j : Int) := by omega
            have g2 : ((j : Int) == 0) = false := by simp; omega
            have g3 : decide (0 < (i : Int)) = true := decide_eq_true (by omega)
            have g4 : decide (0 < i) = true := decide_eq_true (by omega)
            have g6 : 0 < i := by omega
            have g7 : 0 < j := by omega
            have g8 : (0 : Int) < (i : Int) := by omega
            have g9 : (0 : Int) < (j : Int) := by omega
            have g5 : decide (x.2 ≤ y.2) = true := decide_eq_true hxy
            have hp := Hid.mk' (merge_le (A := A1) (B := B1) hxy)
            have hnil : A1 = [] := List.length_eq_zero_iff.1 (by omega)
            obtain ⟨xa, xb⟩ := x
            obtain ⟨ya, yb⟩ := y
            simp only at x0 x1 y0 y1 g5
            have hi0 := Hid.mk' hi
            have hj0 := Hid.mk' hj
            clear hi hj
            go_wp2_with fail
            go_quiet (fail)
            have hM2 := Hid.mk' (hM.out.drew nq)
            have z0 : (wr.drewN nq).cell? ⟨b3, o3, none⟩ = some (.int .i64 xa) := x0
            have z1 : (wr.drewN nq).cell? ⟨b3, o3 + 1, none⟩ = some (.int .i32 xb) := x1
            clear x0 x1 y0 y1
            generalize wr.drewN nq = w3 at *
            go_wp2_with (at_builtin; refine wpList_pair _ rfl _ _ rfl ro rc O rfl (hM2.out.own.alloc _) _ rfl [(xa, xb)] (src_pair1 w3 xa xb) (by simp; omega) (O ++ [(xa, xb)]) rfl ?_; intro ro' rc' w4 ho4 hg4 hat4)
            go_roundw
            case rel =>
              refine ⟨_, _, _, _, _, _, _, _, A1, (ya, yb) :: B1, O ++ [(xa, xb)], rfl, rfl, by simp, hk1, hj0.out, by simp; omega, by omega, by omega, by omega, by omega, Hid.mk' (MS.stepA hM2.out hp.out (World.grownBy_alloc _ _ _) hg4 ho4 hat4 _ (.inr ⟨rfl, hnil⟩) _)⟩
            case measure => simp [lenOf]; omega
          · obtain ⟨b3, o3, hr3, hb3, x0, x1⟩ := pcells (i := 0) hM.out.la (by simp) (c := x.1) (u := x.2) rfl
            obtain ⟨b4, o4, hr4, hb4, y0, y1⟩ := pcells (i := 0) hM.out.lb (by simp) (c := y.1) (u := y.2) rfl
            simp only [Nat.zero_mul, Nat.add_zero] at y0 y1
            subst hr4
            subst hr3
            simp only [Nat.zero_mul, Nat.add_zero] at x0 x1
            have hk1 : A1.length = i - 1 := by omega
            have hk2 : 1 ≤ i := by omega
            have g1 : (0 : Int) < (i : Int) + (j : Int) := by omega
            have g2 : ((j : Int) == 0) = false := by simp; omega
            have g3 : decide (0 < (i : Int)) = true := decide_eq_true (by omega)
            have g4 : decide (0 < i) = true := decide_eq_true (by omega)
            have g6 : 0 < i := by omega
            have g7 : 0 < j := by omega
            have g8 : (0 : Int) < (i : Int) := by omega
            have g9 : (0 : Int) < (j : Int) := by omega
            have g5 : decide (x.2 ≤ y.2) = true := decide_eq_true hxy
            have hp := Hid.mk' (merge_le (A := A1) (B := B1) hxy)
            obtain ⟨xa, xb⟩ := x
            obtain ⟨ya, yb⟩ := y
            simp only at x0 x1 y0 y1 g5
            have hi0 := Hid.mk' hi
            have hj0 := Hid.mk' hj
            clear hi hj
            go_wp2_with fail
            go_quiet (fail)
            have hM2 := Hid.mk' (hM.out.drew nq)
            have z0 : (wr.drewN nq).cell? ⟨b3, o3, none⟩ = some (.int .i64 xa) := x0
            have z1 : (wr.drewN nq).cell? ⟨b3, o3 + 1, none⟩ = some (.int .i32 xb) := x1
            clear x0 x1 y0 y1
            generalize wr.drewN nq = w3 at *
            go_wp2_with (at_builtin; refine wpList_pair _ rfl _ _ rfl ro rc O rfl (hM2.out.own.alloc _) _ rfl [(xa, xb)] (src_pair1 w3 xa xb) (by simp; omega) (O ++ [(xa, xb)]) rfl ?_; intro ro' rc' w4 ho4 hg4 hat4)
            go_roundw
            case rel =>
              refine ⟨_, _, _, _, _, _, _, _, A1, (ya, yb) :: B1, O ++ [(xa, xb)], rfl, rfl, by simp, hk1, hj0.out, by simp; omega, by omega, by omega, by omega, by omega, Hid.mk' (MS.stepA hM2.out hp.out (World.grownBy_alloc _ _ _) hg4 ho4 hat4 _ (.inl rfl) _)⟩
            case measure => simp [lenOf]; omega
        · skip
          by_cases hcap : cb = 1
          · obtain ⟨b3, o3, hr3, hb3, x0, x1⟩ := pcells (i := 0) hM.out.lb (by simp) (c := y.1) (u := y.2) rfl
            obtain ⟨b4, o4, hr4, hb4, y0, y1⟩ := pcells (i := 0) hM.out.la (by simp) (c := x.1) (u := x.2) rfl
            simp only [Nat.zero_mul, Nat.add_zero] at y0 y1
            subst hr4
            subst hr3
            simp only [Nat.zero_mul, Nat.add_zero] at x0 x1
            have hk1 : B1.length = j - 1 := by omega
            have hk2 : 1 ≤ j := by omega
            have g1 : (0 : Int) < (i : Int) + (j : Int) := by omega
            have g2 : ((j : Int) == 0) = false := by simp; omega
            have g3 : decide (0 < (i : Int)) = true := decide_eq_true (by omega)
            have g4 : decide (0 < i) = true := decide_eq_true (by omega)
            have g6 : 0 < i := by omega
            have g7 : 0 < j := by omega
            have g8 : (0 : Int) < (i : Int) := by omega
            have g9 : (0 : Int) < (j : Int) := by omega
            have g5 : decide (x.2 ≤ y.2) = false := decide_eq_false hxy
            have hp := Hid.mk' (merge_gt (A := A1) (B := B1) hxy)
            have hnil : B1 = [] := List.length_eq_zero_iff.1 (by omega)
            obtain ⟨ya, yb⟩ := y
            obtain ⟨xa, xb⟩ := x
            simp only at x0 x1 y0 y1 g5
            have hi0 := Hid.mk' hi
            have hj0 := Hid.mk' hj
            clear hi hj
            go_wp2_with fail
            go_quiet (fail)
            have hM2 := Hid.mk' (hM.out.drew nq)
            have z0 : (wr.drewN nq).cell? ⟨b3, o3, none⟩ = some (.int .i64 ya) := x0
            have z1 : (wr.drewN nq).cell? ⟨b3, o3 + 1, none⟩ = some (.int .i32 yb) := x1
            clear x0 x1 y0 y1
            generalize wr.drewN nq = w3 at *
            go_wp2_with (at_builtin; refine wpList_pair _ rfl _ _ rfl ro rc O rfl (hM2.out.own.alloc _) _ rfl [(ya, yb)] (src_pair1 w3 ya yb) (by simp; omega) (O ++ [(ya, yb)]) rfl ?_; intro ro' rc' w4 ho4 hg4 hat4)
            go_roundw
            case rel =>
              refine ⟨_, _, _, _, _, _, _, _, (xa, xb) :: A1, B1, O ++ [(ya, yb)], rfl, rfl, by simp, hi0.out, hk1, by simp; omega, by omega, by omega, by omega, by omega, Hid.mk' (MS.stepB hM2.out hp.out (World.grownBy_alloc _ _ _) hg4 ho4 hat4 _ (.inr ⟨rfl, hnil⟩) _)⟩
            case measure => simp [lenOf]; omega
          · obtain ⟨b3, o3, hr3, hb3, x0, x1⟩ := pcells (i := 0) hM.out.lb (by simp) (c := y.1) (u := y.2) rfl
            obtain ⟨b4, o4, hr4, hb4, y0, y1⟩ := pcells (i := 0) hM.out.la (by simp) (c := x.1) (u := x.2) rfl
            simp only [Nat.zero_mul, Nat.add_zero] at y0 y1
            subst hr4
            subst hr3
            simp only [Nat.zero_mul, Nat.add_zero] at x0 x1
            have hk1 : B1.length = j - 1 := by omega
            have hk2 : 1 ≤ j := by omega
            have g1 : (0 : Int) < (i : Int) + (j : Int) := by omega
            have g2 : ((j : Int) == 0) = false := by simp; omega
            have g3 : decide (0 < (i : Int)) = true := decide_eq_true (by omega)
            have g4 : decide (0 < i) = true := decide_eq_true (by omega)
            have g6 : 0 < i := by omega
            have g7 : 0 < j := by omega
            have g8 : (0 : Int) < (i : Int) := by omega
            have g9 : (0 : Int) < (j : Int) := by omega
            have g5 : decide (x.2 ≤ y.2) = false := decide_eq_false hxy
            have hp := Hid.mk' (merge_gt (A := A1) (B := B1) hxy)
            obtain ⟨ya, yb⟩ := y
            obtain ⟨xa, xb⟩ := x
            simp only at x0 x1 y0 y1 g5
            have hi0 := Hid.mk' hi
            have hj0 := Hid.mk' hj
            clear hi hj
            go_wp2_with fail
            go_quiet (fail)
            have hM2 := Hid.mk' (hM.out.drew nq)
            have z0 : (wr.drewN nq).cell? ⟨b3, o3, none⟩ = some (.int .i64 ya) := x0
            have z1 : (wr.drewN nq).cell? ⟨b3, o3 + 1, none⟩ = some (.int .i32 yb) := x1
            clear x0 x1 y0 y1
            generalize wr.drewN nq = w3 at *
            go_wp2_with (at_builtin; refine wpList_pair _ rfl _ _ rfl ro rc O rfl (hM2.out.own.alloc _) _ rfl [(ya, yb)] (src_pair1 w3 ya yb) (by simp; omega) (O ++ [(ya, yb)]) rfl ?_; intro ro' rc' w4 ho4 hg4 hat4)
            go_roundw
            case rel =>
              refine ⟨_, _, _, _, _, _, _, _, (xa, xb) :: A1, B1, O ++ [(ya, yb)], rfl, rfl, by simp, hi0.out, hk1, by simp; omega, by omega, by omega, by omega, by omega, Hid.mk' (MS.stepB hM2.out hp.out (World.grownBy_alloc _ _ _) hg4 ho4 hat4 _ (.inl rfl) _)⟩
            case measure => simp [lenOf]; omega
set_option maxRecDepth 100000 in
set_option maxHeartbeats 400000 in
theorem sorted_small (L : List Pr) (hs : L.length < 2) (ao : Option Addr) (cap : Nat) (w : World) (hR : PE.Rd w ao L) (hc : L.length ≤ cap) (hcm : cap ≤ 9223372036854775807) :
    Calls Try.prog 29 #[.slice ao L.length cap] w fun e w' => ∃ ro rc, e = .returned (.slice ro L.length rc) ∧ PE.Rd w' ro (msort L) ∧ L.length ≤ rc ∧ rc ≤ 9223372036854775807 ∧ w.grownBy w' none := by
  rw [msort_small hs]
  have hR0 := Hid.mk' hR
  clear hR
  have h1 : (L.length : Int) < 2 := by omega
  go_enter Try.func29, Try.ntmps29
  go_wp2_with fail
  go_ret
  exact ⟨ao, cap, rfl, hR0.out, hc, hcm, grownBy_refl _ _⟩
theorem sorted_all (n : Nat) : n ≤ 70000 → ∀ (L : List Pr), L.length ≤ n → ∀ (m : Nat), L.length = m → ∀ (ao : Option Addr) (cap : Nat) (w : World), PE.Rd w ao L → m ≤ cap → cap ≤ 9223372036854775807 →
    Calls Try.prog 29 #[.slice ao m cap] w fun e w' => ∃ ro rc, e = .returned (.slice ro m rc) ∧ PE.Rd w' ro (msort L) ∧ m ≤ rc ∧ rc ≤ 9223372036854775807 ∧ w.grownBy w' none := by
  induction n with
  | zero =>
    intro _ L hL m hm ao cap w hR hc hcm
    subst hm
    exact sorted_small L (by omega) ao cap w hR hc hcm
  | succ n ih =>
    intro hn L hL m hm ao cap w hR hc hcm
    subst hm
    by_cases hs : L.length < 2
    · exact sorted_small L hs ao cap w hR hc hcm
    · exact sorted_step n (ih (by omega)) L hL (by omega) hs ao cap w hR hc hcm
/-- The document's sorted. -/
theorem sorted_any (L : List Pr) (hL : L.length ≤ 65536) (ao : Option Addr) (cap : Nat) (w : World) (hR : PE.Rd w ao L) (hc : L.length ≤ cap) (hcm : cap ≤ 9223372036854775807) :
    Calls Try.prog 29 #[.slice ao L.length cap] w fun e w' => ∃ ro rc, e = .returned (.slice ro L.length rc) ∧ PE.Rd w' ro (msort L) ∧ L.length ≤ rc ∧ rc ≤ 9223372036854775807 ∧ w.grownBy w' none :=
  sorted_all 65536 (by omega) L hL L.length rfl ao cap w hR hc hcm
end Go.Proofs.Ytcoiddmgcoeocaa.Tr
