/- Layer 13's letters and results, in the order in which the program has them: plain mathematics. -/
import Derived.Test.YtfehmbicolllkaaVW13
namespace Go.Proofs.Ytfehmbicolllkaa.C13
set_option linter.unusedVariables false

def le : List Nat := [65, 69, 73, 79, 85, 89, 97, 101, 105, 111, 117, 121, 194, 202, 212, 226, 234, 244, 258, 259, 416, 417, 431, 432]
def ro : List (Nat × List Nat) := [(768, [192, 200, 204, 210, 217, 7922, 224, 232, 236, 242, 249, 7923, 7846, 7872, 7890, 7847, 7873, 7891, 7856, 7857, 7900, 7901, 7914, 7915]), (777, [7842, 7866, 7880, 7886, 7910, 7926, 7843, 7867, 7881, 7887, 7911, 7927, 7848, 7874, 7892, 7849, 7875, 7893, 7858, 7859, 7902, 7903, 7916, 7917]), (771, [195, 7868, 296, 213, 360, 7928, 227, 7869, 297, 245, 361, 7929, 7850, 7876, 7894, 7851, 7877, 7895, 7860, 7861, 7904, 7905, 7918, 7919]), (769, [193, 201, 205, 211, 218, 221, 225, 233, 237, 243, 250, 253, 7844, 7870, 7888, 7845, 7871, 7889, 7854, 7855, 7898, 7899, 7912, 7913]), (803, [7840, 7864, 7882, 7884, 7908, 7924, 7841, 7865, 7883, 7885, 7909, 7925, 7852, 7878, 7896, 7853, 7879, 7897, 7862, 7863, 7906, 7907, 7920, 7921])]
/-- A row's 25 numbers: its mark, its results. -/
def rowN (r : Nat × List Nat) : List Nat := r.1 :: r.2
def toI (l : List Nat) : List Int := l.map (fun n : Nat => (n : Int))
def roI : List Int := toI (ro.flatMap rowN)
def rowI (j : Nat) : List Int := toI (rowN (ro.getD j (0, [])))
/-- Letters, marks and results in the program's order. -/
def pt : List (Nat × Nat × Nat) := ro.flatMap (fun r => (le.zip r.2).map (fun p => (p.1, r.1, p.2)))
theorem toI_len (l : List Nat) : (toI l).length = l.length := List.length_map _
theorem le_len : le.length = 24 := by decide +kernel
theorem ro_len : ro.length = 5 := by decide +kernel
theorem roI_len : roI.length = 125 := by decide +kernel
theorem rowI_len {j : Nat} (hj : j < 5) : (rowI j).length = 25 := by
  have : ∀ j < 5, (rowI j).length = 25 := by decide +kernel
  exact this j hj
theorem pt_len : pt.length = 120 := by decide +kernel
theorem pt_trip : ∀ t ∈ pt, t ∈ trip := by decide +kernel
theorem trip_pt : ∀ t ∈ trip, t ∈ pt := by decide +kernel
theorem pt_small : ∀ t ∈ pt, t.1 ≤ 65535 ∧ t.2.1 ≤ 65535 ∧ t.2.2 ≤ 65535 := by decide +kernel
/-- The triple of row j, letter i. -/
theorem pt_at {j i : Nat} (hj : j < 5) (hi : i < 24) : pt[24 * j + i]? = some (le.getD i 0, (ro.getD j (0, [])).1, (ro.getD j (0, [])).2.getD i 0) := by
  have : ∀ j < 5, ∀ i < 24, pt[24 * j + i]? = some (le.getD i 0, (ro.getD j (0, [])).1, (ro.getD j (0, [])).2.getD i 0) := by decide +kernel
  exact this j hj i hi
theorem rowI_at {j i : Nat} (hj : j < 5) (hi : i < 24) : (rowI j)[0]? = some (((ro.getD j (0, [])).1 : Nat) : Int) ∧ (rowI j)[1 + i]? = some (((ro.getD j (0, [])).2.getD i 0 : Nat) : Int) := by
  have : ∀ j < 5, ∀ i < 24, (rowI j)[0]? = some (((ro.getD j (0, [])).1 : Nat) : Int) ∧ (rowI j)[1 + i]? = some (((ro.getD j (0, [])).2.getD i 0 : Nat) : Int) := by decide +kernel
  exact this j hj i hi
/-- A letter that may be held is one of the letters; what marks are. -/
theorem hoR_le (u : Int) : hoR u = le.any (fun n => decide ((n : Int) = u)) := by
  have h1 : ∀ t ∈ trip, t.1 ∈ le := by decide +kernel
  have h2 : ∀ n ∈ le, trip.any (fun t => t.1 == n) = true := by decide +kernel
  unfold hoR
  rw [Bool.eq_iff_iff, List.any_eq_true, List.any_eq_true]
  constructor
  · rintro ⟨t, ht, e⟩
    exact ⟨t.1, h1 t ht, e⟩
  · rintro ⟨n, hn, e⟩
    obtain ⟨t, ht, e2⟩ := List.any_eq_true.1 (h2 n hn)
    have e3 : t.1 = n := by simpa using e2
    exact ⟨t, ht, by rw [e3]; exact e⟩
def mkR (u : Int) : Bool := ro.any (fun r => decide ((r.1 : Int) = u))
theorem coR_in {l m : Int} {n : Nat} (h : coR l m = some n) : hoR l = true ∧ mkR m = true := by
  have h3 : ∀ t ∈ trip, ro.any (fun r => r.1 == t.2.1) = true := by decide +kernel
  unfold coR at h
  cases e : trip.find? (fun p => decide ((p.1 : Int) = l ∧ (p.2.1 : Int) = m)) with
  | none => rw [e] at h; cases h
  | some t =>
    have h1 := List.find?_some e
    simp only [decide_eq_true_eq] at h1
    have hm := List.mem_of_find?_eq_some e
    refine ⟨?_, ?_⟩
    · unfold hoR
      exact List.any_eq_true.2 ⟨t, hm, decide_eq_true h1.1⟩
    · obtain ⟨r, hr, er⟩ := List.any_eq_true.1 (h3 t hm)
      have er' : r.1 = t.2.1 := by simpa using er
      exact List.any_eq_true.2 ⟨r, hr, by rw [er']; exact decide_eq_true h1.2⟩
/-- What the program's map holds behind its first k entries. -/
def coP (k : Nat) (l m : Int) : Option Nat := ((pt.take k).reverse.find? (fun t => decide ((t.1 : Int) = l ∧ (t.2.1 : Int) = m))).map (fun t => t.2.2)
theorem coP_all (l m : Int) : coP 120 l m = coR l m := by
  unfold coP
  have e0 : pt.take 120 = pt := List.take_of_length_le (by rw [pt_len]; omega)
  rw [e0]
  cases e : pt.reverse.find? (fun t => decide ((t.1 : Int) = l ∧ (t.2.1 : Int) = m)) with
  | some t =>
    have h1 := List.find?_some e
    simp only [decide_eq_true_eq] at h1
    have h2 := (trip_two t (pt_trip t (List.mem_reverse.1 (List.mem_of_find?_eq_some e)))).2.1
    rw [h1.1, h1.2] at h2
    rw [h2]
    rfl
  | none =>
    have : trip.find? (fun p => decide ((p.1 : Int) = l ∧ (p.2.1 : Int) = m)) = none := by
      rw [List.find?_eq_none] at e ⊢
      intro x hx
      exact e x (List.mem_reverse.2 (trip_pt x hx))
    unfold coR
    rw [this]
/-- The first place of a number in a row. -/
def ixR (L : List Int) (u : Int) : Option Nat := L.findIdx? (fun z => z == u)
def ixV : Option Nat → Int | some i => (i : Int) | none => -1
theorem ixR_hit {L : List Int} {u : Int} {i : Nat} (hi : i < L.length) (h : L[i] = u) (h0 : ∀ j (hj : j < i), ¬ (L[j]'(by omega)) = u) : ixR L u = some i := by
  unfold ixR
  rw [List.findIdx?_eq_some_iff_getElem]
  exact ⟨hi, by simpa using h, fun j hj => by simpa using h0 j hj⟩
theorem ixR_miss {L : List Int} {u : Int} (h0 : ∀ j (hj : j < L.length), ¬ L[j] = u) : ixR L u = none := by
  unfold ixR
  rw [List.findIdx?_eq_none_iff]
  intro x hx
  obtain ⟨i, hi, rfl⟩ := List.getElem_of_mem hx
  simpa using h0 i hi
theorem ixR_some {L : List Int} {u : Int} {i : Nat} (h : ixR L u = some i) : ∃ hi : i < L.length, L[i] = u ∧ ∀ j (hj : j < i), ¬ (L[j]'(by omega)) = u := by
  unfold ixR at h
  rw [List.findIdx?_eq_some_iff_getElem] at h
  obtain ⟨hi, h1, h2⟩ := h
  exact ⟨hi, by simpa using h1, fun j hj => by simpa using h2 j hj⟩
theorem ixR_none {L : List Int} {u : Int} (h : ixR L u = none) : ∀ x ∈ L, ¬ x = u := by
  unfold ixR at h
  rw [List.findIdx?_eq_none_iff] at h
  intro x hx
  simpa using h x hx
theorem ixR_le (u : Int) : (ixR (toI le) u).isSome = hoR u := by
  rw [hoR_le]
  cases e : ixR (toI le) u with
  | some i =>
    obtain ⟨hi, h1, _⟩ := ixR_some e
    symm
    simp only [Option.isSome_some]
    rw [List.any_eq_true]
    have hi' : i < le.length := by simpa [toI_len] using hi
    exact ⟨le[i], List.getElem_mem hi', by simpa [toI] using h1⟩
  | none =>
    symm
    simp only [Option.isSome_none]
    rw [List.any_eq_false]
    intro n hn
    have := ixR_none e (n : Int) (List.mem_map.2 ⟨n, hn, rfl⟩)
    simpa using this
/-- Split by rows: the first row that has the number. -/
theorem spR_hit {u : Int} {j i : Nat} (hj : j < 5) (hi : i < 24) (h : (((ro.getD j (0, [])).2.getD i 0 : Nat) : Int) = u) : spR u = some (le.getD i 0, (ro.getD j (0, [])).1) := by
  have h1 := List.mem_of_getElem? (pt_at hj hi)
  have h2 := (trip_two _ (pt_trip _ h1)).1
  simp only at h2
  rw [h] at h2
  exact h2
theorem spR_miss {u : Int} (h : ∀ j < 5, ixR (toI (ro.getD j (0, [])).2) u = none) : spR u = none := by
  cases e : spR u with
  | none => rfl
  | some p =>
    exfalso
    unfold spR at e
    cases e1 : trip.find? (fun p => decide ((p.2.2 : Int) = u)) with
    | none => rw [e1] at e; cases e
    | some t =>
      have h1 := List.find?_some e1
      simp only [decide_eq_true_eq] at h1
      have h2 := trip_pt t (List.mem_of_find?_eq_some e1)
      have h3 : ∀ t ∈ pt, (List.range 5).any (fun j => (ro.getD j (0, [])).2.any (fun n => n == t.2.2)) = true := by decide +kernel
      obtain ⟨j, hj, e2⟩ := List.any_eq_true.1 (h3 t h2)
      obtain ⟨n, hn, e3⟩ := List.any_eq_true.1 e2
      have e4 : n = t.2.2 := by simpa using e3
      refine ixR_none (h j (List.mem_range.1 hj)) (n : Int) (List.mem_map.2 ⟨n, hn, rfl⟩) ?_
      rw [e4]
      exact h1
/-- The least byte of a number, by its place in the list. -/
theorem onR_low {u : Int} (h0 : 0 ≤ u) (h1 : u < 128) : onR u = some u.toNat := by
  have : ∀ b < 128, onR ((b : Nat) : Int) = some b := by decide +kernel
  have e := this u.toNat (by omega)
  rwa [Int.toNat_of_nonneg h0] at e
theorem tl_high : ∀ x ∈ tl, 128 ≤ x := by decide +kernel
theorem vsR_high {b : Nat} (h : b < 128) : vsR (128 + b) = tl.getD b 0 := by
  unfold vsR
  rw [if_neg (by omega), Nat.add_sub_cancel_left]
theorem onR_high {u : Int} (h9 : ¬ u = 65533) (h0 : ¬ (0 ≤ u ∧ u < 128)) : onR u = (ixR (toI tl) u).map (fun i => 128 + i) := by
  unfold onR
  rw [if_neg h9]
  cases e : ixR (toI tl) u with
  | some i =>
    obtain ⟨hi, h1, h2⟩ := ixR_some e
    have hi' : i < 128 := by rw [toI_len, tl_len] at hi; exact hi
    show _ = some (128 + i)
    rw [List.find?_eq_some_iff_getElem]
    refine ⟨?_, 128 + i, by rw [List.length_range]; omega, by rw [List.getElem_range], fun j hj => ?_⟩
    · rw [vsR_high hi']
      have hit : i < tl.length := by rw [tl_len]; exact hi'
      rw [List.getD_eq_getElem?_getD, List.getElem?_eq_getElem hit]
      simpa [toI] using h1
    · rw [List.getElem_range]
      by_cases hj2 : j < 128
      · unfold vsR
        rw [if_pos hj2]
        simp only [Bool.not_eq_eq_eq_not, Bool.not_true, decide_eq_false_iff_not]
        omega
      · obtain ⟨k, rfl⟩ : ∃ k, j = 128 + k := ⟨j - 128, by omega⟩
        have hk : k < i := by omega
        have hkt : k < tl.length := by rw [tl_len]; omega
        rw [vsR_high (by omega), List.getD_eq_getElem?_getD, List.getElem?_eq_getElem hkt]
        have := h2 k hk
        simpa [toI] using this
  | none =>
    show _ = none
    rw [List.find?_eq_none]
    intro b hb
    have hb' := List.mem_range.1 hb
    by_cases hb2 : b < 128
    · unfold vsR
      rw [if_pos hb2]
      simp only [decide_eq_true_eq]
      omega
    · obtain ⟨k, rfl⟩ : ∃ k, b = 128 + k := ⟨b - 128, by omega⟩
      have hkt : k < tl.length := by rw [tl_len]; omega
      rw [vsR_high (by omega), List.getD_eq_getElem?_getD, List.getElem?_eq_getElem hkt]
      have := ixR_none e ((tl[k] : Nat) : Int) (List.mem_map.2 ⟨tl[k], List.getElem_mem hkt, rfl⟩)
      simpa using this
end Go.Proofs.Ytfehmbicolllkaa.C13
