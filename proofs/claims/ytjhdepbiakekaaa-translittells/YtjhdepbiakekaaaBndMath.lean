/- That the document's bounds are the program's beginnings: plain mathematics. -/
import Derived.Test.YtjhdepbiakekaaaBounds
namespace Go.Proofs.Ytjhdepbiakekaaa.U8
open Go.Proofs.Ytjhdepbiakekaaa.Ucs Go.Proofs.Ytjhdepbiakekaaa.Mem
set_option linter.unusedVariables false

/-- Does a unit begin with this byte? -/
def first (c : Nat) : Bool := decide (ix c < 4) && leads (ix c) 1 (c - fmark (ix c))
theorem first_iff (c : Nat) (hc : c < 256) : first c = true ↔ c ≤ 244 ∧ (c < 128 ∨ 194 ≤ c) :=
  (show ∀ c : Fin 256, first (c : Nat) = true ↔ (c : Nat) ≤ 244 ∧ ((c : Nat) < 128 ∨ 194 ≤ (c : Nat)) by decide +kernel) ⟨c, hc⟩
theorem bnd_end (c n : Nat) (hc : c < 256) (hf : first c = true) (hn : 1 ≤ n) (hn4 : n ≤ 4) : (fsize (ix c) ≤ n → bnd n c = (0, 0)) ∧ (n < fsize (ix c) → 128 ≤ (bnd n c).2 ∧ (bnd n c).2 ≤ 191 ∧ 128 ≤ (bnd n c).1 ∧ (2 ≤ n → bnd n c = (128, 191))) :=
  (show ∀ (c : Fin 256) (n : Fin 5), first (c : Nat) = true → 1 ≤ (n : Nat) → ((fsize (ix c) ≤ (n : Nat) → bnd n c = (0, 0)) ∧ ((n : Nat) < fsize (ix c) → 128 ≤ (bnd n c).2 ∧ (bnd n c).2 ≤ 191 ∧ 128 ≤ (bnd n c).1 ∧ (2 ≤ (n : Nat) → bnd n c = (128, 191)))) by decide +kernel) ⟨c, hc⟩ ⟨n, by omega⟩ hf hn
theorem leads_more {k n v d : Nat} (hl : leads k n v = true) (hn : 2 ≤ n) (hs : n < fsize k) : leads k (n + 1) (v * 64 + d % 64) = true := by
  have hd := Nat.mod_lt d (show 0 < 64 by omega)
  generalize d % 64 = e at *
  have h4 := fsize_le k
  rw [leads_eq, Bool.and_eq_true, decide_eq_true_eq] at hl ⊢
  obtain ⟨h1, h2⟩ := hl
  have h2 := scB_iff.1 h2
  have hk : k = 2 ∨ k = 3 := by
    unfold fsize at hs
    split at hs <;> omega
  rw [scB_iff]
  rcases hk with rfl | rfl
  · simp only [fsize, fleast] at *
    obtain rfl : n = 2 := by omega
    simp only [show (64 : Nat) ^ (3 - 2) = 64 from rfl, show (64 : Nat) ^ (3 - (2 + 1)) = 1 from rfl] at *
    omega
  · simp only [fsize, fleast] at *
    have hn : n = 2 ∨ n = 3 := by omega
    rcases hn with rfl | rfl
    · simp only [show (64 : Nat) ^ (4 - 2) = 4096 from rfl, show (64 : Nat) ^ (4 - (2 + 1)) = 64 from rfl] at *
      omega
    · simp only [show (64 : Nat) ^ (4 - 3) = 64 from rfl, show (64 : Nat) ^ (4 - (3 + 1)) = 1 from rfl] at *
      omega
theorem bnd_one (c d : Nat) (hc : c < 256) (hd : d < 256) (hf : first c = true) (hs : 1 < fsize (ix c)) :
    ((bnd 1 c).1 ≤ d ∧ d ≤ (bnd 1 c).2) ↔ d / 64 = 2 ∧ leads (ix c) 2 ((c - fmark (ix c)) * 64 + d % 64) = true := by
  have h194 : 194 ≤ c ∧ c ≤ 244 := by
    have h := (first_iff c hc).1 hf
    refine ⟨?_, h.1⟩
    rcases h.2 with h | h
    · have : ix c = 0 := by unfold ix; rw [if_pos h]
      rw [this] at hs
      simp [fsize] at hs
    · exact h
  obtain ⟨m, rfl⟩ : ∃ m, c = 194 + m := ⟨c - 194, by omega⟩
  exact (show ∀ (m : Fin 51) (d : Fin 256), (((bnd 1 (194 + (m : Nat))).1 ≤ (d : Nat) ∧ (d : Nat) ≤ (bnd 1 (194 + (m : Nat))).2) ↔ (d : Nat) / 64 = 2 ∧ leads (ix (194 + (m : Nat))) 2 ((194 + (m : Nat) - fmark (ix (194 + (m : Nat)))) * 64 + (d : Nat) % 64) = true) by decide +kernel) ⟨m, by omega⟩ ⟨d, hd⟩
/-- May this byte stand behind n of a unit? -/
theorem bnd_iff {c n v d : Nat} (hc : c < 256) (hd : d < 256) (hf : first c = true) (hn : 1 ≤ n) (hs : n < fsize (ix c)) (hl : leads (ix c) n v = true) (h1 : n = 1 → v = c - fmark (ix c)) :
    ((bnd n c).1 ≤ d ∧ d ≤ (bnd n c).2) ↔ d / 64 = 2 ∧ leads (ix c) (n + 1) (v * 64 + d % 64) = true := by
  have h4 := fsize_le (ix c)
  by_cases e : n = 1
  · subst e
    rw [h1 rfl]
    exact bnd_one c d hc hd hf hs
  · have := ((bnd_end c n hc hf hn (by omega)).2 hs).2.2.2 (by omega)
    rw [this, leads_more hl (by omega) hs]
    simp only [and_true]
    omega
/-- The bits of a first byte and of those behind it. -/
def valOf (k c : Nat) (r : List UInt8) : Nat := r.foldl (fun v d => v * 64 + d.toNat % 64) (c - fmark k)
theorem valOf_snoc (k c : Nat) (r : List UInt8) (d : UInt8) : valOf k c (r ++ [d]) = valOf k c r * 64 + d.toNat % 64 := by simp [valOf]
theorem take_snoc' (r : List UInt8) (j : Nat) (h : j < r.length) : r.take (j + 1) = r.take j ++ [r[j]] := List.take_succ_eq_append_getElem h
theorem fold_lt (r : List UInt8) : ∀ x, r.foldl (fun v d => v * 64 + d.toNat % 64) x < (x + 1) * 64 ^ r.length := by
  induction r with
  | nil => intro x; simp
  | cons d r ih =>
    intro x
    have h := ih (x * 64 + d.toNat % 64)
    have hd := Nat.mod_lt d.toNat (show 0 < 64 by omega)
    rw [List.foldl_cons, List.length_cons, Nat.pow_succ]
    refine Nat.lt_of_lt_of_le h ?_
    have e : (x + 1) * (64 ^ r.length * 64) = ((x + 1) * 64) * 64 ^ r.length := by rw [Nat.mul_comm (64 ^ r.length) 64, Nat.mul_assoc]
    rw [e]
    exact Nat.mul_le_mul_right _ (by omega)
theorem valOf_lt (k c : Nat) (hc : c < 256) (r : List UInt8) (h : r.length ≤ 3) : valOf k c r < 67108864 := by
  have h1 := fold_lt r (c - fmark k)
  have h2 : (c - fmark k + 1) * 64 ^ r.length ≤ 256 * 64 ^ 3 := Nat.mul_le_mul (by omega) (Nat.pow_le_pow_right (by omega) h)
  show r.foldl _ _ < _
  omega

/-- n bytes of a text have been taken: the beginning of a unit. -/
def Acc (c : UInt8) (r : List UInt8) (n : Nat) : Prop :=
  first c.toNat = true ∧ n ≤ fsize (ix c.toNat) ∧ leads (ix c.toNat) n (valOf (ix c.toNat) c.toNat (r.take (n - 1))) = true ∧ goOn (ix c.toNat) n (valOf (ix c.toNat) c.toNat (r.take (n - 1))) (r.drop (n - 1)) = get (c :: r)
theorem first_ix {c : Nat} (h : first c = true) : ix c < 4 ∧ leads (ix c) 1 (c - fmark (ix c)) = true := by
  unfold first at h
  simpa using h
theorem acc_one {c : UInt8} {r : List UInt8} (h : first c.toNat = true) : Acc c r 1 := by
  obtain ⟨h1, h2⟩ := first_ix h
  refine ⟨h, (show ∀ k : Fin 4, 1 ≤ fsize k by decide) ⟨_, h1⟩, by simpa [valOf] using h2, ?_⟩
  simp only [Nat.sub_self, List.take_zero, List.drop_zero, valOf, List.foldl_nil]
  rw [get, if_pos ⟨h1, h2⟩]
theorem get_notfirst {c : UInt8} {r : List UInt8} (h : first c.toNat = false) : get (c :: r) = .ill 1 := by
  rw [get, if_neg]
  intro ⟨h1, h2⟩
  simp [first, h1, h2] at h
theorem acc_next {c : UInt8} {r : List UInt8} {n : Nat} (h : Acc c r n) (hn : 1 ≤ n) (hs : n < fsize (ix c.toNat)) (hlt : n - 1 < r.length) :
    (((bnd n c.toNat).1 ≤ (r[n - 1]).toNat ∧ (r[n - 1]).toNat ≤ (bnd n c.toNat).2) → Acc c r (n + 1)) ∧ (¬ ((bnd n c.toNat).1 ≤ (r[n - 1]).toNat ∧ (r[n - 1]).toNat ≤ (bnd n c.toNat).2) → get (c :: r) = .ill n) := by
  obtain ⟨h1, h2, h3, h4⟩ := h
  have hi := bnd_iff (u8_lt c) (u8_lt r[n - 1]) h1 hn hs h3 (by intro e; subst e; simp [valOf])
  have hd : r.drop (n - 1) = r[n - 1] :: r.drop n := by
    have := List.drop_eq_getElem_cons hlt
    rwa [show n - 1 + 1 = n by omega] at this
  rw [hd, goOn, if_pos hs] at h4
  have ht : r.take n = r.take (n - 1) ++ [r[n - 1]] := by
    have := take_snoc' r (n - 1) hlt
    rwa [show n - 1 + 1 = n by omega] at this
  rw [hi]
  constructor
  · intro hc
    rw [if_pos hc] at h4
    refine ⟨h1, by omega, ?_, ?_⟩
    · rw [Nat.add_sub_cancel, ht, valOf_snoc]; exact hc.2
    · rw [Nat.add_sub_cancel, ht, valOf_snoc]; exact h4
  · intro hc
    rw [if_neg hc] at h4
    exact h4.symm
theorem acc_end {c : UInt8} {r : List UInt8} {n : Nat} (h : Acc c r n) (hs : n = fsize (ix c.toNat)) : get (c :: r) = .ok n (valOf (ix c.toNat) c.toNat (r.take (n - 1))) := by
  rw [← h.2.2.2, hs]
  exact goOn_unit.goOn_end' (by omega)
theorem acc_more {c : UInt8} {r : List UInt8} {n : Nat} (h : Acc c r n) (hs : n < fsize (ix c.toNat)) (hlen : r.length = n - 1) : get (c :: r) = .more := by
  rw [← h.2.2.2, List.drop_eq_nil_of_le (by omega), goOn, if_pos hs]
end Go.Proofs.Ytjhdepbiakekaaa.U8
