/- Tables of bytes: plain mathematics. Texts as rows of scalars; what the model's own decoding and encoding say of them; the scalar of a byte, the byte of a scalar. -/
import Derived.Test.YtjhdepbiakekaaaScan
import Derived.Laws.RangeAny
import Derived.Laws.Cover4
namespace Go.Proofs.Ytjhdepbiakekaaa.Dn
open Go.Proofs.Ytjhdepbiakekaaa.Ucs Go.Proofs.Ytjhdepbiakekaaa.Mem Go.Proofs.Ytjhdepbiakekaaa.U8
set_option linter.unusedVariables false

/-- Scalars, one behind the other, as bytes. -/
def units (us : List Nat) : List UInt8 := us.flatMap unit
def Sc (us : List Nat) : Prop := ∀ u ∈ us, scB (u : Int) = true
theorem units_nil : units [] = [] := rfl
theorem units_cons (u : Nat) (us : List Nat) : units (u :: us) = unit u ++ units us := by simp [units]
theorem units_append (us vs : List Nat) : units (us ++ vs) = units us ++ units vs := by simp [units]
theorem unit_pos (u : Nat) : 1 ≤ (unit u).length := by rw [unit_length]; omega

/-- A text without a fault is its scalars' units. -/
theorem text_of : ∀ (k : Nat) (L : List UInt8), L.length ≤ k → (scanAll L).2.2 = 0 → L = units (scanAll L).1 ∧ Sc (scanAll L).1 := by
  intro k
  induction k with
  | zero =>
    intro L h _
    have : L = [] := List.length_eq_zero_iff.1 (by omega)
    subst this
    exact ⟨rfl, by intro u hu; simp [scanAll_nil] at hu⟩
  | succ k ih =>
    intro L h he
    by_cases hne : L = []
    · subst hne; exact ⟨rfl, by intro u hu; simp [scanAll_nil] at hu⟩
    · by_cases hg : (get L).err = 0
      · obtain ⟨n, u, hg⟩ := err_ok hg
        have hn := ok_n hg
        obtain ⟨hs, hl, r, hr⟩ := get_ok hg
        have hd : L.drop n = r := by rw [hr, hl, List.drop_left]
        have hk := scanAll_step hg
        rw [hk] at he
        obtain ⟨h1, h2⟩ := ih (L.drop n) (by simp; omega) he
        rw [hk]
        refine ⟨?_, ?_⟩
        · show L = units (u :: (scanAll (L.drop n)).1)
          rw [units_cons, ← h1, hd]; exact hr
        · intro x hx
          rcases List.mem_cons.1 hx with rfl | hx
          · exact hs
          · exact h2 x hx
      · rw [scanAll_stop hne hg] at he
        exact absurd he hg
theorem scan_units : ∀ (us : List Nat) (M : List UInt8), Sc us → scanAll (units us ++ M) = (us ++ (scanAll M).1, (units us).length + (scanAll M).2.1, (scanAll M).2.2)
  | [], M, _ => by simp [units_nil]
  | u :: us, M, h => by
    have ih := scan_units us M (fun x hx => h x (List.mem_cons_of_mem _ hx))
    rw [units_cons, List.append_assoc, scan_unit (h u (List.mem_cons_self ..)), ih]
    simp [Nat.add_assoc]
theorem units_len (us : List Nat) : us.length ≤ (units us).length := by
  induction us with
  | nil => simp
  | cons u us ih => rw [units_cons, List.length_append, List.length_cons]; have := unit_pos u; omega

theorem get_drop {s : ByteArray} {p k : Nat} {L : List UInt8} {c : UInt8} (h : s.data.toList.drop p = L) (hc : L[k]? = some c) : s.get! (p + k) = c ∧ p + k < s.size := by
  subst h
  rw [List.getElem?_drop] at hc
  obtain ⟨hlt, he⟩ := List.getElem?_eq_some_iff.1 hc
  have hlt' : p + k < s.size := by simpa using hlt
  refine ⟨?_, hlt'⟩
  have := get_at s (p + k) hlt'
  simp only [Nat.add_zero] at this
  rw [this]
  have hx : s.data[p + k]'(by simpa using hlt) = c := by simpa using he
  exact hx
theorem of_nat (n : Nat) (h : n < 256) : (UInt8.ofNat n).toNat = n := by rw [UInt8.toNat_ofNat']; exact Nat.mod_eq_of_lt h
theorem decode_unit (s : ByteArray) (p u : Nat) (r : List UInt8) (h : s.data.toList.drop p = unit u ++ r) (hs : scB (u : Int) = true) : Utf8.decode s p = (u, (unit u).length) := by
  obtain ⟨_, h1, h2⟩ := scB_iff.1 hs
  by_cases c1 : u < 128
  · have hu : unit u = [UInt8.ofNat u] := by simp [unit, c1]
    rw [hu] at h ⊢
    obtain ⟨g0, _⟩ := get_drop (k := 0) h rfl
    have e0 : (UInt8.ofNat u).toNat = u := of_nat _ (by omega)
    simp only [Utf8.decode, g0, e0, c1, if_true]
    rfl
  · by_cases c2 : u < 2048
    · have hu : unit u = [UInt8.ofNat (192 + u / 64), tl u] := by simp [unit, c1, c2, tls]
      rw [hu] at h ⊢
      obtain ⟨g0, _⟩ := get_drop (k := 0) h rfl
      obtain ⟨g1, l1⟩ := get_drop (k := 1) h rfl
      have e0 : (UInt8.ofNat (192 + u / 64)).toNat = 192 + u / 64 := of_nat _ (by omega)
      have e1 := tl_nat u
      have a0 : ¬ (192 + u / 64 < 128) := by omega
      have a1 : (192 + u / 64) / 32 = 6 := by omega
      have a2 : (128 + u % 64) / 64 = 2 := by omega
      have a3 : (192 + u / 64) % 32 * 64 + (128 + u % 64) % 64 = u := by omega
      simp only [Utf8.decode, g0, e0, g1, e1, a0, a1, a2, a3, l1, if_false]
      simp; omega
    · by_cases c3 : u < 65536
      · have hu : unit u = [UInt8.ofNat (224 + u / 4096), tl (u / 64), tl u] := by simp [unit, c1, c2, c3, tls]
        rw [hu] at h ⊢
        obtain ⟨g0, _⟩ := get_drop (k := 0) h rfl
        obtain ⟨g1, l1⟩ := get_drop (k := 1) h rfl
        obtain ⟨g2, l2⟩ := get_drop (k := 2) h rfl
        have e0 : (UInt8.ofNat (224 + u / 4096)).toNat = 224 + u / 4096 := of_nat _ (by omega)
        have e1 := tl_nat (u / 64)
        have e2 := tl_nat u
        have a0 : ¬ (224 + u / 4096 < 128) := by omega
        have a1 : ((224 + u / 4096) / 32 == 6) = false := by simp; omega
        have a2 : (224 + u / 4096) / 16 = 14 := by omega
        have a3 : (128 + u / 64 % 64) / 64 = 2 := by omega
        have a4 : (128 + u % 64) / 64 = 2 := by omega
        have a5 : (224 + u / 4096) % 16 * 4096 + (128 + u / 64 % 64) % 64 * 64 + (128 + u % 64) % 64 = u := by omega
        have a6 : Utf8.valid (u : Int) = true := by simp only [Utf8.valid, Bool.or_eq_true, Bool.and_eq_true, decide_eq_true_eq]; omega
        simp only [Utf8.decode, g0, e0, g1, e1, g2, e2, a0, a1, a2, a3, a4, a5, a6, l1, l2, if_false, Bool.false_and]
        simp; omega
      · have hu : unit u = [UInt8.ofNat (240 + u / 262144), tl (u / 4096), tl (u / 64), tl u] := by simp [unit, c1, c2, c3, tls]
        rw [hu] at h ⊢
        obtain ⟨g0, _⟩ := get_drop (k := 0) h rfl
        obtain ⟨g1, l1⟩ := get_drop (k := 1) h rfl
        obtain ⟨g2, l2⟩ := get_drop (k := 2) h rfl
        obtain ⟨g3, l3⟩ := get_drop (k := 3) h rfl
        have e0 : (UInt8.ofNat (240 + u / 262144)).toNat = 240 + u / 262144 := of_nat _ (by omega)
        have e1 := tl_nat (u / 4096)
        have e2 := tl_nat (u / 64)
        have e3 := tl_nat u
        have a0 : ¬ (240 + u / 262144 < 128) := by omega
        have a1 : ((240 + u / 262144) / 32 == 6) = false := by simp; omega
        have a2 : ((240 + u / 262144) / 16 == 14) = false := by simp; omega
        have a2' : (240 + u / 262144) / 8 = 30 := by omega
        have a3 : (128 + u / 4096 % 64) / 64 = 2 := by omega
        have a4 : (128 + u / 64 % 64) / 64 = 2 := by omega
        have a4' : (128 + u % 64) / 64 = 2 := by omega
        have a5 : (240 + u / 262144) % 8 * 262144 + (128 + u / 4096 % 64) % 64 * 4096 + (128 + u / 64 % 64) % 64 * 64 + (128 + u % 64) % 64 = u := by omega
        have a6 : Utf8.valid (u : Int) = true := by simp only [Utf8.valid, Bool.or_eq_true, Bool.and_eq_true, decide_eq_true_eq]; omega
        simp only [Utf8.decode, g0, e0, g1, e1, g2, e2, g3, e3, a0, a1, a2, a2', a3, a4, a4', a5, a6, l1, l2, l3, if_false, Bool.false_and]
        simp; omega
theorem encode_unit (u : Nat) (hs : scB (u : Int) = true) : Utf8.encode (u : Int) = str (unit u) := by
  obtain ⟨_, h1, h2⟩ := scB_iff.1 hs
  have a6 : Utf8.valid (u : Int) = true := by simp only [Utf8.valid, Bool.or_eq_true, Bool.and_eq_true, decide_eq_true_eq]; omega
  unfold Utf8.encode unit
  simp only [a6, if_true, Int.toNat_natCast]
  have hd : u / 4096 = u / 64 / 64 := by omega
  repeat' split
  all_goals first | omega | simp [str, tls, tl]
theorem str_append (L M : List UInt8) : str L ++ str M = str (L ++ M) := by
  apply ByteArray.ext
  simp [str]
theorem runes_units (us : List Nat) (h : Sc us) : runesBytes (us.map fun (u : Nat) => (u : Int)) = str (units us) := by
  have gen : ∀ (us : List Nat) (A : List UInt8), Sc us → (us.map fun (u : Nat) => (u : Int)).foldl (fun r n => r ++ Utf8.encode n) (str A) = str (A ++ units us) := by
    intro us
    induction us with
    | nil => intro A _; simp [units_nil]
    | cons u us ih =>
      intro A h
      rw [List.map_cons, List.foldl_cons, encode_unit u (h u (List.mem_cons_self ..)), str_append, ih _ (fun x hx => h x (List.mem_cons_of_mem _ hx)), units_cons, List.append_assoc]
  have := gen us [] h
  rw [List.nil_append] at this
  exact this

/-- The scalar of a byte. -/
def scR (f : Nat) (zs : List Int) (b : Nat) : Int × Bool :=
  if f ≤ b then (match zs[b - f]? with | some z => if z = 65533 then (0, false) else (z, true) | none => (0, false)) else (0, false)
/-- The byte of a scalar. -/
def byR (f : Nat) (zs : List Int) (u : Int) : Int × Bool :=
  if u = 65533 then (0, false) else (match zs.findIdx? (· == u) with | some i => (((f + i : Nat) : Int), true) | none => (0, false))

theorem scR_below {f b : Nat} (zs : List Int) (h : b < f) : scR f zs b = (0, false) := by unfold scR; rw [if_neg (by omega)]
theorem scR_behind {f b : Nat} {zs : List Int} (h : f ≤ b) (k : zs.length ≤ b - f) : scR f zs b = (0, false) := by
  unfold scR; rw [if_pos h, List.getElem?_eq_none k]
theorem scR_at {f b : Nat} {zs : List Int} (h : f ≤ b) (k : b - f < zs.length) : scR f zs b = if zs[b - f] = 65533 then (0, false) else (zs[b - f], true) := by
  unfold scR; rw [if_pos h, List.getElem?_eq_getElem k]
theorem byR_nil (f : Nat) (u : Int) : byR f [] u = (0, false) := by unfold byR; split <;> simp
theorem byR_miss (f : Nat) (zs : List Int) : byR f zs 65533 = (0, false) := by unfold byR; simp
theorem byR_bound {f : Nat} {zs : List Int} (u : Int) (h : f + zs.length ≤ 256) : 0 ≤ (byR f zs u).1 ∧ (byR f zs u).1 < 256 := by
  unfold byR
  split
  · simp
  · split
    · rename_i i hi
      have := (List.findIdx?_eq_some_iff_getElem.1 hi).1
      constructor <;> simp <;> omega
    · simp
theorem byR_false {f : Nat} {zs : List Int} {u : Int} (h : (byR f zs u).2 = false) : byR f zs u = (0, false) := by
  unfold byR at h ⊢
  split
  · rfl
  · rename_i hu
    rw [if_neg hu] at h
    split
    · rename_i i hi
      rw [hi] at h
      cases h
    · rfl
/-- One scalar more, that has no byte yet. -/
theorem byR_new {f : Nat} {zs : List Int} {z : Int} (hz : z ≠ 65533) (h : (byR f zs z).2 = false) : byR f (zs ++ [z]) z = (((f + zs.length : Nat) : Int), true) := by
  unfold byR at h ⊢
  rw [if_neg hz] at h ⊢
  rw [List.findIdx?_append]
  cases hi : zs.findIdx? (· == z) with
  | some i => rw [hi] at h; cases h
  | none => simp [List.findIdx?_cons]
theorem byR_old {f : Nat} {zs : List Int} {z u : Int} (h : (byR f zs u).2 = true ∨ u ≠ z ∨ u = 65533) : byR f (zs ++ [z]) u = byR f zs u := by
  unfold byR at h ⊢
  by_cases hu : u = 65533
  · rw [if_pos hu, if_pos hu]
  · rw [if_neg hu] at h
    rw [if_neg hu, if_neg hu, List.findIdx?_append]
    cases hi : zs.findIdx? (· == u) with
    | some i => simp
    | none =>
      rw [hi] at h
      rcases h with h | h | h
      · cases h
      · have : (z == u) = false := by simpa using Ne.symm h
        simp [List.findIdx?_cons, this]
      · exact absurd h hu
theorem byR_true {f : Nat} {zs : List Int} {u : Int} (h : (byR f zs u).2 = true) : u ≠ 65533 ∧ ∃ i, ∃ hi : i < zs.length, byR f zs u = (((f + i : Nat) : Int), true) ∧ zs[i] = u ∧ ∀ j (hj : j < i), zs[j] ≠ u := by
  unfold byR at h ⊢
  split at h
  · cases h
  · rename_i hu
    rw [if_neg hu]
    refine ⟨hu, ?_⟩
    cases hi : zs.findIdx? (· == u) with
    | none => rw [hi] at h; cases h
    | some i =>
      obtain ⟨a, b, c⟩ := List.findIdx?_eq_some_iff_getElem.1 hi
      exact ⟨i, a, rfl, by simpa using b, fun j hj => by simpa using c j hj⟩
theorem byR_of {f : Nat} {zs : List Int} {u : Int} (hu : u ≠ 65533) {i : Nat} (hi : i < zs.length) (h : zs[i] = u) : (byR f zs u).2 = true := by
  unfold byR
  rw [if_neg hu]
  cases hx : zs.findIdx? (· == u) with
  | some j => rfl
  | none =>
    have := List.findIdx?_eq_none_iff.1 hx zs[i] (List.getElem_mem hi)
    simp [h] at this
/-- The scalar of a scalar's byte. -/
theorem back_by {f : Nat} {zs : List Int} {u : Int} (h : (byR f zs u).2 = true) : u ≠ 65533 ∧ scR f zs (byR f zs u).1.toNat = (u, true) := by
  obtain ⟨hu, i, hi, e, hz, _⟩ := byR_true h
  refine ⟨hu, ?_⟩
  rw [e]
  simp only [Int.toNat_natCast]
  rw [scR_at (by omega) (by simpa using hi)]
  simp [hz, hu]
theorem scR_true {f : Nat} {zs : List Int} {b : Nat} (h : (scR f zs b).2 = true) : f ≤ b ∧ ∃ hi : b - f < zs.length, zs[b - f] ≠ 65533 ∧ scR f zs b = (zs[b - f], true) := by
  by_cases h1 : f ≤ b
  · by_cases h2 : b - f < zs.length
    · rw [scR_at h1 h2] at h ⊢
      split at h
      · cases h
      · rename_i hz; exact ⟨h1, h2, hz, by rw [if_neg hz]⟩
    · rw [scR_behind h1 (by omega)] at h; cases h
  · rw [scR_below zs (by omega)] at h; cases h
theorem back_sc {f : Nat} {zs : List Int} {b : Nat} (h : (scR f zs b).2 = true) : (byR f zs (scR f zs b).1).2 = true ∧ (byR f zs (scR f zs b).1).1 ≤ (b : Int) ∧ scR f zs (byR f zs (scR f zs b).1).1.toNat = ((scR f zs b).1, true) := by
  obtain ⟨h1, h2, h3, h4⟩ := scR_true h
  have ht : (byR f zs (scR f zs b).1).2 = true := by rw [h4]; exact byR_of h3 h2 rfl
  refine ⟨ht, ?_, (back_by ht).2⟩
  obtain ⟨_, i, hi, e, hz, hmin⟩ := byR_true ht
  rw [e]
  have : ¬ (b - f < i) := fun hlt => hmin _ hlt (by rw [h4])
  simp only
  omega
/-- A table that goes on. -/
theorem scR_more {f : Nat} {zs ys : List Int} {b : Nat} (h : (scR f zs b).2 = true) : scR f (zs ++ ys) b = scR f zs b := by
  obtain ⟨h1, h2, h3, h4⟩ := scR_true h
  rw [scR_at h1 (show b - f < (zs ++ ys).length by simp; omega), List.getElem_append_left h2, if_neg h3, h4]
theorem byR_more {f : Nat} {zs ys : List Int} {u : Int} (h : (byR f zs u).2 = true) : byR f (zs ++ ys) u = byR f zs u := by
  unfold byR at h ⊢
  split at h
  · cases h
  · rename_i hu
    rw [if_neg hu, if_neg hu, List.findIdx?_append]
    cases hi : zs.findIdx? (· == u) with
    | some i => simp
    | none => rw [hi] at h; cases h
end Go.Proofs.Ytjhdepbiakekaaa.Dn
