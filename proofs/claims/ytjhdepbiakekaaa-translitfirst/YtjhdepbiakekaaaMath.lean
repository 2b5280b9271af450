/- Units and steps: plain mathematics. -/
import Derived.Test.YtjhdepbiakekaaaGot
import Derived.Test.YtjhdepbiakekaaaUnit
namespace Go.Proofs.Ytjhdepbiakekaaa.U8
open Go.Proofs.Ytjhdepbiakekaaa.Ucs Go.Proofs.Ytjhdepbiakekaaa.Mem
set_option linter.unusedVariables false

theorem u8_of (n : Nat) (h : n < 256) : (UInt8.ofNat n).toNat = n := by rw [UInt8.toNat_ofNat']; exact Nat.mod_eq_of_lt h
theorem tl_nat (u : Nat) : (tl u).toNat = 128 + u % 64 := u8_of _ (by have := Nat.mod_lt u (show 0 < 64 by omega); omega)
/-- Does a byte go on? -/
def isTl (c : UInt8) : Prop := c.toNat / 64 = 2
theorem isTl_tl (u : Nat) : isTl (tl u) := by unfold isTl; rw [tl_nat]; have := Nat.mod_lt u (show 0 < 64 by omega); omega
theorem tl_of {c : UInt8} {x : Nat} (h : isTl c) (e : c.toNat % 64 = x % 64) : c = tl x := by
  apply UInt8.toNat_inj.1
  rw [tl_nat]
  unfold isTl at h
  omega
theorem tls_isTl : ∀ j u, ∀ c ∈ tls j u, isTl c
  | 0, _ => by simp [tls]
  | j + 1, u => by
    intro c hc
    rw [tls] at hc
    rcases List.mem_cons.1 hc with rfl | h
    · exact isTl_tl _
    · exact tls_isTl j u c h
theorem pow64 (j : Nat) : 2 ^ (6 * j) = 64 ^ j := by rw [Nat.pow_mul]
theorem leads_eq (k n u : Nat) : leads k n u = (decide (fleast k ≤ u * 64 ^ (fsize k - n) + (64 ^ (fsize k - n) - 1)) && scB ((u * 64 ^ (fsize k - n) : Nat) : Int)) := by
  unfold leads
  rw [pow64]
theorem leads_end (k u : Nat) : leads k (fsize k) u = true ↔ fleast k ≤ u ∧ scB (u : Int) = true := by
  rw [leads_eq, Nat.sub_self]
  simp
theorem div_64' (u j : Nat) : u / 64 ^ j / 64 = u / 64 ^ (j + 1) := by rw [Nat.div_div_eq_div_mul, Nat.pow_succ]
theorem leads_scalar {k n u : Nat} (hs : scB (u : Int) = true) (hl : fleast k ≤ u) (hn : 1 ≤ n) : leads k n (u / 64 ^ (fsize k - n)) = true := by
  rw [leads_eq]
  obtain ⟨h0, h1, h2⟩ := scB_iff.1 hs
  have h4 := fsize_le k
  have hd : fsize k - n = 0 ∨ fsize k - n = 1 ∨ fsize k - n = 2 ∨ fsize k - n = 3 := by omega
  rcases hd with hd | hd | hd | hd <;> rw [hd]
  · simp only [Nat.pow_zero, Nat.div_one, Nat.mul_one, Bool.and_eq_true, decide_eq_true_eq]
    exact ⟨by omega, hs⟩
  · rw [show (64 : Nat) ^ 1 = 64 from rfl]
    rw [Bool.and_eq_true]
    exact ⟨decide_eq_true (by omega), scB_iff.2 ⟨by omega, by omega, by omega⟩⟩
  · rw [show (64 : Nat) ^ 2 = 4096 from rfl]
    rw [Bool.and_eq_true]
    exact ⟨decide_eq_true (by omega), scB_iff.2 ⟨by omega, by omega, by omega⟩⟩
  · rw [show (64 : Nat) ^ 3 = 262144 from rfl]
    rw [Bool.and_eq_true]
    exact ⟨decide_eq_true (by omega), scB_iff.2 ⟨by omega, by omega, by omega⟩⟩

theorem step_back (u j : Nat) : u / 64 ^ (j + 1) * 64 + (tl (u / 64 ^ j)).toNat % 64 = u / 64 ^ j := by
  rw [tl_nat, ← div_64']
  have := Nat.mod_lt (u / 64 ^ j) (show 0 < 64 by omega)
  omega

/-- Whatever follows, a unit's end is read as its scalar. -/
theorem goOn_unit {k u : Nat} (hs : scB (u : Int) = true) (hl : fleast k ≤ u) (r : List UInt8) : ∀ j n, fsize k - n = j → 1 ≤ n → n ≤ fsize k → goOn k n (u / 64 ^ j) (tls j u ++ r) = .ok (fsize k) u := by
  intro j
  induction j with
  | zero =>
    intro n h1 h2 h3
    rw [goOn_end' (by omega)]
    simp
  | succ j ih =>
    intro n h1 h2 h3
    have hn : n < fsize k := by omega
    have hld := leads_scalar (k := k) (n := n + 1) hs hl (by omega)
    rw [show fsize k - (n + 1) = j by omega] at hld
    rw [tls, List.cons_append, goOn, if_pos hn, step_back, if_pos ⟨isTl_tl _, hld⟩]
    exact ih (n + 1) (by omega) (by omega) (by omega)
where
  goOn_end' {k n u : Nat} {r : List UInt8} (h : ¬ n < fsize k) : goOn k n u r = .ok (fsize k) u := by cases r <;> simp [goOn, h]
/-- A unit that is cut is the beginning of one. -/
theorem goOn_cut {k u : Nat} (hs : scB (u : Int) = true) (hl : fleast k ≤ u) : ∀ j n i, fsize k - n = j → 1 ≤ n → n ≤ fsize k → i < j → goOn k n (u / 64 ^ j) ((tls j u).take i) = .more := by
  intro j
  induction j with
  | zero => intro n i _ _ _ h; omega
  | succ j ih =>
    intro n i h1 h2 h3 hi
    have hn : n < fsize k := by omega
    have hld := leads_scalar (k := k) (n := n + 1) hs hl (by omega)
    rw [show fsize k - (n + 1) = j by omega] at hld
    cases i with
    | zero => simp [goOn, hn]
    | succ i =>
      rw [tls, List.take_succ_cons, goOn, if_pos hn, step_back, if_pos ⟨isTl_tl _, hld⟩]
      exact ih (n + 1) i (by omega) (by omega) (by omega) (by omega)
/-- What is read is a unit. -/
theorem goOn_ok {k : Nat} : ∀ (r : List UInt8) (n v m u : Nat), leads k n v = true → n ≤ fsize k → goOn k n v r = .ok m u →
    m = fsize k ∧ v = u / 64 ^ (fsize k - n) ∧ fleast k ≤ u ∧ scB (u : Int) = true ∧ ∃ r', r = tls (fsize k - n) u ++ r' := by
  intro r
  induction r with
  | nil =>
    intro n v m u hl hn h
    rw [goOn] at h
    split at h
    · cases h
    · cases h
      have e : n = fsize k := by omega
      subst e
      obtain ⟨h1, h2⟩ := (leads_end k v).1 hl
      exact ⟨rfl, by simp, h1, h2, [], by simp [tls]⟩
  | cons c r ih =>
    intro n v m u hl hn h
    rw [goOn] at h
    split at h
    · rename_i hlt
      split at h
      · rename_i hc
        obtain ⟨h1, h2, h3, h4, r', h5⟩ := ih (n + 1) _ m u hc.2 (by omega) h
        have hj : fsize k - n = (fsize k - (n + 1)) + 1 := by omega
        have hc64 := Nat.mod_lt c.toNat (show 0 < 64 by omega)
        refine ⟨h1, ?_, h3, h4, r', ?_⟩
        · rw [hj, ← div_64', ← h2]; omega
        · rw [hj, tls, List.cons_append, ← h5]
          congr 1
          exact tl_of hc.1 (by rw [← h2]; omega)
      · cases h
    · cases h
      have e : n = fsize k := by omega
      subst e
      obtain ⟨h1, h2⟩ := (leads_end k v).1 hl
      exact ⟨rfl, by simp, h1, h2, c :: r, by simp [tls]⟩
theorem goOn_more {k : Nat} : ∀ (r : List UInt8) (n v : Nat), goOn k n v r = .more → r.length < fsize k - n ∧ ∀ c ∈ r, isTl c := by
  intro r
  induction r with
  | nil =>
    intro n v h
    rw [goOn] at h
    split at h
    · exact ⟨by simp; omega, by simp⟩
    · cases h
  | cons c r ih =>
    intro n v h
    rw [goOn] at h
    split at h
    · split at h
      · rename_i hlt hc
        obtain ⟨h1, h2⟩ := ih _ _ h
        refine ⟨by simp; omega, ?_⟩
        intro x hx
        rcases List.mem_cons.1 hx with rfl | hx
        · exact hc.1
        · exact h2 x hx
      · cases h
    · cases h
theorem goOn_ill {k : Nat} : ∀ (r : List UInt8) (n v m : Nat), goOn k n v r = .ill m → n ≤ m ∧ m < fsize k ∧ m - n < r.length ∧ ∀ c ∈ r.take (m - n), isTl c := by
  intro r
  induction r with
  | nil =>
    intro n v m h
    rw [goOn] at h
    split at h <;> cases h
  | cons c r ih =>
    intro n v m h
    rw [goOn] at h
    split at h
    · split at h
      · rename_i hlt hc
        obtain ⟨h1, h2, h3, h4⟩ := ih _ _ _ h
        refine ⟨by omega, h2, by simp; omega, ?_⟩
        rw [show m - n = (m - (n + 1)) + 1 by omega, List.take_succ_cons]
        intro x hx
        rcases List.mem_cons.1 hx with rfl | hx
        · exact hc.1
        · exact h4 x hx
      · cases h
        exact ⟨by omega, by omega, by simp, by simp⟩
    · cases h

/-- A unit: its first byte, then bytes that go on. -/
def uk (u : Nat) : Nat := if u < 128 then 0 else if u < 2048 then 1 else if u < 65536 then 2 else 3
def lead (u : Nat) : UInt8 := UInt8.ofNat (fmark (uk u) + u / 64 ^ uk u)
theorem unit_eq (u : Nat) : unit u = lead u :: tls (uk u) u := by
  unfold unit lead uk
  repeat' split
  all_goals simp [fmark, tls]
theorem uk_le (u : Nat) : uk u ≤ 3 := by
  unfold uk
  repeat' split
  all_goals omega
theorem unit_length (u : Nat) : (unit u).length = uk u + 1 := by rw [unit_eq, List.length_cons, tls_length]
theorem fsize_uk (u : Nat) : fsize (uk u) = uk u + 1 := by
  unfold uk
  repeat' split
  all_goals rfl
theorem fleast_uk (u : Nat) : fleast (uk u) ≤ u := by
  unfold uk
  repeat' split
  all_goals simp only [fleast]
  all_goals omega
theorem lead_nat {u : Nat} (h : u ≤ 1114111) : (lead u).toNat = fmark (uk u) + u / 64 ^ uk u := by
  unfold lead uk
  repeat' split
  all_goals
    apply u8_of
    simp only [fmark, show (64 : Nat) ^ 0 = 1 from rfl, show (64 : Nat) ^ 1 = 64 from rfl, show (64 : Nat) ^ 2 = 4096 from rfl, show (64 : Nat) ^ 3 = 262144 from rfl]
    omega
theorem ix_lead {u : Nat} (h : u ≤ 1114111) : ix (lead u).toNat = uk u ∧ (lead u).toNat < 245 ∧ ¬ isTl (lead u) := by
  have e := lead_nat h
  unfold isTl
  rw [e]
  unfold uk
  repeat' split
  all_goals
    simp only [fmark, show (64 : Nat) ^ 0 = 1 from rfl, show (64 : Nat) ^ 1 = 64 from rfl, show (64 : Nat) ^ 2 = 4096 from rfl, show (64 : Nat) ^ 3 = 262144 from rfl]
    refine ⟨?_, by omega, by omega⟩
    unfold ix
    repeat' split
    all_goals omega
theorem sc_le {u : Nat} (h : scB (u : Int) = true) : u ≤ 1114111 := by have := (scB_iff.1 h).2.1; omega

theorem get_unit {u : Nat} (h : scB (u : Int) = true) (r : List UInt8) : get (unit u ++ r) = .ok (unit u).length u := by
  have hu := sc_le h
  rw [unit_eq, List.cons_append, get]
  obtain ⟨h1, h2, h3⟩ := ix_lead hu
  rw [h1]
  have e : (lead u).toNat - fmark (uk u) = u / 64 ^ uk u := by rw [lead_nat hu, Nat.add_sub_cancel_left]
  rw [e]
  have hk := uk_le u
  have hs := fsize_uk u
  have hl := leads_scalar (k := uk u) (n := 1) h (fleast_uk u) (by omega)
  rw [show fsize (uk u) - 1 = uk u by omega] at hl
  rw [if_pos ⟨by omega, hl⟩, goOn_unit h (fleast_uk u) r (uk u) 1 (by omega) (by omega) (by omega), hs, List.length_cons, tls_length]
theorem get_cut {u : Nat} (h : scB (u : Int) = true) (i : Nat) (hi : i < (unit u).length) : get ((unit u).take i) = .more := by
  have hu := sc_le h
  rw [unit_length] at hi
  rw [unit_eq]
  cases i with
  | zero => rfl
  | succ i =>
    rw [List.take_succ_cons, get]
    obtain ⟨h1, h2, h3⟩ := ix_lead hu
    rw [h1]
    have e : (lead u).toNat - fmark (uk u) = u / 64 ^ uk u := by rw [lead_nat hu, Nat.add_sub_cancel_left]
    rw [e]
    have hk := uk_le u
    have hs := fsize_uk u
    have hl := leads_scalar (k := uk u) (n := 1) h (fleast_uk u) (by omega)
    rw [show fsize (uk u) - 1 = uk u by omega] at hl
    rw [if_pos ⟨by omega, hl⟩]
    exact goOn_cut h (fleast_uk u) (uk u) 1 i (by omega) (by omega) (by omega) (by omega)

theorem ix_form (b : Nat) (h : ix b < 4) : fmark (ix b) ≤ b ∧ (ix b = 0 → b < 128) ∧ (ix b = 1 → b < 224) ∧ (ix b = 2 → b < 240) ∧ (ix b = 3 → b < 248) := by
  unfold ix at *
  repeat' split
  all_goals simp_all [fmark] <;> omega
/-- What is got is a scalar, and the bytes are its unit. -/
theorem get_ok {L : List UInt8} {n u : Nat} (h : get L = .ok n u) : scB (u : Int) = true ∧ n = (unit u).length ∧ ∃ r, L = unit u ++ r := by
  cases L with
  | nil => cases h
  | cons c r =>
    rw [get] at h
    split at h
    · rename_i hc
      obtain ⟨hk, hl⟩ := hc
      have hf := ix_form c.toNat hk
      have hc8 := u8_lt c
      generalize hkk : ix c.toNat = k at *
      have hs1 : 1 ≤ fsize k := (show ∀ k : Fin 4, 1 ≤ fsize k by decide) ⟨_, hk⟩
      have hsk : fsize k = k + 1 := (show ∀ k : Fin 4, fsize k = k + 1 by decide) ⟨_, hk⟩
      obtain ⟨h1, h2, h3, h4, r', h5⟩ := goOn_ok r 1 _ n u hl hs1 h
      have hu := sc_le h4
      rw [hsk, Nat.add_sub_cancel] at h2 h5
      -- the form is the scalar's own
      have huk : uk u = k := by
        have h' : k = 0 ∨ k = 1 ∨ k = 2 ∨ k = 3 := by omega
        rcases h' with rfl | rfl | rfl | rfl
        · simp only [fmark, show (64 : Nat) ^ 0 = 1 from rfl] at h2
          have := hf.2.1 rfl
          unfold uk
          rw [if_pos (by omega)]
        · simp only [fmark, fleast, show (64 : Nat) ^ 1 = 64 from rfl] at h2 h3
          have := hf.2.2.1 rfl
          unfold uk
          rw [if_neg (by omega), if_pos (by omega)]
        · simp only [fmark, fleast, show (64 : Nat) ^ 2 = 4096 from rfl] at h2 h3
          have := hf.2.2.2.1 rfl
          unfold uk
          rw [if_neg (by omega), if_neg (by omega), if_pos (by omega)]
        · simp only [fmark, fleast] at h2 h3
          unfold uk
          rw [if_neg (by omega), if_neg (by omega), if_neg (by omega)]
      refine ⟨h4, ?_, r', ?_⟩
      · rw [unit_length, h1, hsk, huk]
      · rw [unit_eq, huk, List.cons_append, ← h5]
        congr 1
        apply UInt8.toNat_inj.1
        rw [lead_nat hu, huk, ← h2]
        have := hf.1
        omega
    · cases h
theorem get_more {L : List UInt8} (h : get L = .more) : L.length < 4 ∧ ∀ c ∈ L.drop 1, isTl c := by
  cases L with
  | nil => exact ⟨by simp, by simp⟩
  | cons c r =>
    rw [get] at h
    split at h
    · obtain ⟨h1, h2⟩ := goOn_more _ _ _ h
      have := fsize_le (ix c.toNat)
      exact ⟨by simp; omega, by simpa using h2⟩
    · cases h
theorem get_ill {L : List UInt8} {n : Nat} (h : get L = .ill n) : 1 ≤ n ∧ n ≤ L.length ∧ ∀ c ∈ (L.take n).drop 1, isTl c := by
  cases L with
  | nil => cases h
  | cons c r =>
    rw [get] at h
    split at h
    · obtain ⟨h1, h2, h3, h4⟩ := goOn_ill _ _ _ _ h
      refine ⟨h1, by simp; omega, ?_⟩
      obtain ⟨m, rfl⟩ : ∃ m, n = m + 1 := ⟨n - 1, by omega⟩
      simpa using h4
    · cases h
      exact ⟨by omega, by simp, by simp⟩
/-- How many bytes a step passes: at least one, and all but the first go on. -/
theorem get_n {L : List UInt8} (hm : get L ≠ .more) : 1 ≤ (get L).n ∧ (get L).n ≤ L.length ∧ ∀ c ∈ (L.take (get L).n).drop 1, isTl c := by
  cases hg : get L using Res.three with
  | more => exact absurd hg hm
  | ill n => exact get_ill hg
  | ok n u =>
    obtain ⟨h1, h2, r, rfl⟩ := get_ok hg
    show 1 ≤ n ∧ n ≤ _ ∧ ∀ c ∈ ((unit u ++ r).take n).drop 1, isTl c
    subst h2
    refine ⟨by rw [unit_length]; omega, by simp, ?_⟩
    rw [List.take_left', unit_eq] <;> simp
    exact tls_isTl _ _
end Go.Proofs.Ytjhdepbiakekaaa.U8
