/- The program's step that puts out a scalar: all kinds, states and numbers. -/
import Derived.Test.YtkfcciacoplgmaaSet1
import Derived.Test.YtkfcciacoplgmaaGet
namespace Go.Proofs.Ytkfcciacoplgmaa.Wd
open Go.ChangeShapes Go.WideShapes Go.ChangeAt Go.RowKit Go.Proofs.Ytkfcciacoplgmaa.Mem Go.Proofs.Ytkfcciacoplgmaa.Ucs
set_option linter.unusedVariables false

theorem split_nat {u : Nat} (h : scB (u : Int) = true) (hu : 65535 < u) : splitB (u : Int) = true ∧ ∃ a b : Nat, splitH (u : Int) = (a : Int) ∧ splitL (u : Int) = (b : Int) ∧ 55296 ≤ a ∧ a ≤ 56319 ∧ 56320 ≤ b ∧ b ≤ 57343 ∧ (u : Int) = 65536 + ((a : Int) - 55296) * 1024 + ((b : Int) - 56320) := by
  have hb := scB_iff.1 h
  obtain ⟨h1, h2, h3⟩ := split_yes (u := (u : Int)) (by omega) (by omega)
  refine ⟨h1, 55296 + (u - 65536) / 1024, 56320 + (u - 65536) % 1024, by rw [h2]; omega, by rw [h3]; omega, by omega, by omega, by omega, by omega, by omega⟩
theorem str_small (low : Bool) (n u : Nat) (h : n ≤ 4) : (str (unitB low n u)).size ≤ 4 := by rw [str_size, unitB_length]; exact h
theorem str_two (low : Bool) (u : Nat) : (str (unitB low 2 u)).size ≤ 2 := by rw [str_size, unitB_length]; omega

theorem units_no_any (q : Nat) (low : Bool) (hq : q = fnOf low) (n : Nat) (hn : n = 2 ∨ n = 4) (p m : Bool) (u : Int) (h : bytesR p low n u = none) (w : World) :
    Calls Try.prog 29 #[.agg #[.int .i64 (n : Int), .bool p, .bool m, .func (.func q) #[] #[]], .int .i32 u] w fun e w' => e = .returned (.tuple #[.string ⟨#[]⟩, .bool false]) ∧ w.grownBy w' none := by
  by_cases hs : scB u = false
  · exact units_none q low hq p m w n u hs
  · have hs' : scB u = true := by simpa using hs
    have hb := scB_iff.1 hs'
    obtain ⟨x, rfl⟩ := Int.eq_ofNat_of_zero_le hb.1
    unfold bytesR at h
    rw [if_neg hs] at h
    by_cases c : n = 4 ∨ (x : Int) ≤ 65535
    · rw [if_pos c] at h; cases h
    · rw [if_neg c] at h
      have hn2 : n = 2 := by omega
      subst hn2
      cases p
      · exact units_no q low hq true m w x (by omega) hs'
      · rw [if_pos rfl] at h; cases h
theorem units_any (q : Nat) (low : Bool) (hq : q = fnOf low) (n : Nat) (hn : n = 2 ∨ n = 4) (p m : Bool) (u : Int) (B : List UInt8) (h : bytesR p low n u = some B) (w : World) :
    Calls Try.prog 29 #[.agg #[.int .i64 (n : Int), .bool p, .bool m, .func (.func q) #[] #[]], .int .i32 u] w fun e w' => e = .returned (.tuple #[.string (str B), .bool true]) ∧ w.grownBy w' none := by
  by_cases hs : scB u = false
  · unfold bytesR at h
    rw [if_pos hs] at h; cases h
  · have hs' : scB u = true := by simpa using hs
    have hb := scB_iff.1 hs'
    obtain ⟨x, rfl⟩ := Int.eq_ofNat_of_zero_le hb.1
    unfold bytesR at h
    rw [if_neg hs] at h
    by_cases c : n = 4 ∨ (x : Int) ≤ 65535
    · rw [if_pos c] at h
      simp only [Int.toNat_natCast, Option.some.injEq] at h
      subst h
      rcases hn with rfl | rfl
      · exact units_two q low hq p m w x (by omega) hs' _ rfl
      · exact units_four q low hq p m w x (by omega) hs' _ rfl
    · rw [if_neg c] at h
      have hn2 : n = 2 := by omega
      subst hn2
      cases p
      · simp at h
      · rw [if_pos rfl] at h
        obtain ⟨hB, a, b, ha, hb', a1, a2, b1, b2, _⟩ := split_nat hs' (by omega)
        rw [ha, hb'] at h
        simp only [Int.toNat_natCast, Option.some.injEq] at h
        subst h
        rw [← str_append]
        exact units_pair q low hq true m w x (by omega) hs' _ _ ha hb' hB a b (by omega) (by omega) rfl rfl _ _ rfl rfl (str_two _ _) (str_two _ _)

/-- What is put out: the error, the bytes, the mode behind it. -/
structure Pt where
  e : Int
  L : List UInt8
  md : Int
def setR (k md bi ac he u : Int) : Pt :=
  match fm k with
  | none => ⟨5, [], 0⟩
  | some (n, p, m, low) =>
    if fitB m md bi ac he = false then ⟨7, [], 0⟩
    else match bytesR p (low || decide (md = 2)) n u with
      | none => ⟨11, [], 0⟩
      | some B => if (m && decide (md = 0)) = true then ⟨0, unitB (low || decide (md = 2)) n 65279 ++ B, 1⟩ else ⟨0, B, md⟩
theorem bytesR_length {p low : Bool} {n : Nat} {u : Int} {B : List UInt8} (hn : n = 2 ∨ n = 4) (h : bytesR p low n u = some B) : B.length ≤ 4 := by
  unfold bytesR at h
  split at h
  · cases h
  · split at h
    · cases h; rw [unitB_length]; omega
    · split at h
      · cases h; rw [List.length_append, unitB_length, unitB_length]; omega
      · cases h
theorem set_any (k md bi ac he u : Int) (w : World) (R : Pt) (hR : setR k md bi ac he u = R) (s : ByteArray) (hs : str R.L = s) :
    Calls Try.prog 13 #[.int .i64 k, .agg #[.int .i64 md, .int .i64 bi, .int .u32 ac, .int .i32 he], .int .i32 u] w fun e w' => e = .returned (putS R.e s R.md) ∧ w.grownBy w' none := by
  subst hs hR
  cases hf : fm k with
  | none =>
    have e : setR k md bi ac he u = ⟨5, [], 0⟩ := by simp only [setR, hf]
    rw [e]
    exact set_none k md bi ac he (fm_none hf) u w
  | some f =>
    obtain ⟨n, p, m, low⟩ := f
    have ff := fm_facts hf
    have hn := ff.2.2.1
    by_cases hfit : fitB m md bi ac he = false
    · have e : setR k md bi ac he u = ⟨7, [], 0⟩ := by simp only [setR, hf, hfit, if_true]
      rw [e]
      exact set_bad k md bi ac he n p m low hf hfit u w
    · have hfit' : fitB m md bi ac he = true := by simpa using hfit
      obtain ⟨rfl, rfl, rfl, h0, h2, hm0⟩ := fit_zero hfit'
      obtain ⟨q, hq⟩ : ∃ q, fnOf (low || decide (md = 2)) = q := ⟨_, rfl⟩
      cases hb : bytesR p (low || decide (md = 2)) n u with
      | none =>
        have e : setR k md 0 0 0 u = ⟨11, [], 0⟩ := by simp only [setR, hf]; rw [if_neg hfit]; simp only [hb]
        rw [e]
        exact set_no k md n p m low hf hfit' q hq u w (fun w => units_no_any q _ hq.symm n hn p m u hb w)
      | some B =>
        have hBl := bytesR_length hn hb
        cases he : (m && decide (md = 0)) with
        | true =>
          have e : setR k md 0 0 0 u = ⟨0, unitB (low || decide (md = 2)) n 65279 ++ B, 1⟩ := by simp only [setR, hf]; rw [if_neg hfit]; simp only [hb, he, if_true]
          rw [e, ← str_append]
          exact set_mark k md n p m low hf hfit' q hq u w (str B) _ (fun w => units_any q _ hq.symm n hn p m u B hb w) he hn rfl (by rw [str_size]; exact hBl) (str_small _ _ _ (by omega))
        | false =>
          have e : setR k md 0 0 0 u = ⟨0, B, md⟩ := by simp only [setR, hf]; rw [if_neg hfit]; simp only [hb, he]; simp
          rw [e]
          exact set_plain k md n p m low hf hfit' q hq u w (str B) (fun w => units_any q _ hq.symm n hn p m u B hb w) he
end Go.Proofs.Ytkfcciacoplgmaa.Wd
