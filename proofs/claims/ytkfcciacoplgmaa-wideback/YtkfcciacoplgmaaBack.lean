/- What is written is read again, and what is read is written as it was: plain. -/
import Derived.Test.YtkfcciacoplgmaaTurn
import Derived.Test.YtkfcciacoplgmaaSet
namespace Go.Proofs.Ytkfcciacoplgmaa.Wd
open Go.ChangeShapes Go.WideShapes Go.ChangeAt Go.RowKit Go.Proofs.Ytkfcciacoplgmaa.Ucs Go.Proofs.Ytkfcciacoplgmaa.Mem
set_option linter.unusedVariables false
set_option linter.unusedSimpArgs false

theorem unit2 (u : Nat) : unitB false 2 u = [byt u 1, byt u 0] ∧ unitB true 2 u = [byt u 0, byt u 1] := ⟨rfl, rfl⟩
theorem unit4 (u : Nat) : unitB false 4 u = [byt u 3, byt u 2, byt u 1, byt u 0] ∧ unitB true 4 u = [byt u 0, byt u 1, byt u 2, byt u 3] := ⟨rfl, rfl⟩
theorem num_unit2 (lo : Bool) (u : Nat) (h : u < 65536) (M : List UInt8) : num lo 2 (unitB lo 2 u ++ M) = u := by
  cases lo
  · rw [(num2 _).1, (unit2 u).1]
    simp [byt_toNat]
    omega
  · rw [(num2 _).2, (unit2 u).2]
    simp [byt_toNat]
    omega
theorem num_unit4 (lo : Bool) (u : Nat) (h : u < 4294967296) (M : List UInt8) : num lo 4 (unitB lo 4 u ++ M) = u := by
  cases lo
  · rw [(num4 _).1, (unit4 u).1]
    simp [byt_toNat]
    omega
  · rw [(num4 _).2, (unit4 u).2]
    simp [byt_toNat]
    omega
theorem byt_eq (u j : Nat) (c : UInt8) (h : u / 256 ^ j % 256 = c.toNat) : byt u j = c := by
  apply UInt8.toNat_inj.1
  rw [byt_toNat, h]
theorem unit_num2 (lo : Bool) (M : List UInt8) (h : 2 ≤ M.length) : unitB lo 2 (num lo 2 M) = M.take 2 := by
  match M, h with
  | a :: b :: r, _ =>
    have ha := a.toNat_lt
    have hb := b.toNat_lt
    cases lo
    · rw [(unit2 _).1, (num2 _).1]
      simp only [List.getD_cons_zero, List.getD_cons_succ, List.take_succ_cons, List.take_zero]
      rw [byt_eq _ 1 a (by omega), byt_eq _ 0 b (by omega)]
    · rw [(unit2 _).2, (num2 _).2]
      simp only [List.getD_cons_zero, List.getD_cons_succ, List.take_succ_cons, List.take_zero]
      rw [byt_eq _ 0 a (by omega), byt_eq _ 1 b (by omega)]
theorem unit_num4 (lo : Bool) (M : List UInt8) (h : 4 ≤ M.length) : unitB lo 4 (num lo 4 M) = M.take 4 := by
  match M, h with
  | a :: b :: c :: d :: r, _ =>
    have ha := a.toNat_lt
    have hb := b.toNat_lt
    have hc := c.toNat_lt
    have hd := d.toNat_lt
    cases lo
    · rw [(unit4 _).1, (num4 _).1]
      simp only [List.getD_cons_zero, List.getD_cons_succ, List.take_succ_cons, List.take_zero]
      rw [byt_eq _ 3 a (by omega), byt_eq _ 2 b (by omega), byt_eq _ 1 c (by omega), byt_eq _ 0 d (by omega)]
    · rw [(unit4 _).2, (num4 _).2]
      simp only [List.getD_cons_zero, List.getD_cons_succ, List.take_succ_cons, List.take_zero]
      rw [byt_eq _ 0 a (by omega), byt_eq _ 1 b (by omega), byt_eq _ 2 c (by omega), byt_eq _ 3 d (by omega)]
theorem num_unit (lo : Bool) (n : Nat) (hn : n = 2 ∨ n = 4) (u : Nat) (h : u < 65536 ∨ n = 4 ∧ u < 4294967296) (M : List UInt8) : num lo n (unitB lo n u ++ M) = u := by
  rcases hn with rfl | rfl
  · exact num_unit2 lo u (by omega) M
  · exact num_unit4 lo u (by omega) M
theorem unit_num (lo : Bool) (n : Nat) (hn : n = 2 ∨ n = 4) (M : List UInt8) (h : n ≤ M.length) : unitB lo n (num lo n M) = M.take n := by
  rcases hn with rfl | rfl
  · exact unit_num2 lo M h
  · exact unit_num4 lo M h

/-- A scalar's bytes, whatever follows, are that scalar. -/
theorem plain_back (p lo : Bool) (n : Nat) (hn : n = 2 ∨ n = 4) (hp : p = true → n = 2) (u : Int) (B M : List UInt8) (h : bytesR p lo n u = some B) (md : Int) : plainR p lo n (B ++ M) md = ok B.length u md := by
  by_cases hs : scB u = false
  · unfold bytesR at h
    rw [if_pos hs] at h; cases h
  · have hs' : scB u = true := by simpa using hs
    have hb := scB_iff.1 hs'
    obtain ⟨x, rfl⟩ := Int.eq_ofNat_of_zero_le hb.1
    unfold bytesR at h
    rw [if_neg hs] at h
    by_cases c : n = 4 ∨ (x : Int) ≤ 65535
    · rw [if_pos c, Int.toNat_natCast] at h
      cases h
      have hnum := num_unit lo n hn x (by omega) M
      unfold plainR
      rw [if_neg (by rw [List.length_append, unitB_length]; omega), hnum, if_neg (fun hh => by have := hiB_iff.1 hh.2; omega), if_pos hs', unitB_length]
    · rw [if_neg c] at h
      have hn2 : n = 2 := by omega
      subst hn2
      cases p
      · simp at h
      · rw [if_pos rfl] at h
        obtain ⟨hB, a, b, ha, hb', a1, a2, b1, b2, he⟩ := split_nat hs' (by omega)
        rw [ha, hb', Int.toNat_natCast, Int.toNat_natCast] at h
        cases h
        have h1 : num lo 2 (unitB lo 2 a ++ (unitB lo 2 b ++ M)) = a := num_unit2 lo a (by omega) _
        have h2 : num lo 2 (unitB lo 2 b ++ M) = b := num_unit2 lo b (by omega) _
        have hd : (unitB lo 2 a ++ (unitB lo 2 b ++ M)).drop 2 = unitB lo 2 b ++ M := by
          rw [List.drop_append_of_le_length (by rw [unitB_length]; omega), List.drop_eq_nil_of_le (by rw [unitB_length]; omega), List.nil_append]
        have hh : hiB (a : Int) = true := hiB_pos (by omega) (by omega)
        have hl : loB (b : Int) = true := loB_pos (by omega) (by omega)
        rw [List.append_assoc]
        unfold plainR
        rw [if_neg (by simp [unitB_length] <;> omega), h1, if_pos ⟨rfl, hh⟩, if_neg (by simp [unitB_length] <;> omega), hd, h2, if_pos hl, (join_yes hh hl).2, ← he]
        simp [unitB_length]
/-- What is read is written as the bytes that it was. -/
theorem back_plain (p lo : Bool) (n : Nat) (hn : n = 2 ∨ n = 4) (hp : p = true → n = 2) (M : List UInt8) (md : Int) (R : Gt) (h : plainR p lo n M md = R) (he : R.e = 0) : ∃ N : Nat, R.n = (N : Int) ∧ N ≤ M.length ∧ R.k = 1 ∧ R.md = md ∧ bytesR p lo n R.a = some (M.take N) := by
  subst h
  unfold plainR at he ⊢
  by_cases c : M.length < n
  · rw [if_pos c] at he; cases he
  · rw [if_neg c] at he ⊢
    have hnl := num_lt lo n M
    by_cases c1 : p = true ∧ hiB (num lo n M : Int) = true
    · rw [if_pos c1] at he ⊢
      obtain ⟨rfl, hh⟩ := c1
      obtain rfl := hp rfl
      by_cases c2 : M.length < 2 + 2
      · rw [if_pos c2] at he; cases he
      · rw [if_neg c2] at he ⊢
        by_cases c3 : loB (num lo 2 (M.drop 2) : Int) = true
        · rw [if_pos c3]
          have ha := hiB_iff.1 hh
          have hb := loB_iff.1 c3
          obtain ⟨_, hv⟩ := join_yes hh c3
          refine ⟨4, rfl, by omega, rfl, rfl, ?_⟩
          show bytesR true lo 2 (joinV (num lo 2 M : Int) (num lo 2 (M.drop 2) : Int)) = _
          rw [hv]
          generalize hA : num lo 2 M = A at *
          generalize hD : num lo 2 (M.drop 2) = D at *
          obtain ⟨hB, hH, hL⟩ := split_yes (u := 65536 + ((A : Int) - 55296) * 1024 + ((D : Int) - 56320)) (by omega) (by omega)
          have e1 : splitH (65536 + ((A : Int) - 55296) * 1024 + ((D : Int) - 56320)) = (A : Int) := by rw [hH]; omega
          have e2 : splitL (65536 + ((A : Int) - 55296) * 1024 + ((D : Int) - 56320)) = (D : Int) := by rw [hL]; omega
          unfold bytesR
          rw [if_neg (by rw [scB_pos (by omega) (by omega) (by omega)]; simp), if_neg (by omega), if_pos rfl, e1, e2, Int.toNat_natCast, Int.toNat_natCast, ← hA, ← hD, unit_num2 lo M (by omega), unit_num2 lo (M.drop 2) (by rw [List.length_drop]; omega)]
          congr 1
          rw [show (4 : Nat) = 2 + 2 from rfl, List.take_add]
        · rw [if_neg c3] at he; cases he
    · rw [if_neg c1] at he ⊢
      by_cases c4 : scB (num lo n M : Int) = true
      · rw [if_pos c4]
        refine ⟨n, rfl, by omega, rfl, rfl, ?_⟩
        show bytesR p lo n (num lo n M : Int) = _
        have hsb := scB_iff.1 c4
        unfold bytesR
        rw [if_neg (by rw [c4]; simp), if_pos (by rcases hn with rfl | rfl <;> omega), Int.toNat_natCast, unit_num lo n hn M (by omega)]
      · rw [if_neg c4] at he; cases he
end Go.Proofs.Ytkfcciacoplgmaa.Wd
