/- The document's Has, Scalar, Byte: walks. -/
import Derived.Test.YtliaadlanpfjbaaAt12
namespace Go.Proofs.Ytliaadlanpfjbaa.C12
open Go.ChangeShapes Go.WideShapes Go.ChangeAt Go.RowKit Go.Proofs.Ytliaadlanpfjbaa.Mem
set_option linter.unusedVariables false
set_option linter.unusedSimpArgs false

theorem dig4_nil {l : List Nat} (h : dig4 l = []) : l = [] := by
  have := dig4_len l
  rw [h] at this
  exact List.length_eq_zero_iff.1 (by simp at this; omega)
set_option maxRecDepth 100000 in
set_option maxHeartbeats 1000000 in
theorem has_any (k : Int) (H : Bool) (hH : Hid (decide (k ∈ kinds) = H)) (w : World) : Calls Try.prog 13 #[.int .i64 k] w fun e w' => e = .returned (.bool H) ∧ w' = w := by
  have hl : Hid (∀ w : World, Calls Try.prog 21 #[.int .i64 k] w fun e w' => (∃ s : ByteArray, e = .returned (.string s) ∧ s.toList.isEmpty = !H) ∧ w' = w) := Hid.mk' (fun w => (list_any k w).mono (by
    rintro e w' ⟨⟨s, rfl, hs⟩, rfl⟩
    refine ⟨⟨s, rfl, ?_⟩, rfl⟩
    have e1 : s.toList = s.data.toList := ByteArray.toList_eq s
    rw [e1, hs]
    by_cases hk : k ∈ kinds
    · have h1 : H = true := by rw [← hH.out]; exact decide_eq_true hk
      have h2 : dig4 (tab k) ≠ [] := fun e => by
        have h3 := dig4_nil e
        have h4 := tab_len hk
        rw [h3] at h4
        simp at h4
      rw [h1]
      cases hd : dig4 (tab k) with
      | nil => exact absurd hd h2
      | cons x l => rfl
    · have h1 : H = false := by rw [← hH.out]; exact decide_eq_false hk
      rw [tab_none hk, h1]
      rfl))
  clear hH
  cases H
  · simp only [Bool.not_false] at hl
    go_enter Try.func13, Try.ntmps13
    go_wp2_with (go_at_call 21; refine (hl.out _).mono ?_; rintro e w1 ⟨⟨s, rfl, he⟩, rfl⟩)
    go_ret
    exact ⟨rfl, rfl⟩
  · simp only [Bool.not_true] at hl
    go_enter Try.func13, Try.ntmps13
    go_wp2_with (go_at_call 21; refine (hl.out _).mono ?_; rintro e w1 ⟨⟨s, rfl, he⟩, rfl⟩)
    go_ret
    exact ⟨rfl, rfl⟩
/-- The scalar of a byte; the byte of a number. -/
def scI (k : Int) (b : Nat) : Option Nat := if k ∈ kinds then (if atR k b = 65533 then none else some (atR k b)) else none
def byI (k : Int) (u : Int) : Option Nat := if k ∈ kinds then (if u = 65533 then none else (List.range 256).find? (fun b => (atR k b : Int) == u)) else none
set_option maxRecDepth 100000 in
set_option maxHeartbeats 1000000 in
theorem refScalar_any (k : Int) (b : Nat) (hb : b < 256) (w : World) (R : Option Nat) (hR : Hid (scI k b = R)) : Calls Try.prog 9 #[.int .i64 k, .int .u8 (b : Int)] w fun e w' => e = .returned (.tuple #[.int .i32 ((R.getD 0 : Nat) : Int), .bool R.isSome]) ∧ w.grownBy w' none := by
  have hb' : (b : Int) < 256 := by omega
  by_cases hk : k ∈ kinds
  · have hH := Hid.mk' (has_any k true (Hid.mk' (decide_eq_true hk)))
    have hA := Hid.mk' (fun w => at_any k hk b hb w)
    obtain ⟨n, hn⟩ : ∃ n, Hid (atR k b = n) := ⟨_, Hid.mk' rfl⟩
    rw [hn.out] at hA
    have hR2 : Hid ((if n = 65533 then none else some n) = R) := Hid.mk' (by rw [← hR.out, scI, if_pos hk, hn.out])
    clear hR hk hb
    by_cases h9 : n = 65533
    · have : R = none := by rw [← hR2.out, if_pos h9]
      subst this
      subst h9
      go_enter Try.func9, Try.ntmps9
      go_wp2_with (first
        | (go_at_call 13; refine (hH.out _).mono ?_; rintro e w1 ⟨rfl, rfl⟩)
        | (go_at_call 20; refine (hA.out _).mono ?_; rintro e w2 ⟨rfl, hg2⟩))
      go_ret2
      exact ⟨rfl, hg2⟩
    · have : R = some n := by rw [← hR2.out, if_neg h9]
      subst this
      have h9' : ((n : Int) == 65533) = false := by simp; omega
      have h9'' : ¬ (n : Int) = 65533 := by omega
      go_enter Try.func9, Try.ntmps9
      go_upto_region 3 with (first
        | (go_at_call 13; refine (hH.out _).mono ?_; rintro e w1 ⟨rfl, rfl⟩)
        | (go_at_call 20; refine (hA.out _).mono ?_; rintro e w2 ⟨rfl, hg2⟩))
      go_wp2_with (go_at_call 20; refine (hA.out _).mono ?_; rintro e w3 ⟨rfl, hg3⟩)
      go_ret2
      exact ⟨rfl, ⟨hg3.os.trans hg2.os, hg3.tape.trans hg2.tape, hg3.output.trans hg2.output, Nat.le_trans hg2.size hg3.size, fun i hi hn => (hg3.block i (Nat.lt_of_lt_of_le hi hg2.size) hn).trans (hg2.block i hi hn)⟩⟩
  · have hH := Hid.mk' (has_any k false (Hid.mk' (decide_eq_false hk)))
    have : R = none := by rw [← hR.out, scI, if_neg hk]
    subst this
    clear hR hk
    go_enter Try.func9, Try.ntmps9
    go_wp2_with (go_at_call 13; refine (hH.out _).mono ?_; rintro e w1 ⟨rfl, rfl⟩)
    go_ret2
    exact ⟨rfl, ⟨rfl, rfl, rfl, Nat.le_refl _, fun _ _ _ => rfl⟩⟩
theorem gt {a b c : World} {row : Option Nat} (h : a.grownBy b row) (k : b.grownBy c row) : a.grownBy c row := ⟨k.os.trans h.os, k.tape.trans h.tape, k.output.trans h.output, Nat.le_trans h.size k.size, fun i hi hn => (k.block i (Nat.lt_of_lt_of_le hi h.size) hn).trans (h.block i hi hn)⟩
theorem find_from (p : Nat → Bool) : ∀ (n i : Nat), i ≤ n → (∀ j, j < i → p j = false) → (List.range n).find? p = (if h : i < n then (if p i = true then some i else (List.range' (i + 1) (n - (i + 1))).find? p) else none) := by
  intro n i hi hb
  have e : List.range n = List.range i ++ List.range' i (n - i) := by
    have h := List.range'_append (s := 0) (m := i) (n := n - i) (step := 1)
    rw [show i + (n - i) = n by omega, Nat.one_mul, Nat.zero_add] at h
    rw [List.range_eq_range', List.range_eq_range']
    exact h.symm
  rw [e, List.find?_append, List.find?_eq_none.2 (fun x hx => by rw [hb x (List.mem_range.1 hx)]; simp), Option.none_or]
  split
  · rename_i h
    rw [show n - i = (n - (i + 1)) + 1 by omega, List.range'_succ, List.find?_cons]
    cases hp : p i <;> simp
  · rename_i h
    rw [show n - i = 0 by omega]
    rfl
set_option maxRecDepth 100000 in
set_option maxHeartbeats 1000000 in
theorem refByte_any (k : Int) (u : Int) (w : World) (R : Option Nat) (hR : Hid (byI k u = R)) : Calls Try.prog 11 #[.int .i64 k, .int .i32 u] w fun e w' => e = .returned (.tuple #[.int .u8 ((R.getD 0 : Nat) : Int), .bool R.isSome]) ∧ w.grownBy w' none := by
  by_cases hk : k ∈ kinds
  · have hH := Hid.mk' (has_any k true (Hid.mk' (decide_eq_true hk)))
    have hA := Hid.mk' (fun b hb w => at_any k hk b hb w)
    have hR2 : Hid ((if u = 65533 then none else (List.range 256).find? (fun b => (atR k b : Int) == u)) = R) := Hid.mk' (by rw [← hR.out, byI, if_pos hk])
    clear hR hk
    by_cases h9 : u = 65533
    · have : R = none := by rw [← hR2.out, if_pos h9]
      subst this
      subst h9
      go_enter Try.func11, Try.ntmps11
      go_wp2_with (go_at_call 13; refine (hH.out _).mono ?_; rintro e w1 ⟨rfl, rfl⟩)
      go_ret2
      exact ⟨rfl, ⟨rfl, rfl, rfl, Nat.le_refl _, fun _ _ _ => rfl⟩⟩
    · have hR3 : Hid ((List.range 256).find? (fun b => (atR k b : Int) == u) = R) := Hid.mk' (by rw [← hR2.out, if_neg h9])
      have h9' : (u == 65533) = false := by simpa using h9
      clear hR2
      go_enter Try.func11, Try.ntmps11
      go_wp2_with (go_at_call 13; refine (hH.out _).mono ?_; rintro e w1 ⟨rfl, rfl⟩)
      go_loopw [6] (fun t6 wx => ∃ (i : Nat), i ≤ 256 ∧ t6 = .int .i64 (i : Int) ∧ Hid (∀ j, j < i → ((atR k j : Int) == u) = false) ∧ Hid (w1.grownBy wx none)) (fun t6 _ => 256 - (intOf t6).toNat)
      case atStart => exact ⟨0, by omega, rfl, Hid.mk' (by omega), Hid.mk' ⟨rfl, rfl, rfl, Nat.le_refl _, fun _ _ _ => rfl⟩⟩
      case round =>
        obtain ⟨i, hi, rfl, hb, hG⟩ := hrel
        have hF := Hid.mk' (find_from (fun b => (atR k b : Int) == u) 256 i hi hb.out)
        by_cases hlt : i < 256
        · have hlt' : (i : Int) < 256 := by omega
          obtain ⟨n, hn⟩ : ∃ n, Hid (atR k i = n) := ⟨_, Hid.mk' rfl⟩
          have hAi := Hid.mk' (hA.out i hlt)
          rw [hn.out] at hAi
          by_cases hu : (n : Int) = u
          · have hRs : Hid (R = some i) := Hid.mk' (by rw [← hR3.out, hF.out, dif_pos hlt, hn.out, if_pos (by simpa using hu)])
            have := hRs.out
            subst this
            subst hu
            go_wp2_with (go_at_call 20; refine (hAi.out _).mono ?_; rintro e w2 ⟨rfl, hg2⟩)
            go_ret2
            exact ⟨rfl, gt hG.out hg2⟩
          · have hu' : ((n : Int) == u) = false := by simpa using hu
            go_wp2_with (go_at_call 20; refine (hAi.out _).mono ?_; rintro e w2 ⟨rfl, hg2⟩)
            go_roundw
            case rel => exact ⟨i + 1, by omega, by go_num, Hid.mk' (fun j hj => by
              by_cases e : j = i
              · subst e; rw [hn.out]; exact hu'
              · exact hb.out j (by omega)), Hid.mk' (gt hG.out hg2)⟩
            case measure => simp [intOf]; omega
        · obtain rfl : i = 256 := by omega
          have hRs : Hid (R = none) := Hid.mk' (by rw [← hR3.out, hF.out]; rfl)
          have := hRs.out
          subst this
          go_wp2_with fail
          go_ret2
          exact ⟨rfl, hG.out⟩
  · have hH := Hid.mk' (has_any k false (Hid.mk' (decide_eq_false hk)))
    have : R = none := by rw [← hR.out, byI, if_neg hk]
    subst this
    clear hR hk
    go_enter Try.func11, Try.ntmps11
    go_wp2_with (go_at_call 13; refine (hH.out _).mono ?_; rintro e w1 ⟨rfl, rfl⟩)
    go_ret2
    exact ⟨rfl, ⟨rfl, rfl, rfl, Nat.le_refl _, fun _ _ _ => rfl⟩⟩
end Go.Proofs.Ytliaadlanpfjbaa.C12
