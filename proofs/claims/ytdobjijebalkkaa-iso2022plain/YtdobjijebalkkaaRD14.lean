/- The document's Place: a walk. -/
import Derived.Test.YtdobjijebalkkaaRB14
namespace Go.Proofs.Ytdobjijebalkkaa.C14
open Go.ChangeShapes Go.WideShapes Go.ChangeAt Go.RowKit Go.Proofs.Ytdobjijebalkkaa.Mem
set_option linter.unusedVariables false
set_option linter.unusedSimpArgs false

/-- Does the cell number p (by rows, then by cells) stand for u? The first such cell; its row and cell. -/
def hit (u : Int) (p : Nat) : Bool := decide ((scP ((p / 94 : Nat) + 1) ((p % 94 : Nat) + 1)).map (fun n : Nat => (n : Int)) = some u)
def plP (u : Int) : Option Nat := (List.range 8836).find? (hit u)
def plT (u : Int) : Nat × Nat × Bool := match plP u with | some p => (p / 94 + 1, p % 94 + 1, true) | none => (0, 0, false)
theorem find_first (f : Nat → Bool) (n i : Nat) (hi : i < n) (h1 : f i = true) (h0 : ∀ j, j < i → f j = false) : (List.range n).find? f = some i := by
  rw [List.find?_range_eq_some]
  exact ⟨h1, by simpa using hi, fun j hj => by rw [h0 j hj]; rfl⟩
theorem find_none (f : Nat → Bool) (n : Nat) (h0 : ∀ j, j < n → f j = false) : (List.range n).find? f = none := by
  rw [List.find?_range_eq_none]
  exact fun j hj => by rw [h0 j hj]; rfl
theorem scP_small {k c : Int} {n : Nat} (h : scP k c = some n) : n ≤ 65535 ∧ n ≠ 65533 ∧ k ∈ kinds ∧ 1 ≤ c ∧ c ≤ 94 ∧ cellR k (c - 1).toNat = n := by
  unfold scP at h
  split at h
  · rename_i hc
    split at h
    · cases h
    · rename_i h9
      have e := Option.some.inj h
      refine ⟨?_, by rw [← e]; exact h9, hc.1, hc.2.1, hc.2.2, e⟩
      rw [← e, cellR, List.getD_eq_getElem?_getD]
      cases hg : (tab k)[(c - 1).toNat]? with
      | none => simp
      | some x => exact tab_small x (List.mem_of_getElem? hg)
  · cases h
theorem hit_iff {u : Int} {p : Nat} : hit u p = true ↔ ∃ n : Nat, scP ((p / 94 : Nat) + 1) ((p % 94 : Nat) + 1) = some n ∧ (n : Int) = u := by
  unfold hit
  rw [decide_eq_true_eq]
  constructor
  · intro h
    cases e : scP ((p / 94 : Nat) + 1) ((p % 94 : Nat) + 1) with
    | none => rw [e] at h; cases h
    | some n => rw [e] at h; exact ⟨n, rfl, Option.some.inj h⟩
  · rintro ⟨n, e, rfl⟩
    rw [e]
    rfl
theorem hit_odd {u : Int} (h : u = 65533 ∨ u < 0 ∨ 65535 < u) (p : Nat) : hit u p = false := by
  cases e : hit u p
  · rfl
  · obtain ⟨n, h1, h2⟩ := hit_iff.1 e
    obtain ⟨a, b, _⟩ := scP_small h1
    omega
theorem plT_none {u : Int} (h : ∀ p, p < 8836 → hit u p = false) : plT u = (0, 0, false) := by
  unfold plT plP
  rw [find_none _ _ h]
theorem plT_at {u : Int} {r c : Nat} (hr : r < 94) (hc : c < 94) (h1 : hit u (94 * r + c) = true) (h0 : ∀ p, p < 94 * r + c → hit u p = false) : plT u = (r + 1, c + 1, true) := by
  unfold plT plP
  rw [find_first _ _ (94 * r + c) (by omega) h1 h0]
  simp only [Prod.mk.injEq, and_true]
  constructor <;> omega
theorem hit_at {u : Int} {r c : Nat} (hc : c < 94) : hit u (94 * r + c) = decide ((scP ((r : Int) + 1) ((c : Int) + 1)).map (fun n : Nat => (n : Int)) = some u) := by
  unfold hit
  rw [show (94 * r + c) / 94 = r by omega, show (94 * r + c) % 94 = c by omega]
set_option maxRecDepth 100000 in
set_option maxHeartbeats 1000000 in
theorem refPlace_any (u : Int) (w : World) (A B : Nat) (ok : Bool) (hP : Hid (plT u = (A, B, ok))) : Calls Try.prog 32 #[.int .i32 u] w fun e w' => e = .returned (.tuple #[.int .i64 (A : Int), .int .i64 (B : Int), .bool ok]) ∧ w.grownBy w' none := by
  by_cases h9 : u = 65533
  · have e := hP.out
    rw [plT_none (fun p _ => hit_odd (.inl h9) p)] at e
    simp only [Prod.mk.injEq] at e
    obtain ⟨rfl, rfl, rfl⟩ := e
    subst h9
    clear hP
    go_enter Try.func32, Try.ntmps32
    go_wp2
    go_ret3
    exact ⟨rfl, ⟨rfl, rfl, rfl, Nat.le_refl _, fun _ _ _ => rfl⟩⟩
  · have h9' : (u == 65533) = false := by simpa using h9
    by_cases h0 : u < 0
    · have e := hP.out
      rw [plT_none (fun p _ => hit_odd (.inr (.inl h0)) p)] at e
      simp only [Prod.mk.injEq] at e
      obtain ⟨rfl, rfl, rfl⟩ := e
      clear hP
      go_enter Try.func32, Try.ntmps32
      go_wp2
      go_ret3
      exact ⟨rfl, ⟨rfl, rfl, rfl, Nat.le_refl _, fun _ _ _ => rfl⟩⟩
    · have h0' : decide (u < 0) = false := decide_eq_false h0
      by_cases h1 : 65535 < u
      · have e := hP.out
        rw [plT_none (fun p _ => hit_odd (.inr (.inr h1)) p)] at e
        simp only [Prod.mk.injEq] at e
        obtain ⟨rfl, rfl, rfl⟩ := e
        clear hP
        go_enter Try.func32, Try.ntmps32
        go_wp2
        go_ret3
        exact ⟨rfl, ⟨rfl, rfl, rfl, Nat.le_refl _, fun _ _ _ => rfl⟩⟩
      · have h1' : decide (65535 < u) = false := decide_eq_false h1
        clear h9
        go_enter Try.func32, Try.ntmps32
        go_wp2
        go_loopw [5] (fun t5 wx => ∃ (r : Nat), r ≤ 94 ∧ t5 = .int .i64 ((r : Int) + 1) ∧ Hid (∀ p, p < 94 * r → hit u p = false) ∧ Hid (w.grownBy wx none)) (fun t5 _ => 95 - (intOf t5).toNat)
        case atStart => exact ⟨0, by omega, rfl, Hid.mk' (by omega), Hid.mk' (grownBy_refl _ _)⟩
        case round =>
          obtain ⟨r, hr, rfl, hb, hG⟩ := hrel
          by_cases hlt : r < 94
          · have hlt' : (r : Int) + 1 ≤ 94 := by omega
            by_cases hk : (r : Int) + 1 ∈ kinds
            · have hl := Hid.mk' (fun w => list_yes hk w)
              clear hk
              go_wp2_with (go_at_call 48; refine (hl.out _).mono ?_; rintro e w1 ⟨⟨s, rfl, hsz, hse, hs0⟩, rfl⟩)
              clear hl hsz hse hs0
              go_loopw [6] (fun t6 wx => ∃ (c : Nat), c ≤ 94 ∧ t6 = .int .i64 ((c : Int) + 1) ∧ Hid (∀ p, p < 94 * r + c → hit u p = false) ∧ Hid (w.grownBy wx none)) (fun t6 _ => 95 - (intOf t6).toNat)
              case atStart => exact ⟨0, by omega, rfl, hb, hG⟩
              case round =>
                obtain ⟨c, hc, rfl, hb2, hG2⟩ := hrel
                by_cases hlc : c < 94
                · have hlc' : (c : Int) + 1 ≤ 94 := by omega
                  have hA := Hid.mk' (hit_at (u := u) (r := r) hlc)
                  obtain ⟨R, hR⟩ : ∃ R, Hid (scP ((r : Int) + 1) ((c : Int) + 1) = R) := ⟨_, Hid.mk' rfl⟩
                  have a1 := Hid.mk' (fun w => refScalar_any ((r : Int) + 1) ((c : Int) + 1) (by unfold I64; omega) w R hR)
                  have hA2 : Hid (hit u (94 * r + c) = decide (R.map (fun n : Nat => (n : Int)) = some u)) := Hid.mk' (by rw [hA.out, hR.out])
                  clear hA hR
                  cases R with
                  | none =>
                    have hn : Hid (hit u (94 * r + c) = false) := Hid.mk' (by rw [hA2.out]; simp)
                    clear hA2
                    go_wp2_with (go_at_call 49; refine (a1.out _).mono ?_; rintro e w2 ⟨rfl, hg2⟩)
                    go_roundw
                    case rel => exact ⟨c + 1, by omega, by go_num, Hid.mk' (fun p hp => by
                      by_cases e : p = 94 * r + c
                      · rw [e]; exact hn.out
                      · exact hb2.out p (by omega)), Hid.mk' (gt hG2.out hg2)⟩
                    all_goals (simp [intOf]; omega)
                  | some n =>
                    by_cases hnu : (n : Int) = u
                    · have hn : Hid (hit u (94 * r + c) = true) := Hid.mk' (by rw [hA2.out, hnu.symm]; simp)
                      have e := hP.out
                      rw [plT_at hlt hlc hn.out hb2.out] at e
                      simp only [Prod.mk.injEq] at e
                      obtain ⟨rfl, rfl, rfl⟩ := e
                      clear hA2 hP hn
                      simp only [Option.getD_some, Option.isSome_some] at a1
                      subst hnu
                      go_wp2_with (go_at_call 49; refine (a1.out _).mono ?_; rintro e w2 ⟨rfl, hg2⟩)
                      go_ret3
                      refine ⟨?_, gt hG2.out hg2⟩
                      simp
                    · have hn : Hid (hit u (94 * r + c) = false) := Hid.mk' (by rw [hA2.out]; simpa using hnu)
                      have hnu' : ((n : Int) == u) = false := by simpa using hnu
                      clear hA2
                      simp only [Option.getD_some, Option.isSome_some] at a1
                      go_wp2_with (go_at_call 49; refine (a1.out _).mono ?_; rintro e w2 ⟨rfl, hg2⟩)
                      go_roundw
                      case rel => exact ⟨c + 1, by omega, by go_num, Hid.mk' (fun p hp => by
                        by_cases e : p = 94 * r + c
                        · rw [e]; exact hn.out
                        · exact hb2.out p (by omega)), Hid.mk' (gt hG2.out hg2)⟩
                      all_goals (simp [intOf]; omega)
                · obtain rfl : c = 94 := by omega
                  go_wp2
                  go_roundw
                  case rel => exact ⟨r + 1, by omega, by go_num, Hid.mk' (fun p hp => hb2.out p (by omega)), hG2⟩
                  all_goals (simp [intOf]; omega)
            · have hl := Hid.mk' (fun w => list_no hk w)
              have hno : Hid (∀ p, 94 * r ≤ p → p < 94 * (r + 1) → hit u p = false) := Hid.mk' (fun p h1 h2 => by
                cases e : hit u p
                · rfl
                · obtain ⟨n, h3, _⟩ := hit_iff.1 e
                  rw [show p / 94 = r by omega] at h3
                  exact absurd (scP_small h3).2.2.1 hk)
              clear hk
              go_wp2_with (go_at_call 48; refine (hl.out _).mono ?_; rintro e w1 ⟨⟨s, rfl, hsz, hse⟩, rfl⟩)
              go_roundw
              case rel => exact ⟨r + 1, by omega, by go_num, Hid.mk' (fun p hp => by
                by_cases e : p < 94 * r
                · exact hb.out p e
                · exact hno.out p (by omega) hp), hG⟩
              all_goals (simp [intOf]; omega)
          · obtain rfl : r = 94 := by omega
            have e := hP.out
            rw [plT_none (fun p hp => hb.out p (by omega))] at e
            simp only [Prod.mk.injEq] at e
            obtain ⟨rfl, rfl, rfl⟩ := e
            clear hP
            go_wp2_with fail
            go_ret3
            exact ⟨rfl, hG.out⟩
theorem place_back {u : Int} {A B : Nat} (h : plT u = (A, B, true)) : 1 ≤ A ∧ A ≤ 94 ∧ 1 ≤ B ∧ B ≤ 94 ∧ 0 ≤ u ∧ scP (A : Int) (B : Int) = some u.toNat := by
  unfold plT at h
  cases e : plP u with
  | none => rw [e] at h; simp at h
  | some p =>
    rw [e] at h
    simp only [Prod.mk.injEq, and_true] at h
    obtain ⟨rfl, rfl⟩ := h
    unfold plP at e
    rw [List.find?_range_eq_some] at e
    obtain ⟨h1, h2, _⟩ := e
    obtain ⟨n, h3, h4⟩ := hit_iff.1 h1
    have h5 : p < 8836 := by simpa using h2
    refine ⟨by omega, by omega, by omega, by omega, by omega, ?_⟩
    have e1 : (((p / 94 + 1 : Nat)) : Int) = ((p / 94 : Nat) : Int) + 1 := by omega
    have e2 : (((p % 94 + 1 : Nat)) : Int) = ((p % 94 : Nat) : Int) + 1 := by omega
    rw [e1, e2, h3, ← h4]
    rfl
/-- The place of a cell's scalar: that cell, or one ahead of it. -/
theorem back_place {r c n : Nat} (hr : r < 94) (hc : c < 94) (h : scP ((r : Int) + 1) ((c : Int) + 1) = some n) : ∃ A B, plT (n : Int) = (A, B, true) ∧ (A < r + 1 ∨ A = r + 1 ∧ B ≤ c + 1) := by
  have h1 : hit (n : Int) (94 * r + c) = true := by rw [hit_at hc, h]; simp
  unfold plT
  cases e : plP (n : Int) with
  | none =>
    unfold plP at e
    rw [List.find?_range_eq_none] at e
    have := e (94 * r + c) (by omega)
    rw [h1] at this
    simp at this
  | some p =>
    have e0 := e
    unfold plP at e0
    rw [List.find?_range_eq_some] at e0
    obtain ⟨_, h2, h3⟩ := e0
    have h4 : p ≤ 94 * r + c := by
      by_cases hlt : 94 * r + c < p
      · have := h3 _ hlt
        rw [h1] at this
        simp at this
      · omega
    refine ⟨p / 94 + 1, p % 94 + 1, rfl, ?_⟩
    omega
end Go.Proofs.Ytdobjijebalkkaa.C14
