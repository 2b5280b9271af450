/- The document's Fits, Drain and one of layer 13: walks. -/
import Derived.Test.YtfehmbicolllkaaVC13
namespace Go.Proofs.Ytfehmbicolllkaa.C13
open Go.ChangeShapes Go.WideShapes Go.ChangeAt Go.RowKit Go.Proofs.Ytfehmbicolllkaa.Mem
set_option linter.unusedVariables false
set_option linter.unusedSimpArgs false

/-- A state as a value; whether it is one of windows-1258. -/
abbrev stV (md bi ac he : Int) : Value := .agg #[.int .i64 md, .int .i64 bi, .int .u32 ac, .int .i32 he]
def fitR (md bi ac he : Int) : Bool := decide (md = 0 ∧ bi = 0 ∧ ac = 0) && (decide (he = 0) || hoR he)
/-- The least byte of a number. -/
def onR (u : Int) : Option Nat := if u = 65533 then none else (List.range 256).find? (fun b => decide ((vsR b : Int) = u))

set_option maxRecDepth 100000 in
set_option maxHeartbeats 1000000 in
theorem fits_any (md bi ac he : Int) (w : World) (F : Bool) (hF : Hid (fitR md bi ac he = F)) : Calls Try.prog 18 #[stV md bi ac he] w fun e w' => e = .returned (.bool F) ∧ w.grownBy w' none := by
  obtain ⟨H, hH⟩ : ∃ H, Hid (hoR he = H) := ⟨_, Hid.mk' rfl⟩
  have a1 := Hid.mk' (fun w => holds_any he w H hH)
  have hF2 := hF.out
  rw [fitR, hH.out] at hF2
  clear hF hH
  by_cases h0 : md = 0 ∧ bi = 0 ∧ ac = 0
  · obtain ⟨rfl, rfl, rfl⟩ := h0
    by_cases hh : he = 0
    · subst hh
      simp at hF2
      subst hF2
      go_enter Try.func18, Try.ntmps18
      go_wp2_with (go_at_call 32; refine (a1.out _).mono ?_; rintro e w1 ⟨rfl, hg1⟩)
      go_ret
      exact ⟨rfl, World.grownBy_alloc _ _ _⟩
    · have hh' : (he == 0) = false := by simpa using hh
      simp [hh] at hF2
      subst hF2
      have hhe : (he == he) = true := by simp
      go_enter Try.func18, Try.ntmps18
      go_wp2_with (go_at_call 32; refine (a1.out _).mono ?_; rintro e w1 ⟨rfl, hg1⟩)
      go_ret
      exact ⟨rfl, gt (World.grownBy_alloc _ _ _) hg1⟩
  · have : F = false := by rw [← hF2]; simp [h0]
    subst this
    clear hF2
    have hne : Hid (¬ (md = 0 ∧ bi = 0 ∧ ac = 0)) := Hid.mk' h0
    by_cases h1 : md = 0
    · by_cases h2 : bi = 0
      · have h3 : ¬ ac = 0 := fun e => h0 ⟨h1, h2, e⟩
        have h3' : (ac == 0) = false := by simpa using h3
        subst h1
        subst h2
        clear h0 hne
        go_enter Try.func18, Try.ntmps18
        go_wp2
        go_ret
        exact ⟨rfl, World.grownBy_alloc _ _ _⟩
      · have h2' : (bi == 0) = false := by simpa using h2
        subst h1
        clear h0 hne
        go_enter Try.func18, Try.ntmps18
        go_wp2
        go_ret
        exact ⟨rfl, World.grownBy_alloc _ _ _⟩
    · have h1' : (md == 0) = false := by simpa using h1
      clear h0 hne
      go_enter Try.func18, Try.ntmps18
      go_wp2
      go_ret
      exact ⟨rfl, World.grownBy_alloc _ _ _⟩
end Go.Proofs.Ytfehmbicolllkaa.C13
