/- What the law's own small trial of ucs answers: true. -/
import Derived.Test.YtdidchcinfbggaaHex
namespace Go.Proofs.Ytdidchcinfbggaa.Ucs
open Go.ChangeShapes Go.WideShapes Go.ChangeAt Go.RowKit

theorem works_any (w : World) : Calls Try.prog 24 #[] w fun e w' => e = .returned (.bool true) ∧ w' = w := by
  have j1 : joinV 55357 56832 = 128512 := by decide
  have j2 : joinB 55357 56832 = true := by decide
  have s1 : scB 55296 = false := by decide
  have s2 : scB 1114111 = true := by decide
  have x1 : hex 65 = ⟨#[85, 43, 48, 48, 52, 49]⟩ := by decide
  go_enter Try.func24, Try.ntmps24
  go_wp2_with (first | (go_at_call 18; refine (join_any _ _ _).mono ?_; rintro e w' ⟨rfl, rfl⟩) | (go_at_call 8; refine (scalar_any _ _).mono ?_; rintro e w' ⟨rfl, rfl⟩) | (go_at_call 16; refine (hex_any _ _).mono ?_; rintro e w' ⟨rfl, rfl⟩))
  go_ret
  exact ⟨rfl, rfl⟩
end Go.Proofs.Ytdidchcinfbggaa.Ucs
