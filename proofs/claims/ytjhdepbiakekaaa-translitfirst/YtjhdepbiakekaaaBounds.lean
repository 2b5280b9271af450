/- What a byte of a unit may be, by the ones ahead of it: the document's, and that it is the program's. -/
import Derived.Test.YtjhdepbiakekaaaMath
import Derived.WalkKit
import Derived.ProofKit
import Derived.WalkSpells
import Derived.WalkLawsBesides
namespace Go.Proofs.Ytjhdepbiakekaaa.U8
open Go.ChangeShapes Go.WideShapes Go.ChangeAt Go.RowKit Go.Proofs.Ytjhdepbiakekaaa.Mem Go.Proofs.Ytjhdepbiakekaaa.Ucs
set_option linter.unusedVariables false

/-- By n bytes ahead of it, the first of which is c. -/
def bnd (n c : Nat) : Nat × Nat :=
  if (if 240 ≤ c then 4 else if 224 ≤ c then 3 else if 194 ≤ c then 2 else 1) ≤ n then (0, 0)
  else if n = 1 then (if c = 224 then (160, 191) else if c = 237 then (128, 159) else if c = 240 then (144, 191) else if c = 244 then (128, 143) else (128, 191))
  else (128, 191)

theorem bounds_nil (ao : Option Addr) (cap : Nat) (w : World) : Calls Try.prog 27 #[.slice ao 0 cap] w fun e w' => e = .returned (.tuple #[.int .u8 0, .int .u8 244]) ∧ w' = w := by
  go_enter Try.func27, Try.ntmps27
  go_wp2
  go_ret2
  exact ⟨rfl, rfl⟩
theorem ret_bb {a b c d : Int} (h : a = c) (g : b = d) : Ending.returned (.tuple #[.int .u8 a, .int .u8 b]) = .returned (.tuple #[.int .u8 c, .int .u8 d]) := by rw [h, g]
set_option maxRecDepth 100000 in
set_option maxHeartbeats 4000000 in
theorem bounds_any (b o n cap c : Nat) (w : World) (hn : 1 ≤ n) (hn4 : n ≤ 4) (x0 : w.cell? ⟨b, o, none⟩ = some (.int .u8 (c : Int))) (hc : c < 256) :
    Calls Try.prog 27 #[.slice (some ⟨b, o, none⟩) n cap] w fun e w' => e = .returned (.tuple #[.int .u8 ((bnd n c).1 : Int), .int .u8 ((bnd n c).2 : Int)]) ∧ w' = w := by
  obtain ⟨p, hp⟩ : ∃ p, Hid (bnd n c = p) := ⟨_, rfl⟩
  rw [hp.out]
  have hnn : n = 1 ∨ n = 2 ∨ n = 3 ∨ n = 4 := by omega
  rcases hnn with rfl | rfl | rfl | rfl
  all_goals
    go_enter Try.func27, Try.ntmps27
    go_wp2
    all_goals go_ret2
    all_goals
      refine ⟨?_, rfl⟩
      rw [← hp.out]
      simp only [bnd]
      refine ret_bb ?_ ?_
      all_goals (repeat' split) <;> first | rfl | (simp_all; done) | (exfalso; simp_all; omega) | omega
end Go.Proofs.Ytjhdepbiakekaaa.U8
