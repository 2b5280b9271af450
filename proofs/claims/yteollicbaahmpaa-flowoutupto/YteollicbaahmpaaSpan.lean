/- What bytes.Clone and the count of bytes that both ends embed answer: walks. -/
import Derived.Test.YteollicbaahmpaaRows
import Derived.WalkKit
import Derived.ProofKit
import Derived.OpenShut
import Derived.WalkSpells
import Derived.WalkLawsBesides
import Derived.Deep.RegionHeld3
import Derived.Test.YteollicbaahmpaaMem
namespace Go.Proofs.Yteollicbaahmpaa.Mem
open Go.ChangeShapes Go.WideShapes Go.ChangeAt Go.RowKit
set_option linter.unusedVariables false

theorem info5 : (Try.prog.info? 5).map (fun i => (i.zero, i.size, i.bytes)) = some (some (.int .u8 0), 1, 1) := by kernel_rfl

theorem still_any (b : Nat) (r : Int) (w : World) (h : w.cell? ⟨b, 1, none⟩ = some (.int .i64 r)) :
    Calls Try.prog 21 #[.pointer (some ⟨b, 0, none⟩)] w fun e w' => e = .returned (.int .i64 r) ∧ w' = w := by
  go_enter Try.func21, Try.ntmps21
  go_wp2
  go_ret
  exact ⟨rfl, rfl⟩

theorem past_any (b : Nat) (r : Int) (w : World) (h : w.cell? ⟨b, 0, none⟩ = some (.int .i64 r)) :
    Calls Try.prog 22 #[.pointer (some ⟨b, 0, none⟩)] w fun e w' => e = .returned (.int .i64 r) ∧ w' = w := by
  go_enter Try.func22, Try.ntmps22
  go_wp2
  go_ret
  exact ⟨rfl, rfl⟩

theorem pass_no (b : Nat) (r n : Int) (w : World) (h : w.cell? ⟨b, 1, none⟩ = some (.int .i64 r)) (hn : n < 0 ∨ r < n) :
    Calls Try.prog 23 #[.pointer (some ⟨b, 0, none⟩), .int .i64 n] w fun e w' => e = .returned (.bool false) ∧ w' = w := by
  by_cases h0 : n < 0
  · go_enter Try.func23, Try.ntmps23
    go_wp2
    go_ret
    exact ⟨rfl, rfl⟩
  · have h1 : r < n := by omega
    have h2 : 0 ≤ n := by omega
    go_enter Try.func23, Try.ntmps23
    go_wp2
    go_ret
    exact ⟨rfl, rfl⟩

theorem pass_yes (b : Nat) (g r n : Int) (w : World) (h : w.cell? ⟨b, 0, none⟩ = some (.int .i64 g)) (h' : w.cell? ⟨b, 1, none⟩ = some (.int .i64 r)) (f : w.frozen? ⟨b, 0, none⟩ = false) (f' : w.frozen? ⟨b, 1, none⟩ = false)
    (h0 : 0 ≤ n) (h1 : n ≤ r) (h2 : 0 ≤ g) (h3 : g + r ≤ 9223372036854775807) :
    Calls Try.prog 23 #[.pointer (some ⟨b, 0, none⟩), .int .i64 n] w fun e w' => e = .returned (.bool true) ∧ w' = (w.setCell ⟨b, 0, none⟩ (.int .i64 (g + n))).setCell ⟨b, 1, none⟩ (.int .i64 (r - n)) := by
  go_enter Try.func23, Try.ntmps23
  go_wp2
  go_ret
  exact ⟨rfl, rfl⟩

set_option maxHeartbeats 1000000 in
theorem clone_any (ao : Option Addr) (c : Nat) (L : List UInt8) (w : World) (hB : Bytes w ao L) (hl : L.length ≤ 140737488355328) :
    Calls Try.prog 20 #[.slice ao L.length c] w fun e w' => ∃ ao' c', e = .returned (.slice ao' L.length c') ∧ Own w' ao' c' L ∧ w.grownBy w' none ∧ (∀ g, blk ao' = some g → w.heap.size ≤ g) := by
  have q22 : ∀ (w : World) (a : Option Addr) (n c n' c' : Nat), (binOp .eql 22 (.slice a n c) (.slice none n' c')).run Try.prog w = .ok (.bool a.isNone) w := fun w a n c n' c' => Lib.run_eql_slice_nil w _ _ a n c n' c' Try.underlying22
  obtain ⟨i0, hi, hz0, hz1, hz2⟩ := info_parts info5
  cases ao with
  | none =>
    obtain rfl : L = [] := by
      rcases hB with ⟨_, h⟩ | ⟨a, h, _⟩
      · exact h
      · cases h
    go_enter Try.func20, Try.ntmps20
    go_wp2
    go_ret
    exact ⟨none, 0, rfl, .inl ⟨rfl, rfl, rfl⟩, grownBy_refl _ _, by simp [blk]⟩
  | some a =>
    have A : Hid (Bytes w (some a) L) := hB
    clear hB
    go_enter Try.func20, Try.ntmps20
    go_wp2_with (at_builtin; refine wpList_append_any _ rfl _ _ 22 22 rfl i0 Try.underlying22 hi hz0 hz1 hz2 _ _ [] rfl (own_made w) _ rfl L (src_of (A.out.alloc _) 22 c Try.underlying22) (by simpa using hl) L rfl ?_)
    intro ao' c' w1 hown hg hat
    go_wp2
    go_ret
    refine ⟨ao', c', rfl, hown, ?_, ?_⟩
    · exact grownBy_new (World.grownBy_alloc w _ none) hg (by intro g e; simp [blk] at e; omega)
    · intro g e
      rcases hat with rfl | rfl <;> simp [blk] at e <;> omega
end Go.Proofs.Yteollicbaahmpaa.Mem
