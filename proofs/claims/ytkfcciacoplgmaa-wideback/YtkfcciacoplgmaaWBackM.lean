/- WideBack: walks. -/
import Derived.Test.YtkfcciacoplgmaaWBack1
import Derived.Deep.RegionHeld3
import Derived.BigQuiet
namespace Go.Proofs.Ytkfcciacoplgmaa.Wd
open Go.ChangeShapes Go.WideShapes Go.ChangeAt Go.RowKit Go.Proofs.Ytkfcciacoplgmaa.Mem Go.Proofs.Ytkfcciacoplgmaa.Ucs
set_option linter.unusedVariables false
set_option linter.unusedSimpArgs false

theorem heldM1 {wa wx : World} {ra : Int} {N hb bs cap : Nat} {ao : Option Addr} {L : List UInt8} (hN : N ≤ L.length) (h1 : wa.heap[hb]? = some (.cells #[.int .i64 0, .int .i64 (N : Int), .int .i64 1, .int .i32 ra, .int .i32 0, .int .i64 1, .int .i64 0, .int .u32 0, .int .i32 0] 28 (0, 0))) (h2 : wa.heap[bs]? = some (.cells #[.int .i64 1, .int .i64 0, .int .u32 0, .int .i32 0] 24 (0, 0))) (h3 : Bytes wa ao L) (hg : wa.grownBy wx none) :
    wx.cell? ⟨hb, 0, none⟩ = some (.int .i64 0) ∧ wx.cell? ⟨hb, 1, none⟩ = some (.int .i64 (N : Int)) ∧ wx.cell? ⟨hb, 3, none⟩ = some (.int .i32 ra) ∧ wx.cell? ⟨bs, 0, none⟩ = some (.int .i64 1) ∧ wx.cell? ⟨bs, 1, none⟩ = some (.int .i64 0) ∧ wx.cell? ⟨bs, 2, none⟩ = some (.int .u32 0) ∧ wx.cell? ⟨bs, 3, none⟩ = some (.int .i32 0) ∧ (convert 25 9 (.slice ao N cap)).run Try.prog wx = .ok (.string (str (L.take N))) wx := by
  have g1 := blk_kept h1 hg
  have g2 := blk_kept h2 hg
  have h4 := conv (P := Try.prog) ((h3.kept0 hg).take N) 25 9 cap Try.underlying25 Try.underlying5 Try.underlying9
  rw [List.length_take, Nat.min_eq_left hN] at h4
  exact ⟨cell_at g1 0 rfl, cell_at g1 1 rfl, cell_at g1 3 rfl, cell_at g2 0 rfl, cell_at g2 1 rfl, cell_at g2 2 rfl, cell_at g2 3 rfl, h4⟩

theorem heldM2 {wa wx : World} {ra : Int} {N hb bs cap : Nat} {ao : Option Addr} {L : List UInt8} (hN : N ≤ L.length) (h1 : wa.heap[hb]? = some (.cells #[.int .i64 0, .int .i64 (N : Int), .int .i64 1, .int .i32 ra, .int .i32 0, .int .i64 2, .int .i64 0, .int .u32 0, .int .i32 0] 28 (0, 0))) (h2 : wa.heap[bs]? = some (.cells #[.int .i64 2, .int .i64 0, .int .u32 0, .int .i32 0] 24 (0, 0))) (h3 : Bytes wa ao L) (hg : wa.grownBy wx none) :
    wx.cell? ⟨hb, 0, none⟩ = some (.int .i64 0) ∧ wx.cell? ⟨hb, 1, none⟩ = some (.int .i64 (N : Int)) ∧ wx.cell? ⟨hb, 3, none⟩ = some (.int .i32 ra) ∧ wx.cell? ⟨bs, 0, none⟩ = some (.int .i64 2) ∧ wx.cell? ⟨bs, 1, none⟩ = some (.int .i64 0) ∧ wx.cell? ⟨bs, 2, none⟩ = some (.int .u32 0) ∧ wx.cell? ⟨bs, 3, none⟩ = some (.int .i32 0) ∧ (convert 25 9 (.slice ao N cap)).run Try.prog wx = .ok (.string (str (L.take N))) wx := by
  have g1 := blk_kept h1 hg
  have g2 := blk_kept h2 hg
  have h4 := conv (P := Try.prog) ((h3.kept0 hg).take N) 25 9 cap Try.underlying25 Try.underlying5 Try.underlying9
  rw [List.length_take, Nat.min_eq_left hN] at h4
  exact ⟨cell_at g1 0 rfl, cell_at g1 1 rfl, cell_at g1 3 rfl, cell_at g2 0 rfl, cell_at g2 1 rfl, cell_at g2 2 rfl, cell_at g2 3 rfl, h4⟩
end Go.Proofs.Ytkfcciacoplgmaa.Wd
