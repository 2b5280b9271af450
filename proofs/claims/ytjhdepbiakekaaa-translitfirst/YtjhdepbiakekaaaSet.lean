/- The program's step that puts out a scalar: a walk. -/
import Derived.Test.YtjhdepbiakekaaaLeads
import Derived.Test.YtjhdepbiakekaaaUnit
import Derived.Deep.RegionHeld3
namespace Go.Proofs.Ytjhdepbiakekaaa.U8
open Go.ChangeShapes Go.WideShapes Go.ChangeAt Go.RowKit Go.Proofs.Ytjhdepbiakekaaa.Mem Go.Proofs.Ytjhdepbiakekaaa.Ucs
set_option linter.unusedVariables false

abbrev zeroPut : Obj := .cells #[.int .i64 0, .string ⟨#[]⟩, .int .i64 0, .int .i64 0, .int .u32 0, .int .i32 0] 47
theorem mk1 (w : World) : (Instr.makeSlice 35 (.int .i64 1) (.int .i64 1)).run Try.prog w = .ok (.slice (some ⟨w.heap.size, 0, none⟩) 1 1) (w.alloc (.cells #[.int .u8 0] 5)) := by kernel_rfl
theorem mk2 (w : World) : (Instr.makeSlice 35 (.int .i64 2) (.int .i64 2)).run Try.prog w = .ok (.slice (some ⟨w.heap.size, 0, none⟩) 2 2) (w.alloc (.cells #[.int .u8 0, .int .u8 0] 5)) := by kernel_rfl
theorem mk3 (w : World) : (Instr.makeSlice 35 (.int .i64 3) (.int .i64 3)).run Try.prog w = .ok (.slice (some ⟨w.heap.size, 0, none⟩) 3 3) (w.alloc (.cells #[.int .u8 0, .int .u8 0, .int .u8 0] 5)) := by kernel_rfl
theorem mk4 (w : World) : (Instr.makeSlice 35 (.int .i64 4) (.int .i64 4)).run Try.prog w = .ok (.slice (some ⟨w.heap.size, 0, none⟩) 4 4) (w.alloc (.cells #[.int .u8 0, .int .u8 0, .int .u8 0, .int .u8 0] 5)) := by kernel_rfl

theorem or_tl (v : Nat) : bits .or .u8 128 (bits .andNot .u8 ((v : Int) % 256) 192) = ((tl v).toNat : Int) := by
  have h : bits .or .u8 128 (bits .andNot .u8 ((v % 256 : Nat) : Int) 192) = ((128 + (v % 256) % 64 : Nat) : Int) := (show ∀ b : Fin 256, bits .or .u8 128 (bits .andNot .u8 ((b : Nat) : Int) 192) = ((128 + (b : Nat) % 64 : Nat) : Int) by decide +kernel) ⟨v % 256, Nat.mod_lt _ (by omega)⟩
  have e : ((v : Int) % 256) = ((v % 256 : Nat) : Int) := by omega
  rw [e, h]
  have : (tl v).toNat = 128 + v % 64 := by
    unfold tl
    rw [UInt8.toNat_ofNat']
    have := Nat.mod_lt v (show 0 < 64 by omega)
    omega
  rw [this]
  omega
theorem or_lead (k v : Nat) (hk : k < 4) (hv : v < 128 / 2 ^ k) (hv' : k ≠ 0 → v < 64 / 2 ^ k) : bits .or .u8 (fmark k : Int) ((v : Int) % 256) = ((UInt8.ofNat (fmark k + v)).toNat : Int) := by
  have h := (show ∀ (k : Fin 4) (b : Fin 128), (b : Nat) < 128 / 2 ^ (k : Nat) → ((k : Nat) ≠ 0 → (b : Nat) < 64 / 2 ^ (k : Nat)) → bits .or .u8 (fmark k : Int) (((b : Nat) : Int) % 256) = ((UInt8.ofNat (fmark k + (b : Nat))).toNat : Int) by decide +kernel) ⟨k, hk⟩ ⟨v, by
    have : 128 / 2 ^ k ≤ 128 := Nat.div_le_self _ _
    omega⟩ hv hv'
  exact h

theorem grownBy_sets6 (wx : World) (b : Nat) (v0 v1 v2 v3 v4 v5 : Value) :
    wx.grownBy ((((((wx.setCell ⟨b, 0, none⟩ v0).setCell ⟨b, 1, none⟩ v1).setCell ⟨b, 2, none⟩ v2).setCell ⟨b, 3, none⟩ v3).setCell ⟨b, 4, none⟩ v4).setCell ⟨b, 5, none⟩ v5) (some b) := by
  have h1 := fun (u : World) (x : Nat) (v : Value) => grownBy_setCell u ⟨b, x, none⟩ v
  exact grownBy_trans (grownBy_trans (grownBy_trans (grownBy_trans (grownBy_trans (h1 _ _ _) (h1 _ _ _)) (h1 _ _ _)) (h1 _ _ _)) (h1 _ _ _)) (h1 _ _ _)
theorem i32_div (v : Nat) : Value.int .i32 ((v : Int) / 64) = .int .i32 ((v / 64 : Nat) : Int) := by
  have h : (v : Int) / 64 = ((v / 64 : Nat) : Int) := by omega
  rw [h]
theorem div_64 (u j : Nat) : u / 64 ^ j / 64 = u / 64 ^ (j + 1) := by rw [Nat.div_div_eq_div_mul, Nat.pow_succ]
theorem Hid.mk'' {p : Prop} (h : p) : Hid p := h

end Go.Proofs.Ytjhdepbiakekaaa.U8
