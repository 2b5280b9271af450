/- The program's step that gets a scalar: a walk. -/
import Derived.Test.YtjhdepbiakekaaaGot
import Derived.Deep.QuietTactic
import Derived.BigQuiet
namespace Go.Proofs.Ytjhdepbiakekaaa.U8
open Go.ChangeShapes Go.WideShapes Go.ChangeAt Go.RowKit Go.Proofs.Ytjhdepbiakekaaa.Mem Go.Proofs.Ytjhdepbiakekaaa.Ucs
set_option linter.unusedVariables false

abbrev zeroGot : Obj := .cells #[.int .i64 0, .int .i64 0, .int .i64 0, .int .i32 0, .int .i32 0, .int .i64 0, .int .i64 0, .int .u32 0, .int .i32 0] 50

theorem Hid.mk' {p : Prop} (h : p) : Hid p := h
theorem grownBy_sets9 (wx : World) (b : Nat) (v0 v1 v2 v3 v4 v5 v6 v7 v8 : Value) :
    wx.grownBy (((((((((wx.setCell ⟨b, 0, none⟩ v0).setCell ⟨b, 1, none⟩ v1).setCell ⟨b, 2, none⟩ v2).setCell ⟨b, 3, none⟩ v3).setCell ⟨b, 4, none⟩ v4).setCell ⟨b, 5, none⟩ v5).setCell ⟨b, 6, none⟩ v6).setCell ⟨b, 7, none⟩ v7).setCell ⟨b, 8, none⟩ v8) (some b) := by
  have h1 := fun (u : World) (x : Nat) (v : Value) => grownBy_setCell u ⟨b, x, none⟩ v
  exact grownBy_trans (grownBy_trans (grownBy_trans (grownBy_trans (grownBy_trans (grownBy_trans (grownBy_trans (grownBy_trans (h1 _ _ _) (h1 _ _ _)) (h1 _ _ _)) (h1 _ _ _)) (h1 _ _ _)) (h1 _ _ _)) (h1 _ _ _)) (h1 _ _ _)) (h1 _ _ _)
theorem grownBy_drewN (w : World) (n : Nat) : w.grownBy (w.drewN n) none := ⟨rfl, rfl, rfl, Nat.le_refl _, fun _ _ _ => rfl⟩
theorem goOn_end {k n u : Nat} {r : List UInt8} (h : ¬ n < fsize k) : goOn k n u r = .ok (fsize k) u := by cases r <;> simp [goOn, h]
theorem drop_at (L : List UInt8) (n : Nat) (h : n < L.length) : L.drop n = L[n] :: L.drop (n + 1) := List.drop_eq_getElem_cons h

end Go.Proofs.Ytjhdepbiakekaaa.U8
