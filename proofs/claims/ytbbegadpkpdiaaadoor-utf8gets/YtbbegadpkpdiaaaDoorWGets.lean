/- Utf8Gets: the walk. -/
import Derived.Test.YtbbegadpkpdiaaaDoorWPasses
import Derived.Test.YtbbegadpkpdiaaaDoorRefGet
namespace Go.Proofs.YtbbegadpkpdiaaaDoor.U8
open Go.ChangeShapes Go.WideShapes Go.ChangeAt Go.RowKit Go.Proofs.YtbbegadpkpdiaaaDoor.Mem Go.Proofs.YtbbegadpkpdiaaaDoor.Ucs
set_option linter.unusedVariables false

theorem refget_at (ao : Option Addr) (n cap : Nat) (L : List UInt8) (w : World) (hB : Bytes w ao L) (hn : L.length = n) (hl : n ≤ 140737488355328) (hc : n ≤ cap) (hcm : cap ≤ 9223372036854775807) (R : Res) (hR : get L = R) :
    Calls Tryd.prog 10 #[.slice ao n cap] w fun e w' => e = .returned (gotV R.err (R.n : Int) R.k (R.a : Int)) ∧ w.grownBy w' none := by
  subst hn; subst hR; exact refget_any ao cap L w hB hl hc hcm

set_option maxRecDepth 100000 in
set_option maxHeartbeats 2000000 in
theorem gets_walk (ao : Option Addr) (cap : Nat) (L : List UInt8) (w : World) (hF : Forms w) (hB : Bytes w ao L) (hc : L.length ≤ cap) (hcm : cap ≤ 140737488351232) :
    Calls Tryd.prog 3 #[.slice ao L.length cap] w fun e w' => e = .returned (.bool true) ∧ Below w.heap.size w w' := by
  obtain ⟨i0, hi, hz0, hz1, hz2⟩ := info_parts info5'
  obtain ⟨R, hR⟩ : ∃ R, Hid (get L = R) := ⟨_, rfl⟩
  have hB0 := Hid.mk' hB
  have hF0 := Hid.mk' hF
  clear hB hF
  go_enter Tryd.func3, Tryd.ntmps3
  go_wp2_with (first | (at_builtin; refine wpList_append_any _ rfl _ _ 22 22 rfl i0 Tryd.underlying22 hi hz0 hz1 hz2 _ _ [] rfl (own_made _) _ rfl L (src_of (hB0.out.alloc _) 22 cap Tryd.underlying22) (by simp; omega) L rfl ?_; intro ao1 c1 w3 ho1 hg3 hat1; have F3 : Hid (Forms w3) := (hF0.out.alloc _).kept hg3 (blk_ne0 hF0.out _ _); have k3 : Hid (w.grownBy w3 none) := grownBy_new (World.grownBy_alloc _ _ _) hg3 (by intro g e; have := Option.some.inj e; simp at *; omega); have B3 := Hid.mk' ho1.bytes; clear ho1) | (go_at_call 9; refine (get_at _ _ _ L _ F3.out B3.out rfl (by omega) R hR.out).mono ?_; rintro e w4 ⟨rfl, hg4⟩; have B4 := Hid.mk' (hB0.out.kept0 (grownBy_trans k3.out hg4))) | (go_at_call 10; refine (refget_at _ _ _ L _ B4.out rfl (by omega) hc (by omega) R hR.out).mono ?_; rintro e w5 ⟨rfl, hg5⟩; have hv1 := conv (P := Tryd.prog) (B4.out.kept0 hg5) 22 9 cap Tryd.underlying22 Tryd.underlying5 Tryd.underlying9; have hv2 := conv (P := Tryd.prog) ((B3.out.kept0 hg4).kept0 hg5) 22 9 c1 Tryd.underlying22 Tryd.underlying5 Tryd.underlying9))
  go_ret
  exact ⟨rfl, (Below.refl _ w).grown (grownBy_trans k3.out (grownBy_trans hg4 hg5)) (Nat.le_refl _) (by simp)⟩
end Go.Proofs.YtbbegadpkpdiaaaDoor.U8
