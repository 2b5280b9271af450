/- The law's own 'works' and 'kinds': walks. -/
import Derived.Test.YtliaadlanpfjbaaDoorCon12
namespace Go.Proofs.YtliaadlanpfjbaaDoor.C12
open Go.ChangeShapes Go.WideShapes Go.ChangeAt Go.RowKit Go.Proofs.YtliaadlanpfjbaaDoor.Mem Go.Proofs.YtliaadlanpfjbaaDoor.El Go.Proofs.YtliaadlanpfjbaaDoor.Ru
set_option linter.unusedVariables false
set_option linter.unusedSimpArgs false

set_option maxRecDepth 100000 in
set_option maxHeartbeats 1000000 in
theorem works_any {P : World → Prop} (C : Con P) (w : World) (hw : P w) : Calls Tryd.prog 4 #[] w fun e w' => e = .returned (.bool true) ∧ w.grownBy w' none ∧ P w' := by
  have a1 := Hid.mk' (fun w hw => C.scalar 70 (by unfold I64; omega) 5 (by omega) w (some 9) (Hid.mk' (by decide)) hw)
  have a3 := Hid.mk' (fun w hw => C.byte 70 (by unfold I64; omega) 9 (by unfold I32; omega) w (some 5) (Hid.mk' (by decide)) hw)
  have a5 := Hid.mk' (fun w hw => C.has (-1) (by unfold I64; omega) false (Hid.mk' (by decide)) w hw)
  have hq := Hid.mk' hw
  have K := Hid.mk' (fun (a b : World) (h : P a) (g : a.grownBy b none) => C.keep h g)
  clear hw C
  go_enter Tryd.func4, Tryd.ntmps4
  go_wp2_with (first
    | (go_at_call 9; refine (a1.out _ hq.out).mono ?_; rintro e w1 ⟨rfl, hg1⟩; have hq1 := Hid.mk' (K.out _ _ hq.out hg1))
    | (go_at_call 11; refine (a3.out _ hq1.out).mono ?_; rintro e w3 ⟨rfl, hg3⟩; have hq3 := Hid.mk' (K.out _ _ hq1.out hg3))
    | (go_at_call 13; refine (a5.out _ hq3.out).mono ?_; rintro e w5 ⟨rfl, hg5⟩; have hq5 := Hid.mk' (K.out _ _ hq3.out hg5)))
  go_ret
  exact ⟨rfl, gt (gt hg1 hg3) hg5, hq5.out⟩

set_option maxRecDepth 100000 in
set_option maxHeartbeats 1000000 in
theorem kinds_any (w : World) : Calls Tryd.prog 5 #[] w fun e w' => e = .returned (.slice (some ⟨w.heap.size, 0, none⟩) 3 3) ∧ w' = w.alloc (.cells (kinds.map (Value.int .i64)).toArray 3) := by
  go_enter Tryd.func5, Tryd.ntmps5
  go_wp2
  go_ret
  exact ⟨rfl, rfl⟩
