/- The statements' 'works': a walk. -/
import Derived.Test.YtdeohnnepifjaaaFind
namespace Go.Proofs.Ytdeohnnepifjaaa.Rn
open Go.ChangeShapes Go.WideShapes Go.ChangeAt Go.RowKit Go.Proofs.Ytdeohnnepifjaaa.Mem Go.Proofs.Ytdeohnnepifjaaa.Ucs Go.Proofs.Ytdeohnnepifjaaa.El
set_option linter.unusedVariables false
set_option linter.unusedSimpArgs false

def wp3 : List Pr := [(1, 97), (2, 98), (4, 99)]
def wt2 : List Rg := [(1, 2, 97), (4, 4, 99)]
theorem wk1 : Hid (rightE wp3 = 0) := (by decide : rightE wp3 = 0)
theorem wk2 : Hid (packR wp3 = wt2) := (by decide : packR wp3 = wt2)
theorem wk3 : Hid (okFrom (-1) wt2 = true) := (by decide : okFrom (-1) wt2 = true)
theorem wk4 : Hid (scalR wt2 2 = some 98) := (by decide : scalR wt2 2 = some 98)
theorem wk5 : Hid (codeR wt2 99 = some 4) := (by decide : codeR wt2 99 = some 4)
theorem wk6 : Hid (checkR [(2, 1, 0)] = 3) := (by decide : checkR [(2, 1, 0)] = 3)

set_option maxRecDepth 100000 in
set_option maxHeartbeats 2000000 in
theorem works_any (w : World) : Calls Try.prog 20 #[] w fun e w' => e = .returned (.bool true) ∧ w.grownBy w' none := by
  have hp : Hid (PE.Rd (w.alloc (.cells #[.int .i64 1, .int .i32 97, .int .i64 2, .int .i32 98, .int .i64 4, .int .i32 99] 41)) (some ⟨w.heap.size, 0, none⟩) wp3) := rd_new w _ _ _ rfl
  go_enter Try.func20, Try.ntmps20
  go_wp2_with (first | (go_at_call 8; refine (pack_any _ 3 wp3 _ hp.out (by decide) (by decide) 0 wk1 wt2 wk2).mono ?_; rintro e w1 ⟨ro, rc, rfl, ho, hg1⟩; have hr := Hid.mk' ho.rd; have hcl := ho.cap_le; have hcm := ho.cap_max; clear ho) | (go_at_call 16; refine (scalar_of _ _ wt2 2 _ hr.out hcl hcm (by decide) wk3 (some 98) wk4).mono ?_; rintro e w2 ⟨rfl, hg2⟩) | (go_at_call 18; refine (code_of _ _ wt2 99 _ (hr.out.kept0 hg2) hcl hcm (by decide) wk3 (some 4) wk5).mono ?_; rintro e w3 ⟨rfl, hg3⟩) | (go_at_call 13; refine (check_any _ 1 [(2, 1, 0)] _ (new_range _ 2 1 0) (by decide) (by decide) 3 wk6).mono ?_; rintro e w4 ⟨rfl, hg4⟩))
  go_ret
  refine ⟨rfl, ?_⟩
  (repeat (first | with_reducible exact grownBy_refl _ _ | (with_reducible refine gs ?_ ?_; first | omega | (simp; omega)) | with_reducible refine ga ?_ | with_reducible refine gd ?_ | with_reducible refine gdn ?_ | with_reducible refine gt ?_ (by assumption)))
end Go.Proofs.Ytdeohnnepifjaaa.Rn
