/- A block as a key of a map, in this program: 81 an array of 21. -/
import Derived.Test.YtcoiddmgcoeocaaMg
import Derived.Test.YtcoiddmgcoeocaaArr
namespace Go.Proofs.Ytcoiddmgcoeocaa.Tr
open Go.ChangeShapes Go.WideShapes Go.ChangeAt Go.RowKit Go.Maps Go.Proofs.Ytcoiddmgcoeocaa.Mem
theorem laidT : laidOutB Try.prog = true := by kernel_rfl
theorem kBlk : Keyed Try.prog 81 := Keyed.of_law (deep_law_laid laidT (m := 2) (by omega) (of_decide_eq_true (show decide (81 < Try.prog.types.size) = true by kernel_rfl)) (by kernel_rfl) (by rw [Try.underlying81]))
theorem cT : Try.prog.cellsOf 81 = 64 := by kernel_rfl
theorem cE : Try.prog.cellsOf 21 = 1 := by kernel_rfl
theorem ktT : Try.prog.keyType 81 = true := by kernel_rfl
theorem szT : decide (0 < Try.prog.types.size) = true := by kernel_rfl
theorem keyBlk (zs : List Int) (hl : zs.length = 64) (hw : ∀ z ∈ zs, (Lit.int .i32 z).wf = true) : keyOf Try.prog 81 (arrV .i32 zs) = some (arrK .i32 zs) :=
  keyOf_arr Try.underlying81 Try.underlying21 cT cE ktT (of_decide_eq_true szT) zs hl hw
theorem infoT : (Try.prog.info? 81).map (·.size) = some 64 := by kernel_rfl
theorem zeroT (w : World) : (zeroValue 81).run Try.prog w = .ok (arrV .i32 (List.replicate 64 0)) w := by kernel_rfl
end Go.Proofs.Ytcoiddmgcoeocaa.Tr
