/- The document's Aliases and Name of layer 23: walks, one for each kind. -/
import Derived.Test.YtljkncgbabiojaaDoorNI23
import Derived.Test.YtljkncgbabiojaaDoorSt
namespace Go.Proofs.YtljkncgbabiojaaDoor.C23
open Go.ChangeShapes Go.WideShapes Go.ChangeAt Go.RowKit Go.Proofs.YtljkncgbabiojaaDoor.Mem Go.Proofs.YtljkncgbabiojaaDoor.El Go.Proofs.YtljkncgbabiojaaDoor.St
set_option linter.unusedVariables false
set_option linter.unusedSimpArgs false

theorem gt {a b c : World} {row : Option Nat} (h : a.grownBy b row) (k : b.grownBy c row) : a.grownBy c row := grownBy_trans h k
set_option maxRecDepth 100000 in
set_option maxHeartbeats 1000000 in
theorem asian_70 (w : World) : Calls Tryd.prog 38 #[.int .i64 70] w fun e w' => STold w [[73, 66, 77, 48, 51, 55], [67, 80, 48, 51, 55], [69, 66, 67, 68, 73, 67, 45, 67, 80, 45, 85, 83]] e w' := by
  go_enter Tryd.func38, Tryd.ntmps38
  go_wp2
  go_ret
  exact told_lit w _ [[73, 66, 77, 48, 51, 55], [67, 80, 48, 51, 55], [69, 66, 67, 68, 73, 67, 45, 67, 80, 45, 85, 83]] _ rfl rfl (by decide)
set_option maxRecDepth 100000 in
set_option maxHeartbeats 1000000 in
theorem asian_71 (w : World) : Calls Tryd.prog 38 #[.int .i64 71] w fun e w' => STold w [[73, 66, 77, 53, 48, 48], [67, 80, 53, 48, 48], [69, 66, 67, 68, 73, 67, 45, 67, 80, 45, 66, 69]] e w' := by
  go_enter Tryd.func38, Tryd.ntmps38
  go_wp2
  go_ret
  exact told_lit w _ [[73, 66, 77, 53, 48, 48], [67, 80, 53, 48, 48], [69, 66, 67, 68, 73, 67, 45, 67, 80, 45, 66, 69]] _ rfl rfl (by decide)
set_option maxRecDepth 100000 in
set_option maxHeartbeats 1000000 in
theorem asian_72 (w : World) : Calls Tryd.prog 38 #[.int .i64 72] w fun e w' => STold w [[73, 66, 77, 49, 48, 50, 54], [67, 80, 49, 48, 50, 54]] e w' := by
  go_enter Tryd.func38, Tryd.ntmps38
  go_wp2
  go_ret
  exact told_lit w _ [[73, 66, 77, 49, 48, 50, 54], [67, 80, 49, 48, 50, 54]] _ rfl rfl (by decide)
set_option maxRecDepth 100000 in
set_option maxHeartbeats 1000000 in
theorem asian_80 (w : World) : Calls Tryd.prog 38 #[.int .i64 80] w fun e w' => STold w [[74, 73, 83, 95, 88, 48, 50, 48, 49], [74, 73, 83, 88, 48, 50, 48, 49, 45, 49, 57, 55, 54], [88, 48, 50, 48, 49]] e w' := by
  go_enter Tryd.func38, Tryd.ntmps38
  go_wp2
  go_ret
  exact told_lit w _ [[74, 73, 83, 95, 88, 48, 50, 48, 49], [74, 73, 83, 88, 48, 50, 48, 49, 45, 49, 57, 55, 54], [88, 48, 50, 48, 49]] _ rfl rfl (by decide)
set_option maxRecDepth 100000 in
set_option maxHeartbeats 1000000 in
theorem asian_81 (w : World) : Calls Tryd.prog 38 #[.int .i64 81] w fun e w' => STold w [[69, 85, 67, 45, 74, 80], [69, 85, 67, 74, 80]] e w' := by
  go_enter Tryd.func38, Tryd.ntmps38
  go_wp2
  go_ret
  exact told_lit w _ [[69, 85, 67, 45, 74, 80], [69, 85, 67, 74, 80]] _ rfl rfl (by decide)
set_option maxRecDepth 100000 in
set_option maxHeartbeats 1000000 in
theorem asian_82 (w : World) : Calls Tryd.prog 38 #[.int .i64 82] w fun e w' => STold w [[83, 72, 73, 70, 84, 95, 74, 73, 83], [83, 72, 73, 70, 84, 45, 74, 73, 83], [83, 74, 73, 83], [77, 83, 95, 75, 65, 78, 74, 73]] e w' := by
  go_enter Tryd.func38, Tryd.ntmps38
  go_wp2
  go_ret
  exact told_lit w _ [[83, 72, 73, 70, 84, 95, 74, 73, 83], [83, 72, 73, 70, 84, 45, 74, 73, 83], [83, 74, 73, 83], [77, 83, 95, 75, 65, 78, 74, 73]] _ rfl rfl (by decide)
set_option maxRecDepth 100000 in
set_option maxHeartbeats 1000000 in
theorem asian_83 (w : World) : Calls Tryd.prog 38 #[.int .i64 83] w fun e w' => STold w [[73, 83, 79, 45, 50, 48, 50, 50, 45, 74, 80]] e w' := by
  go_enter Tryd.func38, Tryd.ntmps38
  go_wp2
  go_ret
  exact told_lit w _ [[73, 83, 79, 45, 50, 48, 50, 50, 45, 74, 80]] _ rfl rfl (by decide)
set_option maxRecDepth 100000 in
set_option maxHeartbeats 1000000 in
theorem asian_84 (w : World) : Calls Tryd.prog 38 #[.int .i64 84] w fun e w' => STold w [[69, 85, 67, 45, 67, 78], [69, 85, 67, 67, 78], [71, 66, 50, 51, 49, 50], [67, 78, 45, 71, 66]] e w' := by
  go_enter Tryd.func38, Tryd.ntmps38
  go_wp2
  go_ret
  exact told_lit w _ [[69, 85, 67, 45, 67, 78], [69, 85, 67, 67, 78], [71, 66, 50, 51, 49, 50], [67, 78, 45, 71, 66]] _ rfl rfl (by decide)
set_option maxRecDepth 100000 in
set_option maxHeartbeats 1000000 in
theorem asian_85 (w : World) : Calls Tryd.prog 38 #[.int .i64 85] w fun e w' => STold w [[72, 90], [72, 90, 45, 71, 66, 45, 50, 51, 49, 50]] e w' := by
  go_enter Tryd.func38, Tryd.ntmps38
  go_wp2
  go_ret
  exact told_lit w _ [[72, 90], [72, 90, 45, 71, 66, 45, 50, 51, 49, 50]] _ rfl rfl (by decide)
set_option maxRecDepth 100000 in
set_option maxHeartbeats 1000000 in
theorem asian_86 (w : World) : Calls Tryd.prog 38 #[.int .i64 86] w fun e w' => STold w [[69, 85, 67, 45, 75, 82], [69, 85, 67, 75, 82]] e w' := by
  go_enter Tryd.func38, Tryd.ntmps38
  go_wp2
  go_ret
  exact told_lit w _ [[69, 85, 67, 45, 75, 82], [69, 85, 67, 75, 82]] _ rfl rfl (by decide)
set_option maxRecDepth 100000 in
set_option maxHeartbeats 1000000 in
theorem asian_87 (w : World) : Calls Tryd.prog 38 #[.int .i64 87] w fun e w' => STold w [[74, 79, 72, 65, 66], [67, 80, 49, 51, 54, 49]] e w' := by
  go_enter Tryd.func38, Tryd.ntmps38
  go_wp2
  go_ret
  exact told_lit w _ [[74, 79, 72, 65, 66], [67, 80, 49, 51, 54, 49]] _ rfl rfl (by decide)
set_option maxRecDepth 100000 in
set_option maxHeartbeats 1000000 in
theorem asian_88 (w : World) : Calls Tryd.prog 38 #[.int .i64 88] w fun e w' => STold w [[73, 83, 79, 45, 50, 48, 50, 50, 45, 75, 82]] e w' := by
  go_enter Tryd.func38, Tryd.ntmps38
  go_wp2
  go_ret
  exact told_lit w _ [[73, 83, 79, 45, 50, 48, 50, 50, 45, 75, 82]] _ rfl rfl (by decide)
set_option maxRecDepth 100000 in
set_option maxHeartbeats 1000000 in
theorem asian_no (k : Int) (h : ∀ n ∈ kdT, ¬ k = (n : Int)) (w : World) : Calls Tryd.prog 38 #[.int .i64 k] w fun e w' => STold w [] e w' := by
  have b70 : (k == 70) = false := by simpa using h 70 (by decide)
  have b71 : (k == 71) = false := by simpa using h 71 (by decide)
  have b72 : (k == 72) = false := by simpa using h 72 (by decide)
  have b80 : (k == 80) = false := by simpa using h 80 (by decide)
  have b81 : (k == 81) = false := by simpa using h 81 (by decide)
  have b82 : (k == 82) = false := by simpa using h 82 (by decide)
  have b83 : (k == 83) = false := by simpa using h 83 (by decide)
  have b84 : (k == 84) = false := by simpa using h 84 (by decide)
  have b85 : (k == 85) = false := by simpa using h 85 (by decide)
  have b86 : (k == 86) = false := by simpa using h 86 (by decide)
  have b87 : (k == 87) = false := by simpa using h 87 (by decide)
  have b88 : (k == 88) = false := by simpa using h 88 (by decide)
  clear h
  go_enter Tryd.func38, Tryd.ntmps38
  go_wp2
  go_ret
  exact told_nil w
set_option maxRecDepth 100000 in
set_option maxHeartbeats 1000000 in
theorem others_1 (w : World) : Calls Tryd.prog 33 #[.int .i64 1] w fun e w' => STold w [[65, 83, 67, 73, 73], [85, 83, 45, 65, 83, 67, 73, 73], [73, 83, 79, 54, 52, 54, 45, 85, 83], [65, 78, 83, 73, 95, 88, 51, 46, 52, 45, 49, 57, 54, 56], [54, 52, 54]] e w' := by
  go_enter Tryd.func33, Tryd.ntmps33
  go_wp2
  go_ret
  exact told_lit w _ [[65, 83, 67, 73, 73], [85, 83, 45, 65, 83, 67, 73, 73], [73, 83, 79, 54, 52, 54, 45, 85, 83], [65, 78, 83, 73, 95, 88, 51, 46, 52, 45, 49, 57, 54, 56], [54, 52, 54]] _ rfl rfl (by decide)
set_option maxRecDepth 100000 in
set_option maxHeartbeats 1000000 in
theorem others_2 (w : World) : Calls Tryd.prog 33 #[.int .i64 2] w fun e w' => STold w [[85, 84, 70, 45, 56], [85, 84, 70, 56]] e w' := by
  go_enter Tryd.func33, Tryd.ntmps33
  go_wp2
  go_ret
  exact told_lit w _ [[85, 84, 70, 45, 56], [85, 84, 70, 56]] _ rfl rfl (by decide)
set_option maxRecDepth 100000 in
set_option maxHeartbeats 1000000 in
theorem others_3 (w : World) : Calls Tryd.prog 33 #[.int .i64 3] w fun e w' => STold w [[85, 84, 70, 45, 49, 54, 66, 69]] e w' := by
  go_enter Tryd.func33, Tryd.ntmps33
  go_wp2
  go_ret
  exact told_lit w _ [[85, 84, 70, 45, 49, 54, 66, 69]] _ rfl rfl (by decide)
set_option maxRecDepth 100000 in
set_option maxHeartbeats 1000000 in
theorem others_4 (w : World) : Calls Tryd.prog 33 #[.int .i64 4] w fun e w' => STold w [[85, 84, 70, 45, 49, 54, 76, 69]] e w' := by
  go_enter Tryd.func33, Tryd.ntmps33
  go_wp2
  go_ret
  exact told_lit w _ [[85, 84, 70, 45, 49, 54, 76, 69]] _ rfl rfl (by decide)
set_option maxRecDepth 100000 in
set_option maxHeartbeats 1000000 in
theorem others_5 (w : World) : Calls Tryd.prog 33 #[.int .i64 5] w fun e w' => STold w [[85, 84, 70, 45, 49, 54]] e w' := by
  go_enter Tryd.func33, Tryd.ntmps33
  go_wp2
  go_ret
  exact told_lit w _ [[85, 84, 70, 45, 49, 54]] _ rfl rfl (by decide)
set_option maxRecDepth 100000 in
set_option maxHeartbeats 1000000 in
theorem others_6 (w : World) : Calls Tryd.prog 33 #[.int .i64 6] w fun e w' => STold w [[85, 84, 70, 45, 51, 50, 66, 69], [85, 67, 83, 45, 52, 66, 69]] e w' := by
  go_enter Tryd.func33, Tryd.ntmps33
  go_wp2
  go_ret
  exact told_lit w _ [[85, 84, 70, 45, 51, 50, 66, 69], [85, 67, 83, 45, 52, 66, 69]] _ rfl rfl (by decide)
set_option maxRecDepth 100000 in
set_option maxHeartbeats 1000000 in
theorem others_7 (w : World) : Calls Tryd.prog 33 #[.int .i64 7] w fun e w' => STold w [[85, 84, 70, 45, 51, 50, 76, 69], [85, 67, 83, 45, 52, 76, 69]] e w' := by
  go_enter Tryd.func33, Tryd.ntmps33
  go_wp2
  go_ret
  exact told_lit w _ [[85, 84, 70, 45, 51, 50, 76, 69], [85, 67, 83, 45, 52, 76, 69]] _ rfl rfl (by decide)
set_option maxRecDepth 100000 in
set_option maxHeartbeats 1000000 in
theorem others_8 (w : World) : Calls Tryd.prog 33 #[.int .i64 8] w fun e w' => STold w [[85, 84, 70, 45, 51, 50], [85, 67, 83, 45, 52]] e w' := by
  go_enter Tryd.func33, Tryd.ntmps33
  go_wp2
  go_ret
  exact told_lit w _ [[85, 84, 70, 45, 51, 50], [85, 67, 83, 45, 52]] _ rfl rfl (by decide)
set_option maxRecDepth 100000 in
set_option maxHeartbeats 1000000 in
theorem others_9 (w : World) : Calls Tryd.prog 33 #[.int .i64 9] w fun e w' => STold w [[85, 67, 83, 45, 50, 66, 69], [85, 78, 73, 67, 79, 68, 69, 66, 73, 71]] e w' := by
  go_enter Tryd.func33, Tryd.ntmps33
  go_wp2
  go_ret
  exact told_lit w _ [[85, 67, 83, 45, 50, 66, 69], [85, 78, 73, 67, 79, 68, 69, 66, 73, 71]] _ rfl rfl (by decide)
set_option maxRecDepth 100000 in
set_option maxHeartbeats 1000000 in
theorem others_10 (w : World) : Calls Tryd.prog 33 #[.int .i64 10] w fun e w' => STold w [[85, 67, 83, 45, 50, 76, 69], [85, 78, 73, 67, 79, 68, 69, 76, 73, 84, 84, 76, 69]] e w' := by
  go_enter Tryd.func33, Tryd.ntmps33
  go_wp2
  go_ret
  exact told_lit w _ [[85, 67, 83, 45, 50, 76, 69], [85, 78, 73, 67, 79, 68, 69, 76, 73, 84, 84, 76, 69]] _ rfl rfl (by decide)
set_option maxRecDepth 100000 in
set_option maxHeartbeats 1000000 in
theorem others_11 (w : World) : Calls Tryd.prog 33 #[.int .i64 11] w fun e w' => STold w [[85, 84, 70, 45, 55], [85, 78, 73, 67, 79, 68, 69, 45, 49, 45, 49, 45, 85, 84, 70, 45, 55]] e w' := by
  go_enter Tryd.func33, Tryd.ntmps33
  go_wp2
  go_ret
  exact told_lit w _ [[85, 84, 70, 45, 55], [85, 78, 73, 67, 79, 68, 69, 45, 49, 45, 49, 45, 85, 84, 70, 45, 55]] _ rfl rfl (by decide)
set_option maxRecDepth 100000 in
set_option maxHeartbeats 1000000 in
theorem others_50 (w : World) : Calls Tryd.prog 33 #[.int .i64 50] w fun e w' => STold w [[87, 73, 78, 68, 79, 87, 83, 45, 49, 50, 53, 48], [67, 80, 49, 50, 53, 48]] e w' := by
  go_enter Tryd.func33, Tryd.ntmps33
  go_wp2
  go_ret
  exact told_lit w _ [[87, 73, 78, 68, 79, 87, 83, 45, 49, 50, 53, 48], [67, 80, 49, 50, 53, 48]] _ rfl rfl (by decide)
set_option maxRecDepth 100000 in
set_option maxHeartbeats 1000000 in
theorem others_51 (w : World) : Calls Tryd.prog 33 #[.int .i64 51] w fun e w' => STold w [[87, 73, 78, 68, 79, 87, 83, 45, 49, 50, 53, 49], [67, 80, 49, 50, 53, 49]] e w' := by
  go_enter Tryd.func33, Tryd.ntmps33
  go_wp2
  go_ret
  exact told_lit w _ [[87, 73, 78, 68, 79, 87, 83, 45, 49, 50, 53, 49], [67, 80, 49, 50, 53, 49]] _ rfl rfl (by decide)
set_option maxRecDepth 100000 in
set_option maxHeartbeats 1000000 in
theorem others_52 (w : World) : Calls Tryd.prog 33 #[.int .i64 52] w fun e w' => STold w [[87, 73, 78, 68, 79, 87, 83, 45, 49, 50, 53, 50], [67, 80, 49, 50, 53, 50]] e w' := by
  go_enter Tryd.func33, Tryd.ntmps33
  go_wp2
  go_ret
  exact told_lit w _ [[87, 73, 78, 68, 79, 87, 83, 45, 49, 50, 53, 50], [67, 80, 49, 50, 53, 50]] _ rfl rfl (by decide)
set_option maxRecDepth 100000 in
set_option maxHeartbeats 1000000 in
theorem others_53 (w : World) : Calls Tryd.prog 33 #[.int .i64 53] w fun e w' => STold w [[87, 73, 78, 68, 79, 87, 83, 45, 49, 50, 53, 51], [67, 80, 49, 50, 53, 51]] e w' := by
  go_enter Tryd.func33, Tryd.ntmps33
  go_wp2
  go_ret
  exact told_lit w _ [[87, 73, 78, 68, 79, 87, 83, 45, 49, 50, 53, 51], [67, 80, 49, 50, 53, 51]] _ rfl rfl (by decide)
set_option maxRecDepth 100000 in
set_option maxHeartbeats 1000000 in
theorem others_54 (w : World) : Calls Tryd.prog 33 #[.int .i64 54] w fun e w' => STold w [[87, 73, 78, 68, 79, 87, 83, 45, 49, 50, 53, 52], [67, 80, 49, 50, 53, 52]] e w' := by
  go_enter Tryd.func33, Tryd.ntmps33
  go_wp2
  go_ret
  exact told_lit w _ [[87, 73, 78, 68, 79, 87, 83, 45, 49, 50, 53, 52], [67, 80, 49, 50, 53, 52]] _ rfl rfl (by decide)
set_option maxRecDepth 100000 in
set_option maxHeartbeats 1000000 in
theorem others_55 (w : World) : Calls Tryd.prog 33 #[.int .i64 55] w fun e w' => STold w [[87, 73, 78, 68, 79, 87, 83, 45, 49, 50, 53, 53], [67, 80, 49, 50, 53, 53]] e w' := by
  go_enter Tryd.func33, Tryd.ntmps33
  go_wp2
  go_ret
  exact told_lit w _ [[87, 73, 78, 68, 79, 87, 83, 45, 49, 50, 53, 53], [67, 80, 49, 50, 53, 53]] _ rfl rfl (by decide)
set_option maxRecDepth 100000 in
set_option maxHeartbeats 1000000 in
theorem others_56 (w : World) : Calls Tryd.prog 33 #[.int .i64 56] w fun e w' => STold w [[87, 73, 78, 68, 79, 87, 83, 45, 49, 50, 53, 54], [67, 80, 49, 50, 53, 54]] e w' := by
  go_enter Tryd.func33, Tryd.ntmps33
  go_wp2
  go_ret
  exact told_lit w _ [[87, 73, 78, 68, 79, 87, 83, 45, 49, 50, 53, 54], [67, 80, 49, 50, 53, 54]] _ rfl rfl (by decide)
set_option maxRecDepth 100000 in
set_option maxHeartbeats 1000000 in
theorem others_57 (w : World) : Calls Tryd.prog 33 #[.int .i64 57] w fun e w' => STold w [[87, 73, 78, 68, 79, 87, 83, 45, 49, 50, 53, 55], [67, 80, 49, 50, 53, 55]] e w' := by
  go_enter Tryd.func33, Tryd.ntmps33
  go_wp2
  go_ret
  exact told_lit w _ [[87, 73, 78, 68, 79, 87, 83, 45, 49, 50, 53, 55], [67, 80, 49, 50, 53, 55]] _ rfl rfl (by decide)
set_option maxRecDepth 100000 in
set_option maxHeartbeats 1000000 in
theorem others_58 (w : World) : Calls Tryd.prog 33 #[.int .i64 58] w fun e w' => STold w [[87, 73, 78, 68, 79, 87, 83, 45, 49, 50, 53, 56], [67, 80, 49, 50, 53, 56]] e w' := by
  go_enter Tryd.func33, Tryd.ntmps33
  go_wp2
  go_ret
  exact told_lit w _ [[87, 73, 78, 68, 79, 87, 83, 45, 49, 50, 53, 56], [67, 80, 49, 50, 53, 56]] _ rfl rfl (by decide)
set_option maxRecDepth 100000 in
set_option maxHeartbeats 1000000 in
theorem others_60 (w : World) : Calls Tryd.prog 33 #[.int .i64 60] w fun e w' => STold w [[73, 66, 77, 52, 51, 55], [67, 80, 52, 51, 55], [52, 51, 55]] e w' := by
  go_enter Tryd.func33, Tryd.ntmps33
  go_wp2
  go_ret
  exact told_lit w _ [[73, 66, 77, 52, 51, 55], [67, 80, 52, 51, 55], [52, 51, 55]] _ rfl rfl (by decide)
set_option maxRecDepth 100000 in
set_option maxHeartbeats 1000000 in
theorem others_61 (w : World) : Calls Tryd.prog 33 #[.int .i64 61] w fun e w' => STold w [[73, 66, 77, 56, 53, 48], [67, 80, 56, 53, 48], [56, 53, 48]] e w' := by
  go_enter Tryd.func33, Tryd.ntmps33
  go_wp2
  go_ret
  exact told_lit w _ [[73, 66, 77, 56, 53, 48], [67, 80, 56, 53, 48], [56, 53, 48]] _ rfl rfl (by decide)
set_option maxRecDepth 100000 in
set_option maxHeartbeats 1000000 in
theorem others_62 (w : World) : Calls Tryd.prog 33 #[.int .i64 62] w fun e w' => STold w [[73, 66, 77, 56, 53, 50], [67, 80, 56, 53, 50], [56, 53, 50]] e w' := by
  go_enter Tryd.func33, Tryd.ntmps33
  go_wp2
  go_ret
  exact told_lit w _ [[73, 66, 77, 56, 53, 50], [67, 80, 56, 53, 50], [56, 53, 50]] _ rfl rfl (by decide)
set_option maxRecDepth 100000 in
set_option maxHeartbeats 1000000 in
theorem others_63 (w : World) : Calls Tryd.prog 33 #[.int .i64 63] w fun e w' => STold w [[73, 66, 77, 56, 53, 53], [67, 80, 56, 53, 53], [56, 53, 53]] e w' := by
  go_enter Tryd.func33, Tryd.ntmps33
  go_wp2
  go_ret
  exact told_lit w _ [[73, 66, 77, 56, 53, 53], [67, 80, 56, 53, 53], [56, 53, 53]] _ rfl rfl (by decide)
set_option maxRecDepth 100000 in
set_option maxHeartbeats 1000000 in
theorem others_64 (w : World) : Calls Tryd.prog 33 #[.int .i64 64] w fun e w' => STold w [[73, 66, 77, 56, 54, 54], [67, 80, 56, 54, 54], [56, 54, 54]] e w' := by
  go_enter Tryd.func33, Tryd.ntmps33
  go_wp2
  go_ret
  exact told_lit w _ [[73, 66, 77, 56, 54, 54], [67, 80, 56, 54, 54], [56, 54, 54]] _ rfl rfl (by decide)
set_option maxRecDepth 100000 in
set_option maxHeartbeats 1000000 in
theorem others_65 (w : World) : Calls Tryd.prog 33 #[.int .i64 65] w fun e w' => STold w [[77, 65, 67, 73, 78, 84, 79, 83, 72], [77, 65, 67, 82, 79, 77, 65, 78], [77, 65, 67]] e w' := by
  go_enter Tryd.func33, Tryd.ntmps33
  go_wp2
  go_ret
  exact told_lit w _ [[77, 65, 67, 73, 78, 84, 79, 83, 72], [77, 65, 67, 82, 79, 77, 65, 78], [77, 65, 67]] _ rfl rfl (by decide)
set_option maxRecDepth 100000 in
set_option maxHeartbeats 1000000 in
theorem others_66 (w : World) : Calls Tryd.prog 33 #[.int .i64 66] w fun e w' => STold w [[77, 65, 67, 67, 89, 82, 73, 76, 76, 73, 67]] e w' := by
  go_enter Tryd.func33, Tryd.ntmps33
  go_wp2
  go_ret
  exact told_lit w _ [[77, 65, 67, 67, 89, 82, 73, 76, 76, 73, 67]] _ rfl rfl (by decide)
set_option maxRecDepth 100000 in
set_option maxHeartbeats 1000000 in
theorem others_70 (w : World) : Calls Tryd.prog 33 #[.int .i64 70] w fun e w' => STold w [[73, 66, 77, 48, 51, 55], [67, 80, 48, 51, 55], [69, 66, 67, 68, 73, 67, 45, 67, 80, 45, 85, 83]] e w' := by
  go_enter Tryd.func33, Tryd.ntmps33
  go_wp2_with (go_at_call 38; refine (asian_70 _).mono ?_; rintro e w1 ⟨ao, cap, rfl, h2, h3, h4⟩)
  go_ret
  exact ⟨ao, cap, rfl, h2, h3, h4⟩
set_option maxRecDepth 100000 in
set_option maxHeartbeats 1000000 in
theorem others_71 (w : World) : Calls Tryd.prog 33 #[.int .i64 71] w fun e w' => STold w [[73, 66, 77, 53, 48, 48], [67, 80, 53, 48, 48], [69, 66, 67, 68, 73, 67, 45, 67, 80, 45, 66, 69]] e w' := by
  go_enter Tryd.func33, Tryd.ntmps33
  go_wp2_with (go_at_call 38; refine (asian_71 _).mono ?_; rintro e w1 ⟨ao, cap, rfl, h2, h3, h4⟩)
  go_ret
  exact ⟨ao, cap, rfl, h2, h3, h4⟩
set_option maxRecDepth 100000 in
set_option maxHeartbeats 1000000 in
theorem others_72 (w : World) : Calls Tryd.prog 33 #[.int .i64 72] w fun e w' => STold w [[73, 66, 77, 49, 48, 50, 54], [67, 80, 49, 48, 50, 54]] e w' := by
  go_enter Tryd.func33, Tryd.ntmps33
  go_wp2_with (go_at_call 38; refine (asian_72 _).mono ?_; rintro e w1 ⟨ao, cap, rfl, h2, h3, h4⟩)
  go_ret
  exact ⟨ao, cap, rfl, h2, h3, h4⟩
set_option maxRecDepth 100000 in
set_option maxHeartbeats 1000000 in
theorem others_80 (w : World) : Calls Tryd.prog 33 #[.int .i64 80] w fun e w' => STold w [[74, 73, 83, 95, 88, 48, 50, 48, 49], [74, 73, 83, 88, 48, 50, 48, 49, 45, 49, 57, 55, 54], [88, 48, 50, 48, 49]] e w' := by
  go_enter Tryd.func33, Tryd.ntmps33
  go_wp2_with (go_at_call 38; refine (asian_80 _).mono ?_; rintro e w1 ⟨ao, cap, rfl, h2, h3, h4⟩)
  go_ret
  exact ⟨ao, cap, rfl, h2, h3, h4⟩
set_option maxRecDepth 100000 in
set_option maxHeartbeats 1000000 in
theorem others_81 (w : World) : Calls Tryd.prog 33 #[.int .i64 81] w fun e w' => STold w [[69, 85, 67, 45, 74, 80], [69, 85, 67, 74, 80]] e w' := by
  go_enter Tryd.func33, Tryd.ntmps33
  go_wp2_with (go_at_call 38; refine (asian_81 _).mono ?_; rintro e w1 ⟨ao, cap, rfl, h2, h3, h4⟩)
  go_ret
  exact ⟨ao, cap, rfl, h2, h3, h4⟩
set_option maxRecDepth 100000 in
set_option maxHeartbeats 1000000 in
theorem others_82 (w : World) : Calls Tryd.prog 33 #[.int .i64 82] w fun e w' => STold w [[83, 72, 73, 70, 84, 95, 74, 73, 83], [83, 72, 73, 70, 84, 45, 74, 73, 83], [83, 74, 73, 83], [77, 83, 95, 75, 65, 78, 74, 73]] e w' := by
  go_enter Tryd.func33, Tryd.ntmps33
  go_wp2_with (go_at_call 38; refine (asian_82 _).mono ?_; rintro e w1 ⟨ao, cap, rfl, h2, h3, h4⟩)
  go_ret
  exact ⟨ao, cap, rfl, h2, h3, h4⟩
set_option maxRecDepth 100000 in
set_option maxHeartbeats 1000000 in
theorem others_83 (w : World) : Calls Tryd.prog 33 #[.int .i64 83] w fun e w' => STold w [[73, 83, 79, 45, 50, 48, 50, 50, 45, 74, 80]] e w' := by
  go_enter Tryd.func33, Tryd.ntmps33
  go_wp2_with (go_at_call 38; refine (asian_83 _).mono ?_; rintro e w1 ⟨ao, cap, rfl, h2, h3, h4⟩)
  go_ret
  exact ⟨ao, cap, rfl, h2, h3, h4⟩
set_option maxRecDepth 100000 in
set_option maxHeartbeats 1000000 in
theorem others_84 (w : World) : Calls Tryd.prog 33 #[.int .i64 84] w fun e w' => STold w [[69, 85, 67, 45, 67, 78], [69, 85, 67, 67, 78], [71, 66, 50, 51, 49, 50], [67, 78, 45, 71, 66]] e w' := by
  go_enter Tryd.func33, Tryd.ntmps33
  go_wp2_with (go_at_call 38; refine (asian_84 _).mono ?_; rintro e w1 ⟨ao, cap, rfl, h2, h3, h4⟩)
  go_ret
  exact ⟨ao, cap, rfl, h2, h3, h4⟩
set_option maxRecDepth 100000 in
set_option maxHeartbeats 1000000 in
theorem others_85 (w : World) : Calls Tryd.prog 33 #[.int .i64 85] w fun e w' => STold w [[72, 90], [72, 90, 45, 71, 66, 45, 50, 51, 49, 50]] e w' := by
  go_enter Tryd.func33, Tryd.ntmps33
  go_wp2_with (go_at_call 38; refine (asian_85 _).mono ?_; rintro e w1 ⟨ao, cap, rfl, h2, h3, h4⟩)
  go_ret
  exact ⟨ao, cap, rfl, h2, h3, h4⟩
set_option maxRecDepth 100000 in
set_option maxHeartbeats 1000000 in
theorem others_86 (w : World) : Calls Tryd.prog 33 #[.int .i64 86] w fun e w' => STold w [[69, 85, 67, 45, 75, 82], [69, 85, 67, 75, 82]] e w' := by
  go_enter Tryd.func33, Tryd.ntmps33
  go_wp2_with (go_at_call 38; refine (asian_86 _).mono ?_; rintro e w1 ⟨ao, cap, rfl, h2, h3, h4⟩)
  go_ret
  exact ⟨ao, cap, rfl, h2, h3, h4⟩
set_option maxRecDepth 100000 in
set_option maxHeartbeats 1000000 in
theorem others_87 (w : World) : Calls Tryd.prog 33 #[.int .i64 87] w fun e w' => STold w [[74, 79, 72, 65, 66], [67, 80, 49, 51, 54, 49]] e w' := by
  go_enter Tryd.func33, Tryd.ntmps33
  go_wp2_with (go_at_call 38; refine (asian_87 _).mono ?_; rintro e w1 ⟨ao, cap, rfl, h2, h3, h4⟩)
  go_ret
  exact ⟨ao, cap, rfl, h2, h3, h4⟩
set_option maxRecDepth 100000 in
set_option maxHeartbeats 1000000 in
theorem others_88 (w : World) : Calls Tryd.prog 33 #[.int .i64 88] w fun e w' => STold w [[73, 83, 79, 45, 50, 48, 50, 50, 45, 75, 82]] e w' := by
  go_enter Tryd.func33, Tryd.ntmps33
  go_wp2_with (go_at_call 38; refine (asian_88 _).mono ?_; rintro e w1 ⟨ao, cap, rfl, h2, h3, h4⟩)
  go_ret
  exact ⟨ao, cap, rfl, h2, h3, h4⟩
set_option maxRecDepth 100000 in
set_option maxHeartbeats 1000000 in
theorem others_no (k : Int) (h : ∀ n ∈ kdT, ¬ k = (n : Int)) (w : World) : Calls Tryd.prog 33 #[.int .i64 k] w fun e w' => STold w [] e w' := by
  have a1 := Hid.mk' (asian_no k h)
  have b1 : (k == 1) = false := by simpa using h 1 (by decide)
  have b2 : (k == 2) = false := by simpa using h 2 (by decide)
  have b3 : (k == 3) = false := by simpa using h 3 (by decide)
  have b4 : (k == 4) = false := by simpa using h 4 (by decide)
  have b5 : (k == 5) = false := by simpa using h 5 (by decide)
  have b6 : (k == 6) = false := by simpa using h 6 (by decide)
  have b7 : (k == 7) = false := by simpa using h 7 (by decide)
  have b8 : (k == 8) = false := by simpa using h 8 (by decide)
  have b9 : (k == 9) = false := by simpa using h 9 (by decide)
  have b10 : (k == 10) = false := by simpa using h 10 (by decide)
  have b11 : (k == 11) = false := by simpa using h 11 (by decide)
  have b50 : (k == 50) = false := by simpa using h 50 (by decide)
  have b51 : (k == 51) = false := by simpa using h 51 (by decide)
  have b52 : (k == 52) = false := by simpa using h 52 (by decide)
  have b53 : (k == 53) = false := by simpa using h 53 (by decide)
  have b54 : (k == 54) = false := by simpa using h 54 (by decide)
  have b55 : (k == 55) = false := by simpa using h 55 (by decide)
  have b56 : (k == 56) = false := by simpa using h 56 (by decide)
  have b57 : (k == 57) = false := by simpa using h 57 (by decide)
  have b58 : (k == 58) = false := by simpa using h 58 (by decide)
  have b60 : (k == 60) = false := by simpa using h 60 (by decide)
  have b61 : (k == 61) = false := by simpa using h 61 (by decide)
  have b62 : (k == 62) = false := by simpa using h 62 (by decide)
  have b63 : (k == 63) = false := by simpa using h 63 (by decide)
  have b64 : (k == 64) = false := by simpa using h 64 (by decide)
  have b65 : (k == 65) = false := by simpa using h 65 (by decide)
  have b66 : (k == 66) = false := by simpa using h 66 (by decide)
  clear h
  go_enter Tryd.func33, Tryd.ntmps33
  go_wp2_with (go_at_call 38; refine (a1.out _).mono ?_; rintro e w1 ⟨ao, cap, rfl, h2, h3, h4⟩)
  go_ret
  exact ⟨ao, cap, rfl, h2, h3, h4⟩
set_option maxRecDepth 100000 in
set_option maxHeartbeats 1000000 in
theorem Aliases_21 (w : World) : Calls Tryd.prog 29 #[.int .i64 21] w fun e w' => STold w [[73, 83, 79, 45, 56, 56, 53, 57, 45, 49], [73, 83, 79, 56, 56, 53, 57, 45, 49], [76, 65, 84, 73, 78, 49]] e w' := by
  go_enter Tryd.func29, Tryd.ntmps29
  go_wp2
  go_ret
  exact told_lit w _ [[73, 83, 79, 45, 56, 56, 53, 57, 45, 49], [73, 83, 79, 56, 56, 53, 57, 45, 49], [76, 65, 84, 73, 78, 49]] _ rfl rfl (by decide)
set_option maxRecDepth 100000 in
set_option maxHeartbeats 1000000 in
theorem Aliases_22 (w : World) : Calls Tryd.prog 29 #[.int .i64 22] w fun e w' => STold w [[73, 83, 79, 45, 56, 56, 53, 57, 45, 50], [73, 83, 79, 56, 56, 53, 57, 45, 50], [76, 65, 84, 73, 78, 50]] e w' := by
  go_enter Tryd.func29, Tryd.ntmps29
  go_wp2
  go_ret
  exact told_lit w _ [[73, 83, 79, 45, 56, 56, 53, 57, 45, 50], [73, 83, 79, 56, 56, 53, 57, 45, 50], [76, 65, 84, 73, 78, 50]] _ rfl rfl (by decide)
set_option maxRecDepth 100000 in
set_option maxHeartbeats 1000000 in
theorem Aliases_23 (w : World) : Calls Tryd.prog 29 #[.int .i64 23] w fun e w' => STold w [[73, 83, 79, 45, 56, 56, 53, 57, 45, 51], [73, 83, 79, 56, 56, 53, 57, 45, 51], [76, 65, 84, 73, 78, 51]] e w' := by
  go_enter Tryd.func29, Tryd.ntmps29
  go_wp2
  go_ret
  exact told_lit w _ [[73, 83, 79, 45, 56, 56, 53, 57, 45, 51], [73, 83, 79, 56, 56, 53, 57, 45, 51], [76, 65, 84, 73, 78, 51]] _ rfl rfl (by decide)
set_option maxRecDepth 100000 in
set_option maxHeartbeats 1000000 in
theorem Aliases_24 (w : World) : Calls Tryd.prog 29 #[.int .i64 24] w fun e w' => STold w [[73, 83, 79, 45, 56, 56, 53, 57, 45, 52], [73, 83, 79, 56, 56, 53, 57, 45, 52], [76, 65, 84, 73, 78, 52]] e w' := by
  go_enter Tryd.func29, Tryd.ntmps29
  go_wp2
  go_ret
  exact told_lit w _ [[73, 83, 79, 45, 56, 56, 53, 57, 45, 52], [73, 83, 79, 56, 56, 53, 57, 45, 52], [76, 65, 84, 73, 78, 52]] _ rfl rfl (by decide)
set_option maxRecDepth 100000 in
set_option maxHeartbeats 1000000 in
theorem Aliases_25 (w : World) : Calls Tryd.prog 29 #[.int .i64 25] w fun e w' => STold w [[73, 83, 79, 45, 56, 56, 53, 57, 45, 53], [73, 83, 79, 56, 56, 53, 57, 45, 53], [67, 89, 82, 73, 76, 76, 73, 67]] e w' := by
  go_enter Tryd.func29, Tryd.ntmps29
  go_wp2
  go_ret
  exact told_lit w _ [[73, 83, 79, 45, 56, 56, 53, 57, 45, 53], [73, 83, 79, 56, 56, 53, 57, 45, 53], [67, 89, 82, 73, 76, 76, 73, 67]] _ rfl rfl (by decide)
set_option maxRecDepth 100000 in
set_option maxHeartbeats 1000000 in
theorem Aliases_26 (w : World) : Calls Tryd.prog 29 #[.int .i64 26] w fun e w' => STold w [[73, 83, 79, 45, 56, 56, 53, 57, 45, 54], [73, 83, 79, 56, 56, 53, 57, 45, 54], [65, 82, 65, 66, 73, 67]] e w' := by
  go_enter Tryd.func29, Tryd.ntmps29
  go_wp2
  go_ret
  exact told_lit w _ [[73, 83, 79, 45, 56, 56, 53, 57, 45, 54], [73, 83, 79, 56, 56, 53, 57, 45, 54], [65, 82, 65, 66, 73, 67]] _ rfl rfl (by decide)
set_option maxRecDepth 100000 in
set_option maxHeartbeats 1000000 in
theorem Aliases_27 (w : World) : Calls Tryd.prog 29 #[.int .i64 27] w fun e w' => STold w [[73, 83, 79, 45, 56, 56, 53, 57, 45, 55], [73, 83, 79, 56, 56, 53, 57, 45, 55], [71, 82, 69, 69, 75]] e w' := by
  go_enter Tryd.func29, Tryd.ntmps29
  go_wp2
  go_ret
  exact told_lit w _ [[73, 83, 79, 45, 56, 56, 53, 57, 45, 55], [73, 83, 79, 56, 56, 53, 57, 45, 55], [71, 82, 69, 69, 75]] _ rfl rfl (by decide)
set_option maxRecDepth 100000 in
set_option maxHeartbeats 1000000 in
theorem Aliases_28 (w : World) : Calls Tryd.prog 29 #[.int .i64 28] w fun e w' => STold w [[73, 83, 79, 45, 56, 56, 53, 57, 45, 56], [73, 83, 79, 56, 56, 53, 57, 45, 56], [72, 69, 66, 82, 69, 87]] e w' := by
  go_enter Tryd.func29, Tryd.ntmps29
  go_wp2
  go_ret
  exact told_lit w _ [[73, 83, 79, 45, 56, 56, 53, 57, 45, 56], [73, 83, 79, 56, 56, 53, 57, 45, 56], [72, 69, 66, 82, 69, 87]] _ rfl rfl (by decide)
set_option maxRecDepth 100000 in
set_option maxHeartbeats 1000000 in
theorem Aliases_29 (w : World) : Calls Tryd.prog 29 #[.int .i64 29] w fun e w' => STold w [[73, 83, 79, 45, 56, 56, 53, 57, 45, 57], [73, 83, 79, 56, 56, 53, 57, 45, 57], [76, 65, 84, 73, 78, 53]] e w' := by
  go_enter Tryd.func29, Tryd.ntmps29
  go_wp2
  go_ret
  exact told_lit w _ [[73, 83, 79, 45, 56, 56, 53, 57, 45, 57], [73, 83, 79, 56, 56, 53, 57, 45, 57], [76, 65, 84, 73, 78, 53]] _ rfl rfl (by decide)
set_option maxRecDepth 100000 in
set_option maxHeartbeats 1000000 in
theorem Aliases_30 (w : World) : Calls Tryd.prog 29 #[.int .i64 30] w fun e w' => STold w [[73, 83, 79, 45, 56, 56, 53, 57, 45, 49, 48], [73, 83, 79, 56, 56, 53, 57, 45, 49, 48], [76, 65, 84, 73, 78, 54]] e w' := by
  go_enter Tryd.func29, Tryd.ntmps29
  go_wp2
  go_ret
  exact told_lit w _ [[73, 83, 79, 45, 56, 56, 53, 57, 45, 49, 48], [73, 83, 79, 56, 56, 53, 57, 45, 49, 48], [76, 65, 84, 73, 78, 54]] _ rfl rfl (by decide)
set_option maxRecDepth 100000 in
set_option maxHeartbeats 1000000 in
theorem Aliases_31 (w : World) : Calls Tryd.prog 29 #[.int .i64 31] w fun e w' => STold w [[73, 83, 79, 45, 56, 56, 53, 57, 45, 49, 49], [73, 83, 79, 56, 56, 53, 57, 45, 49, 49], [84, 72, 65, 73]] e w' := by
  go_enter Tryd.func29, Tryd.ntmps29
  go_wp2
  go_ret
  exact told_lit w _ [[73, 83, 79, 45, 56, 56, 53, 57, 45, 49, 49], [73, 83, 79, 56, 56, 53, 57, 45, 49, 49], [84, 72, 65, 73]] _ rfl rfl (by decide)
set_option maxRecDepth 100000 in
set_option maxHeartbeats 1000000 in
theorem Aliases_33 (w : World) : Calls Tryd.prog 29 #[.int .i64 33] w fun e w' => STold w [[73, 83, 79, 45, 56, 56, 53, 57, 45, 49, 51], [73, 83, 79, 56, 56, 53, 57, 45, 49, 51], [76, 65, 84, 73, 78, 55]] e w' := by
  go_enter Tryd.func29, Tryd.ntmps29
  go_wp2
  go_ret
  exact told_lit w _ [[73, 83, 79, 45, 56, 56, 53, 57, 45, 49, 51], [73, 83, 79, 56, 56, 53, 57, 45, 49, 51], [76, 65, 84, 73, 78, 55]] _ rfl rfl (by decide)
set_option maxRecDepth 100000 in
set_option maxHeartbeats 1000000 in
theorem Aliases_34 (w : World) : Calls Tryd.prog 29 #[.int .i64 34] w fun e w' => STold w [[73, 83, 79, 45, 56, 56, 53, 57, 45, 49, 52], [73, 83, 79, 56, 56, 53, 57, 45, 49, 52], [76, 65, 84, 73, 78, 56]] e w' := by
  go_enter Tryd.func29, Tryd.ntmps29
  go_wp2
  go_ret
  exact told_lit w _ [[73, 83, 79, 45, 56, 56, 53, 57, 45, 49, 52], [73, 83, 79, 56, 56, 53, 57, 45, 49, 52], [76, 65, 84, 73, 78, 56]] _ rfl rfl (by decide)
set_option maxRecDepth 100000 in
set_option maxHeartbeats 1000000 in
theorem Aliases_35 (w : World) : Calls Tryd.prog 29 #[.int .i64 35] w fun e w' => STold w [[73, 83, 79, 45, 56, 56, 53, 57, 45, 49, 53], [73, 83, 79, 56, 56, 53, 57, 45, 49, 53], [76, 65, 84, 73, 78, 45, 57]] e w' := by
  go_enter Tryd.func29, Tryd.ntmps29
  go_wp2
  go_ret
  exact told_lit w _ [[73, 83, 79, 45, 56, 56, 53, 57, 45, 49, 53], [73, 83, 79, 56, 56, 53, 57, 45, 49, 53], [76, 65, 84, 73, 78, 45, 57]] _ rfl rfl (by decide)
set_option maxRecDepth 100000 in
set_option maxHeartbeats 1000000 in
theorem Aliases_36 (w : World) : Calls Tryd.prog 29 #[.int .i64 36] w fun e w' => STold w [[73, 83, 79, 45, 56, 56, 53, 57, 45, 49, 54], [73, 83, 79, 56, 56, 53, 57, 45, 49, 54], [76, 65, 84, 73, 78, 49, 48]] e w' := by
  go_enter Tryd.func29, Tryd.ntmps29
  go_wp2
  go_ret
  exact told_lit w _ [[73, 83, 79, 45, 56, 56, 53, 57, 45, 49, 54], [73, 83, 79, 56, 56, 53, 57, 45, 49, 54], [76, 65, 84, 73, 78, 49, 48]] _ rfl rfl (by decide)
set_option maxRecDepth 100000 in
set_option maxHeartbeats 1000000 in
theorem Aliases_40 (w : World) : Calls Tryd.prog 29 #[.int .i64 40] w fun e w' => STold w [[75, 79, 73, 56, 45, 82]] e w' := by
  go_enter Tryd.func29, Tryd.ntmps29
  go_wp2
  go_ret
  exact told_lit w _ [[75, 79, 73, 56, 45, 82]] _ rfl rfl (by decide)
set_option maxRecDepth 100000 in
set_option maxHeartbeats 1000000 in
theorem Aliases_41 (w : World) : Calls Tryd.prog 29 #[.int .i64 41] w fun e w' => STold w [[75, 79, 73, 56, 45, 85]] e w' := by
  go_enter Tryd.func29, Tryd.ntmps29
  go_wp2
  go_ret
  exact told_lit w _ [[75, 79, 73, 56, 45, 85]] _ rfl rfl (by decide)
set_option maxRecDepth 100000 in
set_option maxHeartbeats 1000000 in
theorem Aliases_1 (w : World) : Calls Tryd.prog 29 #[.int .i64 1] w fun e w' => STold w [[65, 83, 67, 73, 73], [85, 83, 45, 65, 83, 67, 73, 73], [73, 83, 79, 54, 52, 54, 45, 85, 83], [65, 78, 83, 73, 95, 88, 51, 46, 52, 45, 49, 57, 54, 56], [54, 52, 54]] e w' := by
  go_enter Tryd.func29, Tryd.ntmps29
  go_wp2_with (go_at_call 33; refine (others_1 _).mono ?_; rintro e w1 ⟨ao, cap, rfl, h2, h3, h4⟩)
  go_ret
  exact ⟨ao, cap, rfl, h2, h3, h4⟩
set_option maxRecDepth 100000 in
set_option maxHeartbeats 1000000 in
theorem Aliases_2 (w : World) : Calls Tryd.prog 29 #[.int .i64 2] w fun e w' => STold w [[85, 84, 70, 45, 56], [85, 84, 70, 56]] e w' := by
  go_enter Tryd.func29, Tryd.ntmps29
  go_wp2_with (go_at_call 33; refine (others_2 _).mono ?_; rintro e w1 ⟨ao, cap, rfl, h2, h3, h4⟩)
  go_ret
  exact ⟨ao, cap, rfl, h2, h3, h4⟩
set_option maxRecDepth 100000 in
set_option maxHeartbeats 1000000 in
theorem Aliases_3 (w : World) : Calls Tryd.prog 29 #[.int .i64 3] w fun e w' => STold w [[85, 84, 70, 45, 49, 54, 66, 69]] e w' := by
  go_enter Tryd.func29, Tryd.ntmps29
  go_wp2_with (go_at_call 33; refine (others_3 _).mono ?_; rintro e w1 ⟨ao, cap, rfl, h2, h3, h4⟩)
  go_ret
  exact ⟨ao, cap, rfl, h2, h3, h4⟩
set_option maxRecDepth 100000 in
set_option maxHeartbeats 1000000 in
theorem Aliases_4 (w : World) : Calls Tryd.prog 29 #[.int .i64 4] w fun e w' => STold w [[85, 84, 70, 45, 49, 54, 76, 69]] e w' := by
  go_enter Tryd.func29, Tryd.ntmps29
  go_wp2_with (go_at_call 33; refine (others_4 _).mono ?_; rintro e w1 ⟨ao, cap, rfl, h2, h3, h4⟩)
  go_ret
  exact ⟨ao, cap, rfl, h2, h3, h4⟩
set_option maxRecDepth 100000 in
set_option maxHeartbeats 1000000 in
theorem Aliases_5 (w : World) : Calls Tryd.prog 29 #[.int .i64 5] w fun e w' => STold w [[85, 84, 70, 45, 49, 54]] e w' := by
  go_enter Tryd.func29, Tryd.ntmps29
  go_wp2_with (go_at_call 33; refine (others_5 _).mono ?_; rintro e w1 ⟨ao, cap, rfl, h2, h3, h4⟩)
  go_ret
  exact ⟨ao, cap, rfl, h2, h3, h4⟩
set_option maxRecDepth 100000 in
set_option maxHeartbeats 1000000 in
theorem Aliases_6 (w : World) : Calls Tryd.prog 29 #[.int .i64 6] w fun e w' => STold w [[85, 84, 70, 45, 51, 50, 66, 69], [85, 67, 83, 45, 52, 66, 69]] e w' := by
  go_enter Tryd.func29, Tryd.ntmps29
  go_wp2_with (go_at_call 33; refine (others_6 _).mono ?_; rintro e w1 ⟨ao, cap, rfl, h2, h3, h4⟩)
  go_ret
  exact ⟨ao, cap, rfl, h2, h3, h4⟩
set_option maxRecDepth 100000 in
set_option maxHeartbeats 1000000 in
theorem Aliases_7 (w : World) : Calls Tryd.prog 29 #[.int .i64 7] w fun e w' => STold w [[85, 84, 70, 45, 51, 50, 76, 69], [85, 67, 83, 45, 52, 76, 69]] e w' := by
  go_enter Tryd.func29, Tryd.ntmps29
  go_wp2_with (go_at_call 33; refine (others_7 _).mono ?_; rintro e w1 ⟨ao, cap, rfl, h2, h3, h4⟩)
  go_ret
  exact ⟨ao, cap, rfl, h2, h3, h4⟩
set_option maxRecDepth 100000 in
set_option maxHeartbeats 1000000 in
theorem Aliases_8 (w : World) : Calls Tryd.prog 29 #[.int .i64 8] w fun e w' => STold w [[85, 84, 70, 45, 51, 50], [85, 67, 83, 45, 52]] e w' := by
  go_enter Tryd.func29, Tryd.ntmps29
  go_wp2_with (go_at_call 33; refine (others_8 _).mono ?_; rintro e w1 ⟨ao, cap, rfl, h2, h3, h4⟩)
  go_ret
  exact ⟨ao, cap, rfl, h2, h3, h4⟩
set_option maxRecDepth 100000 in
set_option maxHeartbeats 1000000 in
theorem Aliases_9 (w : World) : Calls Tryd.prog 29 #[.int .i64 9] w fun e w' => STold w [[85, 67, 83, 45, 50, 66, 69], [85, 78, 73, 67, 79, 68, 69, 66, 73, 71]] e w' := by
  go_enter Tryd.func29, Tryd.ntmps29
  go_wp2_with (go_at_call 33; refine (others_9 _).mono ?_; rintro e w1 ⟨ao, cap, rfl, h2, h3, h4⟩)
  go_ret
  exact ⟨ao, cap, rfl, h2, h3, h4⟩
set_option maxRecDepth 100000 in
set_option maxHeartbeats 1000000 in
theorem Aliases_10 (w : World) : Calls Tryd.prog 29 #[.int .i64 10] w fun e w' => STold w [[85, 67, 83, 45, 50, 76, 69], [85, 78, 73, 67, 79, 68, 69, 76, 73, 84, 84, 76, 69]] e w' := by
  go_enter Tryd.func29, Tryd.ntmps29
  go_wp2_with (go_at_call 33; refine (others_10 _).mono ?_; rintro e w1 ⟨ao, cap, rfl, h2, h3, h4⟩)
  go_ret
  exact ⟨ao, cap, rfl, h2, h3, h4⟩
set_option maxRecDepth 100000 in
set_option maxHeartbeats 1000000 in
theorem Aliases_11 (w : World) : Calls Tryd.prog 29 #[.int .i64 11] w fun e w' => STold w [[85, 84, 70, 45, 55], [85, 78, 73, 67, 79, 68, 69, 45, 49, 45, 49, 45, 85, 84, 70, 45, 55]] e w' := by
  go_enter Tryd.func29, Tryd.ntmps29
  go_wp2_with (go_at_call 33; refine (others_11 _).mono ?_; rintro e w1 ⟨ao, cap, rfl, h2, h3, h4⟩)
  go_ret
  exact ⟨ao, cap, rfl, h2, h3, h4⟩
set_option maxRecDepth 100000 in
set_option maxHeartbeats 1000000 in
theorem Aliases_50 (w : World) : Calls Tryd.prog 29 #[.int .i64 50] w fun e w' => STold w [[87, 73, 78, 68, 79, 87, 83, 45, 49, 50, 53, 48], [67, 80, 49, 50, 53, 48]] e w' := by
  go_enter Tryd.func29, Tryd.ntmps29
  go_wp2_with (go_at_call 33; refine (others_50 _).mono ?_; rintro e w1 ⟨ao, cap, rfl, h2, h3, h4⟩)
  go_ret
  exact ⟨ao, cap, rfl, h2, h3, h4⟩
set_option maxRecDepth 100000 in
set_option maxHeartbeats 1000000 in
theorem Aliases_51 (w : World) : Calls Tryd.prog 29 #[.int .i64 51] w fun e w' => STold w [[87, 73, 78, 68, 79, 87, 83, 45, 49, 50, 53, 49], [67, 80, 49, 50, 53, 49]] e w' := by
  go_enter Tryd.func29, Tryd.ntmps29
  go_wp2_with (go_at_call 33; refine (others_51 _).mono ?_; rintro e w1 ⟨ao, cap, rfl, h2, h3, h4⟩)
  go_ret
  exact ⟨ao, cap, rfl, h2, h3, h4⟩
set_option maxRecDepth 100000 in
set_option maxHeartbeats 1000000 in
theorem Aliases_52 (w : World) : Calls Tryd.prog 29 #[.int .i64 52] w fun e w' => STold w [[87, 73, 78, 68, 79, 87, 83, 45, 49, 50, 53, 50], [67, 80, 49, 50, 53, 50]] e w' := by
  go_enter Tryd.func29, Tryd.ntmps29
  go_wp2_with (go_at_call 33; refine (others_52 _).mono ?_; rintro e w1 ⟨ao, cap, rfl, h2, h3, h4⟩)
  go_ret
  exact ⟨ao, cap, rfl, h2, h3, h4⟩
set_option maxRecDepth 100000 in
set_option maxHeartbeats 1000000 in
theorem Aliases_53 (w : World) : Calls Tryd.prog 29 #[.int .i64 53] w fun e w' => STold w [[87, 73, 78, 68, 79, 87, 83, 45, 49, 50, 53, 51], [67, 80, 49, 50, 53, 51]] e w' := by
  go_enter Tryd.func29, Tryd.ntmps29
  go_wp2_with (go_at_call 33; refine (others_53 _).mono ?_; rintro e w1 ⟨ao, cap, rfl, h2, h3, h4⟩)
  go_ret
  exact ⟨ao, cap, rfl, h2, h3, h4⟩
set_option maxRecDepth 100000 in
set_option maxHeartbeats 1000000 in
theorem Aliases_54 (w : World) : Calls Tryd.prog 29 #[.int .i64 54] w fun e w' => STold w [[87, 73, 78, 68, 79, 87, 83, 45, 49, 50, 53, 52], [67, 80, 49, 50, 53, 52]] e w' := by
  go_enter Tryd.func29, Tryd.ntmps29
  go_wp2_with (go_at_call 33; refine (others_54 _).mono ?_; rintro e w1 ⟨ao, cap, rfl, h2, h3, h4⟩)
  go_ret
  exact ⟨ao, cap, rfl, h2, h3, h4⟩
set_option maxRecDepth 100000 in
set_option maxHeartbeats 1000000 in
theorem Aliases_55 (w : World) : Calls Tryd.prog 29 #[.int .i64 55] w fun e w' => STold w [[87, 73, 78, 68, 79, 87, 83, 45, 49, 50, 53, 53], [67, 80, 49, 50, 53, 53]] e w' := by
  go_enter Tryd.func29, Tryd.ntmps29
  go_wp2_with (go_at_call 33; refine (others_55 _).mono ?_; rintro e w1 ⟨ao, cap, rfl, h2, h3, h4⟩)
  go_ret
  exact ⟨ao, cap, rfl, h2, h3, h4⟩
set_option maxRecDepth 100000 in
set_option maxHeartbeats 1000000 in
theorem Aliases_56 (w : World) : Calls Tryd.prog 29 #[.int .i64 56] w fun e w' => STold w [[87, 73, 78, 68, 79, 87, 83, 45, 49, 50, 53, 54], [67, 80, 49, 50, 53, 54]] e w' := by
  go_enter Tryd.func29, Tryd.ntmps29
  go_wp2_with (go_at_call 33; refine (others_56 _).mono ?_; rintro e w1 ⟨ao, cap, rfl, h2, h3, h4⟩)
  go_ret
  exact ⟨ao, cap, rfl, h2, h3, h4⟩
set_option maxRecDepth 100000 in
set_option maxHeartbeats 1000000 in
theorem Aliases_57 (w : World) : Calls Tryd.prog 29 #[.int .i64 57] w fun e w' => STold w [[87, 73, 78, 68, 79, 87, 83, 45, 49, 50, 53, 55], [67, 80, 49, 50, 53, 55]] e w' := by
  go_enter Tryd.func29, Tryd.ntmps29
  go_wp2_with (go_at_call 33; refine (others_57 _).mono ?_; rintro e w1 ⟨ao, cap, rfl, h2, h3, h4⟩)
  go_ret
  exact ⟨ao, cap, rfl, h2, h3, h4⟩
set_option maxRecDepth 100000 in
set_option maxHeartbeats 1000000 in
theorem Aliases_58 (w : World) : Calls Tryd.prog 29 #[.int .i64 58] w fun e w' => STold w [[87, 73, 78, 68, 79, 87, 83, 45, 49, 50, 53, 56], [67, 80, 49, 50, 53, 56]] e w' := by
  go_enter Tryd.func29, Tryd.ntmps29
  go_wp2_with (go_at_call 33; refine (others_58 _).mono ?_; rintro e w1 ⟨ao, cap, rfl, h2, h3, h4⟩)
  go_ret
  exact ⟨ao, cap, rfl, h2, h3, h4⟩
set_option maxRecDepth 100000 in
set_option maxHeartbeats 1000000 in
theorem Aliases_60 (w : World) : Calls Tryd.prog 29 #[.int .i64 60] w fun e w' => STold w [[73, 66, 77, 52, 51, 55], [67, 80, 52, 51, 55], [52, 51, 55]] e w' := by
  go_enter Tryd.func29, Tryd.ntmps29
  go_wp2_with (go_at_call 33; refine (others_60 _).mono ?_; rintro e w1 ⟨ao, cap, rfl, h2, h3, h4⟩)
  go_ret
  exact ⟨ao, cap, rfl, h2, h3, h4⟩
set_option maxRecDepth 100000 in
set_option maxHeartbeats 1000000 in
theorem Aliases_61 (w : World) : Calls Tryd.prog 29 #[.int .i64 61] w fun e w' => STold w [[73, 66, 77, 56, 53, 48], [67, 80, 56, 53, 48], [56, 53, 48]] e w' := by
  go_enter Tryd.func29, Tryd.ntmps29
  go_wp2_with (go_at_call 33; refine (others_61 _).mono ?_; rintro e w1 ⟨ao, cap, rfl, h2, h3, h4⟩)
  go_ret
  exact ⟨ao, cap, rfl, h2, h3, h4⟩
set_option maxRecDepth 100000 in
set_option maxHeartbeats 1000000 in
theorem Aliases_62 (w : World) : Calls Tryd.prog 29 #[.int .i64 62] w fun e w' => STold w [[73, 66, 77, 56, 53, 50], [67, 80, 56, 53, 50], [56, 53, 50]] e w' := by
  go_enter Tryd.func29, Tryd.ntmps29
  go_wp2_with (go_at_call 33; refine (others_62 _).mono ?_; rintro e w1 ⟨ao, cap, rfl, h2, h3, h4⟩)
  go_ret
  exact ⟨ao, cap, rfl, h2, h3, h4⟩
set_option maxRecDepth 100000 in
set_option maxHeartbeats 1000000 in
theorem Aliases_63 (w : World) : Calls Tryd.prog 29 #[.int .i64 63] w fun e w' => STold w [[73, 66, 77, 56, 53, 53], [67, 80, 56, 53, 53], [56, 53, 53]] e w' := by
  go_enter Tryd.func29, Tryd.ntmps29
  go_wp2_with (go_at_call 33; refine (others_63 _).mono ?_; rintro e w1 ⟨ao, cap, rfl, h2, h3, h4⟩)
  go_ret
  exact ⟨ao, cap, rfl, h2, h3, h4⟩
set_option maxRecDepth 100000 in
set_option maxHeartbeats 1000000 in
theorem Aliases_64 (w : World) : Calls Tryd.prog 29 #[.int .i64 64] w fun e w' => STold w [[73, 66, 77, 56, 54, 54], [67, 80, 56, 54, 54], [56, 54, 54]] e w' := by
  go_enter Tryd.func29, Tryd.ntmps29
  go_wp2_with (go_at_call 33; refine (others_64 _).mono ?_; rintro e w1 ⟨ao, cap, rfl, h2, h3, h4⟩)
  go_ret
  exact ⟨ao, cap, rfl, h2, h3, h4⟩
set_option maxRecDepth 100000 in
set_option maxHeartbeats 1000000 in
theorem Aliases_65 (w : World) : Calls Tryd.prog 29 #[.int .i64 65] w fun e w' => STold w [[77, 65, 67, 73, 78, 84, 79, 83, 72], [77, 65, 67, 82, 79, 77, 65, 78], [77, 65, 67]] e w' := by
  go_enter Tryd.func29, Tryd.ntmps29
  go_wp2_with (go_at_call 33; refine (others_65 _).mono ?_; rintro e w1 ⟨ao, cap, rfl, h2, h3, h4⟩)
  go_ret
  exact ⟨ao, cap, rfl, h2, h3, h4⟩
set_option maxRecDepth 100000 in
set_option maxHeartbeats 1000000 in
theorem Aliases_66 (w : World) : Calls Tryd.prog 29 #[.int .i64 66] w fun e w' => STold w [[77, 65, 67, 67, 89, 82, 73, 76, 76, 73, 67]] e w' := by
  go_enter Tryd.func29, Tryd.ntmps29
  go_wp2_with (go_at_call 33; refine (others_66 _).mono ?_; rintro e w1 ⟨ao, cap, rfl, h2, h3, h4⟩)
  go_ret
  exact ⟨ao, cap, rfl, h2, h3, h4⟩
set_option maxRecDepth 100000 in
set_option maxHeartbeats 1000000 in
theorem Aliases_70 (w : World) : Calls Tryd.prog 29 #[.int .i64 70] w fun e w' => STold w [[73, 66, 77, 48, 51, 55], [67, 80, 48, 51, 55], [69, 66, 67, 68, 73, 67, 45, 67, 80, 45, 85, 83]] e w' := by
  go_enter Tryd.func29, Tryd.ntmps29
  go_wp2_with (go_at_call 33; refine (others_70 _).mono ?_; rintro e w1 ⟨ao, cap, rfl, h2, h3, h4⟩)
  go_ret
  exact ⟨ao, cap, rfl, h2, h3, h4⟩
set_option maxRecDepth 100000 in
set_option maxHeartbeats 1000000 in
theorem Aliases_71 (w : World) : Calls Tryd.prog 29 #[.int .i64 71] w fun e w' => STold w [[73, 66, 77, 53, 48, 48], [67, 80, 53, 48, 48], [69, 66, 67, 68, 73, 67, 45, 67, 80, 45, 66, 69]] e w' := by
  go_enter Tryd.func29, Tryd.ntmps29
  go_wp2_with (go_at_call 33; refine (others_71 _).mono ?_; rintro e w1 ⟨ao, cap, rfl, h2, h3, h4⟩)
  go_ret
  exact ⟨ao, cap, rfl, h2, h3, h4⟩
set_option maxRecDepth 100000 in
set_option maxHeartbeats 1000000 in
theorem Aliases_72 (w : World) : Calls Tryd.prog 29 #[.int .i64 72] w fun e w' => STold w [[73, 66, 77, 49, 48, 50, 54], [67, 80, 49, 48, 50, 54]] e w' := by
  go_enter Tryd.func29, Tryd.ntmps29
  go_wp2_with (go_at_call 33; refine (others_72 _).mono ?_; rintro e w1 ⟨ao, cap, rfl, h2, h3, h4⟩)
  go_ret
  exact ⟨ao, cap, rfl, h2, h3, h4⟩
set_option maxRecDepth 100000 in
set_option maxHeartbeats 1000000 in
theorem Aliases_80 (w : World) : Calls Tryd.prog 29 #[.int .i64 80] w fun e w' => STold w [[74, 73, 83, 95, 88, 48, 50, 48, 49], [74, 73, 83, 88, 48, 50, 48, 49, 45, 49, 57, 55, 54], [88, 48, 50, 48, 49]] e w' := by
  go_enter Tryd.func29, Tryd.ntmps29
  go_wp2_with (go_at_call 33; refine (others_80 _).mono ?_; rintro e w1 ⟨ao, cap, rfl, h2, h3, h4⟩)
  go_ret
  exact ⟨ao, cap, rfl, h2, h3, h4⟩
set_option maxRecDepth 100000 in
set_option maxHeartbeats 1000000 in
theorem Aliases_81 (w : World) : Calls Tryd.prog 29 #[.int .i64 81] w fun e w' => STold w [[69, 85, 67, 45, 74, 80], [69, 85, 67, 74, 80]] e w' := by
  go_enter Tryd.func29, Tryd.ntmps29
  go_wp2_with (go_at_call 33; refine (others_81 _).mono ?_; rintro e w1 ⟨ao, cap, rfl, h2, h3, h4⟩)
  go_ret
  exact ⟨ao, cap, rfl, h2, h3, h4⟩
set_option maxRecDepth 100000 in
set_option maxHeartbeats 1000000 in
theorem Aliases_82 (w : World) : Calls Tryd.prog 29 #[.int .i64 82] w fun e w' => STold w [[83, 72, 73, 70, 84, 95, 74, 73, 83], [83, 72, 73, 70, 84, 45, 74, 73, 83], [83, 74, 73, 83], [77, 83, 95, 75, 65, 78, 74, 73]] e w' := by
  go_enter Tryd.func29, Tryd.ntmps29
  go_wp2_with (go_at_call 33; refine (others_82 _).mono ?_; rintro e w1 ⟨ao, cap, rfl, h2, h3, h4⟩)
  go_ret
  exact ⟨ao, cap, rfl, h2, h3, h4⟩
set_option maxRecDepth 100000 in
set_option maxHeartbeats 1000000 in
theorem Aliases_83 (w : World) : Calls Tryd.prog 29 #[.int .i64 83] w fun e w' => STold w [[73, 83, 79, 45, 50, 48, 50, 50, 45, 74, 80]] e w' := by
  go_enter Tryd.func29, Tryd.ntmps29
  go_wp2_with (go_at_call 33; refine (others_83 _).mono ?_; rintro e w1 ⟨ao, cap, rfl, h2, h3, h4⟩)
  go_ret
  exact ⟨ao, cap, rfl, h2, h3, h4⟩
set_option maxRecDepth 100000 in
set_option maxHeartbeats 1000000 in
theorem Aliases_84 (w : World) : Calls Tryd.prog 29 #[.int .i64 84] w fun e w' => STold w [[69, 85, 67, 45, 67, 78], [69, 85, 67, 67, 78], [71, 66, 50, 51, 49, 50], [67, 78, 45, 71, 66]] e w' := by
  go_enter Tryd.func29, Tryd.ntmps29
  go_wp2_with (go_at_call 33; refine (others_84 _).mono ?_; rintro e w1 ⟨ao, cap, rfl, h2, h3, h4⟩)
  go_ret
  exact ⟨ao, cap, rfl, h2, h3, h4⟩
set_option maxRecDepth 100000 in
set_option maxHeartbeats 1000000 in
theorem Aliases_85 (w : World) : Calls Tryd.prog 29 #[.int .i64 85] w fun e w' => STold w [[72, 90], [72, 90, 45, 71, 66, 45, 50, 51, 49, 50]] e w' := by
  go_enter Tryd.func29, Tryd.ntmps29
  go_wp2_with (go_at_call 33; refine (others_85 _).mono ?_; rintro e w1 ⟨ao, cap, rfl, h2, h3, h4⟩)
  go_ret
  exact ⟨ao, cap, rfl, h2, h3, h4⟩
set_option maxRecDepth 100000 in
set_option maxHeartbeats 1000000 in
theorem Aliases_86 (w : World) : Calls Tryd.prog 29 #[.int .i64 86] w fun e w' => STold w [[69, 85, 67, 45, 75, 82], [69, 85, 67, 75, 82]] e w' := by
  go_enter Tryd.func29, Tryd.ntmps29
  go_wp2_with (go_at_call 33; refine (others_86 _).mono ?_; rintro e w1 ⟨ao, cap, rfl, h2, h3, h4⟩)
  go_ret
  exact ⟨ao, cap, rfl, h2, h3, h4⟩
set_option maxRecDepth 100000 in
set_option maxHeartbeats 1000000 in
theorem Aliases_87 (w : World) : Calls Tryd.prog 29 #[.int .i64 87] w fun e w' => STold w [[74, 79, 72, 65, 66], [67, 80, 49, 51, 54, 49]] e w' := by
  go_enter Tryd.func29, Tryd.ntmps29
  go_wp2_with (go_at_call 33; refine (others_87 _).mono ?_; rintro e w1 ⟨ao, cap, rfl, h2, h3, h4⟩)
  go_ret
  exact ⟨ao, cap, rfl, h2, h3, h4⟩
set_option maxRecDepth 100000 in
set_option maxHeartbeats 1000000 in
theorem Aliases_88 (w : World) : Calls Tryd.prog 29 #[.int .i64 88] w fun e w' => STold w [[73, 83, 79, 45, 50, 48, 50, 50, 45, 75, 82]] e w' := by
  go_enter Tryd.func29, Tryd.ntmps29
  go_wp2_with (go_at_call 33; refine (others_88 _).mono ?_; rintro e w1 ⟨ao, cap, rfl, h2, h3, h4⟩)
  go_ret
  exact ⟨ao, cap, rfl, h2, h3, h4⟩
set_option maxRecDepth 100000 in
set_option maxHeartbeats 1000000 in
theorem Aliases_no1 (k : Int) (h : ∀ n ∈ kdT, ¬ k = (n : Int)) (h1 : decide (k < 20) = false) (h2 : decide (50 ≤ k) = false) (w : World) : Calls Tryd.prog 29 #[.int .i64 k] w fun e w' => STold w [] e w' := by
  have b21 : (k == 21) = false := by simpa using h 21 (by decide)
  have b22 : (k == 22) = false := by simpa using h 22 (by decide)
  have b23 : (k == 23) = false := by simpa using h 23 (by decide)
  have b24 : (k == 24) = false := by simpa using h 24 (by decide)
  have b25 : (k == 25) = false := by simpa using h 25 (by decide)
  have b26 : (k == 26) = false := by simpa using h 26 (by decide)
  have b27 : (k == 27) = false := by simpa using h 27 (by decide)
  have b28 : (k == 28) = false := by simpa using h 28 (by decide)
  have b29 : (k == 29) = false := by simpa using h 29 (by decide)
  have b30 : (k == 30) = false := by simpa using h 30 (by decide)
  have b31 : (k == 31) = false := by simpa using h 31 (by decide)
  have b33 : (k == 33) = false := by simpa using h 33 (by decide)
  have b34 : (k == 34) = false := by simpa using h 34 (by decide)
  have b35 : (k == 35) = false := by simpa using h 35 (by decide)
  have b36 : (k == 36) = false := by simpa using h 36 (by decide)
  have b40 : (k == 40) = false := by simpa using h 40 (by decide)
  have b41 : (k == 41) = false := by simpa using h 41 (by decide)
  clear h
  go_enter Tryd.func29, Tryd.ntmps29
  go_wp2
  go_ret
  exact told_nil w
set_option maxRecDepth 100000 in
set_option maxHeartbeats 1000000 in
theorem Aliases_no2 (k : Int) (h : ∀ n ∈ kdT, ¬ k = (n : Int)) (h1 : decide (k < 20) = true) (w : World) : Calls Tryd.prog 29 #[.int .i64 k] w fun e w' => STold w [] e w' := by
  have a1 := Hid.mk' (others_no k h)
  clear h
  go_enter Tryd.func29, Tryd.ntmps29
  go_wp2_with (go_at_call 33; refine (a1.out _).mono ?_; rintro e w1 ⟨ao, cap, rfl, h2, h3, h4⟩)
  go_ret
  exact ⟨ao, cap, rfl, h2, h3, h4⟩
set_option maxRecDepth 100000 in
set_option maxHeartbeats 1000000 in
theorem Aliases_no3 (k : Int) (h : ∀ n ∈ kdT, ¬ k = (n : Int)) (h1 : decide (k < 20) = false) (h2 : decide (50 ≤ k) = true) (w : World) : Calls Tryd.prog 29 #[.int .i64 k] w fun e w' => STold w [] e w' := by
  have a1 := Hid.mk' (others_no k h)
  clear h
  go_enter Tryd.func29, Tryd.ntmps29
  go_wp2_with (go_at_call 33; refine (a1.out _).mono ?_; rintro e w1 ⟨ao, cap, rfl, h2, h3, h4⟩)
  go_ret
  exact ⟨ao, cap, rfl, h2, h3, h4⟩
theorem aliases_any (k : Int) (w : World) : Calls Tryd.prog 29 #[.int .i64 k] w fun e w' => STold w (al k) e w' := by
  by_cases h : ∃ n ∈ kdT, k = (n : Int)
  · obtain ⟨n, hn, rfl⟩ := h
    have hn2 : n ∈ ([1, 2, 3, 4, 5, 6, 7, 8, 9, 10, 11, 21, 22, 23, 24, 25, 26, 27, 28, 29, 30, 31, 33, 34, 35, 36, 40, 41, 50, 51, 52, 53, 54, 55, 56, 57, 58, 60, 61, 62, 63, 64, 65, 66, 70, 71, 72, 80, 81, 82, 83, 84, 85, 86, 87, 88] : List Nat) := hn
    simp only [List.mem_cons, List.not_mem_nil, or_false] at hn2
    rcases hn2 with rfl | rfl | rfl | rfl | rfl | rfl | rfl | rfl | rfl | rfl | rfl | rfl | rfl | rfl | rfl | rfl | rfl | rfl | rfl | rfl | rfl | rfl | rfl | rfl | rfl | rfl | rfl | rfl | rfl | rfl | rfl | rfl | rfl | rfl | rfl | rfl | rfl | rfl | rfl | rfl | rfl | rfl | rfl | rfl | rfl | rfl | rfl | rfl | rfl | rfl | rfl | rfl | rfl | rfl | rfl | rfl
    · exact Aliases_1 w
    · exact Aliases_2 w
    · exact Aliases_3 w
    · exact Aliases_4 w
    · exact Aliases_5 w
    · exact Aliases_6 w
    · exact Aliases_7 w
    · exact Aliases_8 w
    · exact Aliases_9 w
    · exact Aliases_10 w
    · exact Aliases_11 w
    · exact Aliases_21 w
    · exact Aliases_22 w
    · exact Aliases_23 w
    · exact Aliases_24 w
    · exact Aliases_25 w
    · exact Aliases_26 w
    · exact Aliases_27 w
    · exact Aliases_28 w
    · exact Aliases_29 w
    · exact Aliases_30 w
    · exact Aliases_31 w
    · exact Aliases_33 w
    · exact Aliases_34 w
    · exact Aliases_35 w
    · exact Aliases_36 w
    · exact Aliases_40 w
    · exact Aliases_41 w
    · exact Aliases_50 w
    · exact Aliases_51 w
    · exact Aliases_52 w
    · exact Aliases_53 w
    · exact Aliases_54 w
    · exact Aliases_55 w
    · exact Aliases_56 w
    · exact Aliases_57 w
    · exact Aliases_58 w
    · exact Aliases_60 w
    · exact Aliases_61 w
    · exact Aliases_62 w
    · exact Aliases_63 w
    · exact Aliases_64 w
    · exact Aliases_65 w
    · exact Aliases_66 w
    · exact Aliases_70 w
    · exact Aliases_71 w
    · exact Aliases_72 w
    · exact Aliases_80 w
    · exact Aliases_81 w
    · exact Aliases_82 w
    · exact Aliases_83 w
    · exact Aliases_84 w
    · exact Aliases_85 w
    · exact Aliases_86 w
    · exact Aliases_87 w
    · exact Aliases_88 w
  · have h0 : ∀ n ∈ kdT, ¬ k = (n : Int) := fun n hn e => h ⟨n, hn, e⟩
    rw [al_none (fun p hp e => h0 p.1 (List.mem_map.2 ⟨p, hp, rfl⟩) e.symm)]
    by_cases h1 : k < 20
    · exact Aliases_no2 k h0 (by simpa using h1) w
    · by_cases h2 : 50 ≤ k
      · exact Aliases_no3 k h0 (by simpa using h1) (by simpa using h2) w
      · exact Aliases_no1 k h0 (by simpa using h1) (by simpa using h2) w
end Go.Proofs.YtljkncgbabiojaaDoor.C23
