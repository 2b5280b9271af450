/- The program's Lookup of layer 23: walks. -/
import Derived.Test.YtljkncgbabiojaaDoorPF23
import Derived.Test.YtljkncgbabiojaaDoorPK23
namespace Go.Proofs.YtljkncgbabiojaaDoor.C23
open Go.ChangeShapes Go.WideShapes Go.ChangeAt Go.RowKit Go.Proofs.YtljkncgbabiojaaDoor.Mem Go.Proofs.YtljkncgbabiojaaDoor.El Go.Proofs.YtljkncgbabiojaaDoor.St Go.Proofs.YtljkncgbabiojaaDoor.Ri Go.Proofs.YtljkncgbabiojaaDoor.Sx Go.Proofs.YtljkncgbabiojaaDoor.Cb
set_option linter.unusedVariables false
set_option linter.unusedSimpArgs false

theorem ts9 (v : Value) (w : World) : (Instr.typeAssert (.iface 9 v) 20 9 true).run Tryd.prog w = .ok (.tuple #[v, .bool true]) w := by kernel_rfl
set_option maxRecDepth 100000 in
set_option maxHeartbeats 1000000 in
theorem xs9 (x : ByteArray) (w : World) : Calls Tryd.prog 23 #[.iface 9 (.string x)] w fun e w' => e = .returned (.tuple #[.string x, .bool true]) ∧ w' = w := by
  have t1 := ts9 (.string x) w
  go_enter Tryd.func23, Tryd.ntmps23
  go_wp2
  exact bodyPost_ret (v := .tuple #[.string x, .bool true]) (by simp [results, Tryd.results23, go_sem]) rfl ⟨rfl, rfl⟩
set_option maxRecDepth 100000 in
set_option maxHeartbeats 1000000 in
theorem pLooks (s : List UInt8) (hs : s.length ≤ 140737488351232) (X Y : Int) (hX : Hid ((fd s : Int) = X ∧ lkE (fd s) = Y)) (w : World) : Calls Tryd.prog 13 #[.iface 9 (.string (str s))] w fun e w' => e = .returned (.tuple #[.int .i64 X, .int .i64 Y]) ∧ w.grownBy w' none := by
  have a1 := Hid.mk' (pNamed s hs X Y hX)
  obtain ⟨st, hst⟩ : ∃ x, str s = x := ⟨_, rfl⟩
  rw [hst] at a1
  rw [hst]
  have a2 := Hid.mk' (xs9 st)
  clear hst hX
  go_enter Tryd.func13, Tryd.ntmps13
  go_wp2_with (first
    | (go_at_call 23; refine (a2.out _).mono ?_; rintro e w1 ⟨rfl, rfl⟩)
    | (go_at_call 16; refine (a1.out _).mono ?_; rintro e w2 ⟨rfl, hg⟩))
  exact bodyPost_ret (v := .tuple #[.int .i64 X, .int .i64 Y]) (by simp [results, Tryd.results13, go_sem]) rfl ⟨rfl, hg⟩
end Go.Proofs.YtljkncgbabiojaaDoor.C23
