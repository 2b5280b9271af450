/- The program's Lookup of layer 23: walks. -/
import Derived.Test.YtljkncgbabiojaaPF23
import Derived.Test.YtljkncgbabiojaaPK23
namespace Go.Proofs.Ytljkncgbabiojaa.C23
open Go.ChangeShapes Go.WideShapes Go.ChangeAt Go.RowKit Go.Proofs.Ytljkncgbabiojaa.Mem Go.Proofs.Ytljkncgbabiojaa.El Go.Proofs.Ytljkncgbabiojaa.St Go.Proofs.Ytljkncgbabiojaa.Ri Go.Proofs.Ytljkncgbabiojaa.Sx Go.Proofs.Ytljkncgbabiojaa.Cb
set_option linter.unusedVariables false
set_option linter.unusedSimpArgs false

theorem ts9 (v : Value) (w : World) : (Instr.typeAssert (.iface 9 v) 20 9 true).run Try.prog w = .ok (.tuple #[v, .bool true]) w := by kernel_rfl
theorem ts3 (v : Value) (w : World) : (Instr.typeAssert (.iface 3 v) 20 9 true).run Try.prog w = .ok (.tuple #[.string ⟨#[]⟩, .bool false]) w := by kernel_rfl
theorem tn3 (v : Value) (w : World) : (Instr.typeAssert (.iface 3 v) 20 3 true).run Try.prog w = .ok (.tuple #[v, .bool true]) w := by kernel_rfl
theorem tsn (w : World) : (Instr.typeAssert .nilIface 20 9 true).run Try.prog w = .ok (.tuple #[.string ⟨#[]⟩, .bool false]) w := by kernel_rfl
theorem tnn (w : World) : (Instr.typeAssert .nilIface 20 3 true).run Try.prog w = .ok (.tuple #[.int .i64 0, .bool false]) w := by kernel_rfl
theorem ts4 (v : Value) (w : World) : (Instr.typeAssert (.iface 4 v) 20 9 true).run Try.prog w = .ok (.tuple #[.string ⟨#[]⟩, .bool false]) w := by kernel_rfl
theorem tn4 (v : Value) (w : World) : (Instr.typeAssert (.iface 4 v) 20 3 true).run Try.prog w = .ok (.tuple #[.int .i64 0, .bool false]) w := by kernel_rfl
theorem tsf (v : Value) (w : World) : (Instr.typeAssert (.iface 29 v) 20 9 true).run Try.prog w = .ok (.tuple #[.string ⟨#[]⟩, .bool false]) w := by kernel_rfl
theorem tnf (v : Value) (w : World) : (Instr.typeAssert (.iface 29 v) 20 3 true).run Try.prog w = .ok (.tuple #[.int .i64 0, .bool false]) w := by kernel_rfl
theorem ts2 (v : Value) (w : World) : (Instr.typeAssert (.iface 2 v) 20 9 true).run Try.prog w = .ok (.tuple #[.string ⟨#[]⟩, .bool false]) w := by kernel_rfl
theorem tn2 (v : Value) (w : World) : (Instr.typeAssert (.iface 2 v) 20 3 true).run Try.prog w = .ok (.tuple #[.int .i64 0, .bool false]) w := by kernel_rfl
set_option maxRecDepth 100000 in
set_option maxHeartbeats 1000000 in
theorem xs9 (x : ByteArray) (w : World) : Calls Try.prog 17 #[.iface 9 (.string x)] w fun e w' => e = .returned (.tuple #[.string x, .bool true]) ∧ w' = w := by
  have t1 := ts9 (.string x) w
  go_enter Try.func17, Try.ntmps17
  go_wp2
  exact bodyPost_ret (v := .tuple #[.string x, .bool true]) (by simp [results, Try.results17, go_sem]) rfl ⟨rfl, rfl⟩
set_option maxRecDepth 100000 in
set_option maxHeartbeats 1000000 in
theorem xs3 (x : Int) (w : World) : Calls Try.prog 17 #[.iface 3 (.int .i64 x)] w fun e w' => e = .returned (.tuple #[.string ⟨#[]⟩, .bool false]) ∧ w' = w := by
  have t1 := ts3 (.int .i64 x) w
  go_enter Try.func17, Try.ntmps17
  go_wp2
  exact bodyPost_ret (v := .tuple #[.string ⟨#[]⟩, .bool false]) (by simp [results, Try.results17, go_sem]) rfl ⟨rfl, rfl⟩
set_option maxRecDepth 100000 in
set_option maxHeartbeats 1000000 in
theorem xn3 (x : Int) (w : World) : Calls Try.prog 19 #[.iface 3 (.int .i64 x)] w fun e w' => e = .returned (.tuple #[.int .i64 x, .bool true]) ∧ w' = w := by
  have t1 := tn3 (.int .i64 x) w
  go_enter Try.func19, Try.ntmps19
  go_wp2
  exact bodyPost_ret (v := .tuple #[.int .i64 x, .bool true]) (by simp [results, Try.results19, go_sem]) rfl ⟨rfl, rfl⟩
set_option maxRecDepth 100000 in
set_option maxHeartbeats 1000000 in
theorem xsn (w : World) : Calls Try.prog 17 #[.nilIface] w fun e w' => e = .returned (.tuple #[.string ⟨#[]⟩, .bool false]) ∧ w' = w := by
  have t1 := tsn w
  go_enter Try.func17, Try.ntmps17
  go_wp2
  exact bodyPost_ret (v := .tuple #[.string ⟨#[]⟩, .bool false]) (by simp [results, Try.results17, go_sem]) rfl ⟨rfl, rfl⟩
set_option maxRecDepth 100000 in
set_option maxHeartbeats 1000000 in
theorem xnn (w : World) : Calls Try.prog 19 #[.nilIface] w fun e w' => e = .returned (.tuple #[.int .i64 0, .bool false]) ∧ w' = w := by
  have t1 := tnn w
  go_enter Try.func19, Try.ntmps19
  go_wp2
  exact bodyPost_ret (v := .tuple #[.int .i64 0, .bool false]) (by simp [results, Try.results19, go_sem]) rfl ⟨rfl, rfl⟩
set_option maxRecDepth 100000 in
set_option maxHeartbeats 1000000 in
theorem xs4 (x : Value) (w : World) : Calls Try.prog 17 #[.iface 4 x] w fun e w' => e = .returned (.tuple #[.string ⟨#[]⟩, .bool false]) ∧ w' = w := by
  have t1 := ts4 x w
  go_enter Try.func17, Try.ntmps17
  go_wp2
  exact bodyPost_ret (v := .tuple #[.string ⟨#[]⟩, .bool false]) (by simp [results, Try.results17, go_sem]) rfl ⟨rfl, rfl⟩
set_option maxRecDepth 100000 in
set_option maxHeartbeats 1000000 in
theorem xn4 (x : Value) (w : World) : Calls Try.prog 19 #[.iface 4 x] w fun e w' => e = .returned (.tuple #[.int .i64 0, .bool false]) ∧ w' = w := by
  have t1 := tn4 x w
  go_enter Try.func19, Try.ntmps19
  go_wp2
  exact bodyPost_ret (v := .tuple #[.int .i64 0, .bool false]) (by simp [results, Try.results19, go_sem]) rfl ⟨rfl, rfl⟩
set_option maxRecDepth 100000 in
set_option maxHeartbeats 1000000 in
theorem xsf (x : Value) (w : World) : Calls Try.prog 17 #[.iface 29 x] w fun e w' => e = .returned (.tuple #[.string ⟨#[]⟩, .bool false]) ∧ w' = w := by
  have t1 := tsf x w
  go_enter Try.func17, Try.ntmps17
  go_wp2
  exact bodyPost_ret (v := .tuple #[.string ⟨#[]⟩, .bool false]) (by simp [results, Try.results17, go_sem]) rfl ⟨rfl, rfl⟩
set_option maxRecDepth 100000 in
set_option maxHeartbeats 1000000 in
theorem xnf (x : Value) (w : World) : Calls Try.prog 19 #[.iface 29 x] w fun e w' => e = .returned (.tuple #[.int .i64 0, .bool false]) ∧ w' = w := by
  have t1 := tnf x w
  go_enter Try.func19, Try.ntmps19
  go_wp2
  exact bodyPost_ret (v := .tuple #[.int .i64 0, .bool false]) (by simp [results, Try.results19, go_sem]) rfl ⟨rfl, rfl⟩
set_option maxRecDepth 100000 in
set_option maxHeartbeats 1000000 in
theorem xs2 (x : Value) (w : World) : Calls Try.prog 17 #[.iface 2 x] w fun e w' => e = .returned (.tuple #[.string ⟨#[]⟩, .bool false]) ∧ w' = w := by
  have t1 := ts2 x w
  go_enter Try.func17, Try.ntmps17
  go_wp2
  exact bodyPost_ret (v := .tuple #[.string ⟨#[]⟩, .bool false]) (by simp [results, Try.results17, go_sem]) rfl ⟨rfl, rfl⟩
set_option maxRecDepth 100000 in
set_option maxHeartbeats 1000000 in
theorem xn2 (x : Value) (w : World) : Calls Try.prog 19 #[.iface 2 x] w fun e w' => e = .returned (.tuple #[.int .i64 0, .bool false]) ∧ w' = w := by
  have t1 := tn2 x w
  go_enter Try.func19, Try.ntmps19
  go_wp2
  exact bodyPost_ret (v := .tuple #[.int .i64 0, .bool false]) (by simp [results, Try.results19, go_sem]) rfl ⟨rfl, rfl⟩
set_option maxRecDepth 100000 in
set_option maxHeartbeats 1000000 in
theorem pLooks (s : List UInt8) (hs : s.length ≤ 140737488351232) (X Y : Int) (hX : Hid ((fd s : Int) = X ∧ lkE (fd s) = Y)) (w : World) : Calls Try.prog 13 #[.iface 9 (.string (str s))] w fun e w' => e = .returned (.tuple #[.int .i64 X, .int .i64 Y]) ∧ w.grownBy w' none := by
  have a1 := Hid.mk' (pNamed s hs X Y hX)
  obtain ⟨st, hst⟩ : ∃ x, str s = x := ⟨_, rfl⟩
  rw [hst] at a1
  rw [hst]
  have a2 := Hid.mk' (xs9 st)
  clear hst hX
  go_enter Try.func13, Try.ntmps13
  go_wp2_with (first
    | (go_at_call 17; refine (a2.out _).mono ?_; rintro e w1 ⟨rfl, rfl⟩)
    | (go_at_call 18; refine (a1.out _).mono ?_; rintro e w2 ⟨rfl, hg⟩))
  exact bodyPost_ret (v := .tuple #[.int .i64 X, .int .i64 Y]) (by simp [results, Try.results13, go_sem]) rfl ⟨rfl, hg⟩
set_option maxRecDepth 100000 in
set_option maxHeartbeats 1000000 in
theorem pLookn_a (n : Int) (hn : nm n = []) (w : World) : Calls Try.prog 13 #[.iface 3 (.int .i64 n)] w fun e w' => e = .returned (.tuple #[.int .i64 0, .int .i64 5]) ∧ w.grownBy w' none := by
  have a1 := pNumb n
  unfold nbV at a1
  rw [if_pos hn] at a1
  have a3 := Hid.mk' a1
  have a2 := Hid.mk' (xs3 n)
  have a4 := Hid.mk' (xn3 n)
  clear hn a1
  go_enter Try.func13, Try.ntmps13
  go_wp2_with (first
    | (go_at_call 17; refine (a2.out _).mono ?_; rintro e w1 ⟨rfl, rfl⟩)
    | (go_at_call 19; refine (a4.out _).mono ?_; rintro e w1 ⟨rfl, rfl⟩)
    | (go_at_call 20; refine (a3.out _).mono ?_; rintro e w2 ⟨rfl, hg⟩))
  exact bodyPost_ret (v := .tuple #[.int .i64 0, .int .i64 5]) (by simp [results, Try.results13, go_sem]) rfl ⟨rfl, hg⟩
set_option maxRecDepth 100000 in
set_option maxHeartbeats 1000000 in
theorem pLookn_b (n : Int) (hn : nm n ≠ []) (w : World) : Calls Try.prog 13 #[.iface 3 (.int .i64 n)] w fun e w' => e = .returned (.tuple #[.int .i64 n, .int .i64 0]) ∧ w.grownBy w' none := by
  have a1 := pNumb n
  unfold nbV at a1
  rw [if_neg hn] at a1
  have a3 := Hid.mk' a1
  have a2 := Hid.mk' (xs3 n)
  have a4 := Hid.mk' (xn3 n)
  clear hn a1
  go_enter Try.func13, Try.ntmps13
  go_wp2_with (first
    | (go_at_call 17; refine (a2.out _).mono ?_; rintro e w1 ⟨rfl, rfl⟩)
    | (go_at_call 19; refine (a4.out _).mono ?_; rintro e w1 ⟨rfl, rfl⟩)
    | (go_at_call 20; refine (a3.out _).mono ?_; rintro e w2 ⟨rfl, hg⟩))
  exact bodyPost_ret (v := .tuple #[.int .i64 n, .int .i64 0]) (by simp [results, Try.results13, go_sem]) rfl ⟨rfl, hg⟩
set_option maxRecDepth 100000 in
set_option maxHeartbeats 1000000 in
theorem pLook_n (w : World) : Calls Try.prog 13 #[.nilIface] w fun e w' => e = .returned (.tuple #[.int .i64 0, .int .i64 3]) ∧ w.grownBy w' none := by
  have a2 := Hid.mk' (xsn)
  have a4 := Hid.mk' (xnn)
  go_enter Try.func13, Try.ntmps13
  go_wp2_with (first
    | (go_at_call 17; refine (a2.out _).mono ?_; rintro e w1 ⟨rfl, rfl⟩)
    | (go_at_call 19; refine (a4.out _).mono ?_; rintro e w1 ⟨rfl, rfl⟩))
  exact bodyPost_ret (v := .tuple #[.int .i64 0, .int .i64 3]) (by simp [results, Try.results13, go_sem]) rfl ⟨rfl, grownBy_refl _ _⟩
set_option maxRecDepth 100000 in
set_option maxHeartbeats 1000000 in
theorem pLook_4 (x : Value) (w : World) : Calls Try.prog 13 #[.iface 4 x] w fun e w' => e = .returned (.tuple #[.int .i64 0, .int .i64 3]) ∧ w.grownBy w' none := by
  have a2 := Hid.mk' (xs4 x)
  have a4 := Hid.mk' (xn4 x)
  go_enter Try.func13, Try.ntmps13
  go_wp2_with (first
    | (go_at_call 17; refine (a2.out _).mono ?_; rintro e w1 ⟨rfl, rfl⟩)
    | (go_at_call 19; refine (a4.out _).mono ?_; rintro e w1 ⟨rfl, rfl⟩))
  exact bodyPost_ret (v := .tuple #[.int .i64 0, .int .i64 3]) (by simp [results, Try.results13, go_sem]) rfl ⟨rfl, grownBy_refl _ _⟩
set_option maxRecDepth 100000 in
set_option maxHeartbeats 1000000 in
theorem pLook_f (x : Value) (w : World) : Calls Try.prog 13 #[.iface 29 x] w fun e w' => e = .returned (.tuple #[.int .i64 0, .int .i64 3]) ∧ w.grownBy w' none := by
  have a2 := Hid.mk' (xsf x)
  have a4 := Hid.mk' (xnf x)
  go_enter Try.func13, Try.ntmps13
  go_wp2_with (first
    | (go_at_call 17; refine (a2.out _).mono ?_; rintro e w1 ⟨rfl, rfl⟩)
    | (go_at_call 19; refine (a4.out _).mono ?_; rintro e w1 ⟨rfl, rfl⟩))
  exact bodyPost_ret (v := .tuple #[.int .i64 0, .int .i64 3]) (by simp [results, Try.results13, go_sem]) rfl ⟨rfl, grownBy_refl _ _⟩
set_option maxRecDepth 100000 in
set_option maxHeartbeats 1000000 in
theorem pLook_2 (x : Value) (w : World) : Calls Try.prog 13 #[.iface 2 x] w fun e w' => e = .returned (.tuple #[.int .i64 0, .int .i64 3]) ∧ w.grownBy w' none := by
  have a2 := Hid.mk' (xs2 x)
  have a4 := Hid.mk' (xn2 x)
  go_enter Try.func13, Try.ntmps13
  go_wp2_with (first
    | (go_at_call 17; refine (a2.out _).mono ?_; rintro e w1 ⟨rfl, rfl⟩)
    | (go_at_call 19; refine (a4.out _).mono ?_; rintro e w1 ⟨rfl, rfl⟩))
  exact bodyPost_ret (v := .tuple #[.int .i64 0, .int .i64 3]) (by simp [results, Try.results13, go_sem]) rfl ⟨rfl, grownBy_refl _ _⟩
theorem con : Con (fun _ => True) where
  keep _ _ := trivial
  alias k hk w _ := pAlias k w
  name k hk w _ := pName k w
  kinds w _ := pKinds w
  looks s hs w _ := pLooks s hs _ _ (Hid.mk' ⟨rfl, rfl⟩) w
  lookn n hn w _ := by
    by_cases h : nm n = []
    · rw [if_pos h]; exact pLookn_a n h w
    · rw [if_neg h]; exact pLookn_b n h w
  looke v hv w _ := by
    rcases hv with rfl | ⟨T, x, hT, rfl⟩
    · exact pLook_n w
    · rcases hT with rfl | rfl | rfl
      · exact pLook_4 x w
      · exact pLook_f x w
      · exact pLook_2 x w
end Go.Proofs.Ytljkncgbabiojaa.C23
