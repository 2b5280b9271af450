/- NamesLooks, NamesParts: walks. -/
import Derived.Test.YtljkncgbabiojaaNW23
import Derived.Test.YtljkncgbabiojaaRegion
import Derived.Deep.RegionHeld3
import Derived.BigQuiet
namespace Go.Proofs.Ytljkncgbabiojaa.C23
open Go.ChangeShapes Go.WideShapes Go.ChangeAt Go.RowKit Go.Proofs.Ytljkncgbabiojaa.Mem Go.Proofs.Ytljkncgbabiojaa.El Go.Proofs.Ytljkncgbabiojaa.St Go.Proofs.Ytljkncgbabiojaa.Ri Go.Proofs.Ytljkncgbabiojaa.Sx Go.Proofs.Ytljkncgbabiojaa.Cb Go.Proofs.Ytljkncgbabiojaa.Ar
set_option linter.unusedVariables false
set_option linter.unusedSimpArgs false

set_option maxRecDepth 100000 in
set_option maxHeartbeats 2000000 in
theorem looks_aa {P : World → Prop} (C : Con P) (s : List UInt8) (hs : s.length ≤ 140737488351232) (n : Int) (hn64 : I64 n) (b : Bool) (fv : Value) (hK : fd s = 0) (hn : nm n = []) (w : World) (hw : P w) : Calls Try.prog 4 #[.string (str s), .int .i64 n, .bool b, fv] w fun e w' => e = .returned (.bool true) ∧ w.grownBy w' none := by
  have a1 : Hid (∀ w, Calls Try.prog 12 #[.string (str s)] w fun e w' => e = .returned (.int .i64 0) ∧ w.grownBy w' none) := Hid.mk' (fun w => by
    have h := find_any s hs w
    rw [hK] at h
    exact h)
  have a2 : Hid (∀ w, P w → Calls Try.prog 13 #[.iface 9 (.string (str s))] w fun e w' => e = .returned (.tuple #[.int .i64 0, .int .i64 20]) ∧ w.grownBy w' none) := Hid.mk' (fun w hw => by
    have h := C.looks s hs w hw
    rw [hK] at h
    exact h)
  have a3 : Hid (∀ w, P w → Calls Try.prog 13 #[.iface 3 (.int .i64 n)] w fun e w' => e = .returned (.tuple #[.int .i64 0, .int .i64 5]) ∧ w.grownBy w' none) := Hid.mk' (fun w hw => by
    have h := C.lookn n hn64 w hw
    rw [if_pos hn] at h
    exact h)
  obtain ⟨ns, hns⟩ : ∃ x, Hid (str (nm n) = x) := ⟨_, Hid.mk' rfl⟩
  have a4 : Hid (∀ w, Calls Try.prog 9 #[.int .i64 n] w fun e w' => e = .returned (.string ns) ∧ w.grownBy w' none) := Hid.mk' (fun w => by
    have h := name_any n w
    rw [hns.out] at h
    exact h)
  have f3 : ns.toList.isEmpty = true := by rw [← hns.out, str_toList, hn]; rfl
  have K := Hid.mk' (fun (a b : World) (h : P a) (g : a.grownBy b none) => C.keep h g)
  have hq := Hid.mk' hw
  have b1 : Hid (∀ w, P w → Calls Try.prog 13 #[.iface 4 (.bool b)] w fun e w' => e = .returned (.tuple #[.int .i64 0, .int .i64 3]) ∧ w.grownBy w' none) := Hid.mk' (fun w hw => C.looke _ (.inr ⟨4, _, .inl rfl, rfl⟩) w hw)
  have b2 : Hid (∀ w, P w → Calls Try.prog 13 #[.iface 29 fv] w fun e w' => e = .returned (.tuple #[.int .i64 0, .int .i64 3]) ∧ w.grownBy w' none) := Hid.mk' (fun w hw => C.looke _ (.inr ⟨_, _, .inr (.inl rfl), rfl⟩) w hw)
  have b3 : Hid (∀ w, P w → Calls Try.prog 13 #[.nilIface] w fun e w' => e = .returned (.tuple #[.int .i64 0, .int .i64 3]) ∧ w.grownBy w' none) := Hid.mk' (fun w hw => C.looke _ (.inl rfl) w hw)
  have b4 : Hid (∀ w, P w → Calls Try.prog 13 #[.iface 2 (.int .i64 n)] w fun e w' => e = .returned (.tuple #[.int .i64 0, .int .i64 3]) ∧ w.grownBy w' none) := Hid.mk' (fun w hw => C.looke _ (.inr ⟨2, _, .inr (.inr rfl), rfl⟩) w hw)
  obtain ⟨st, hst⟩ : ∃ x, str s = x := ⟨_, rfl⟩
  rw [hst] at a1 a2
  rw [hst]
  clear C hw hK hn hns hst
  go_enter Try.func4, Try.ntmps4
  go_upto_region 3 with (first
    | (go_at_call 12; refine (a1.out _).mono ?_; rintro e w1 ⟨rfl, hg1⟩; have hP1 := Hid.mk' (K.out _ _ hq.out hg1))
    | (go_at_call 13; refine (a2.out _ hP1.out).mono ?_; rintro e w2 ⟨rfl, hg2⟩; have hP2 := Hid.mk' (K.out _ _ hP1.out hg2)))
  go_upto_region 6 with (go_at_call 13; refine (a3.out _ hP2.out).mono ?_; rintro e w3 ⟨rfl, hg3⟩; have hP3 := Hid.mk' (K.out _ _ hP2.out hg3))
  go_upto_region 11 with (go_at_call 9; refine (a4.out _).mono ?_; rintro e w4 ⟨rfl, hg4⟩; have hP4 := Hid.mk' (K.out _ _ hP3.out hg4))
  go_upto_region 12 with (go_at_call 13; refine (b1.out _ hP4.out).mono ?_; rintro e w5 ⟨rfl, hg5⟩; have hP5 := Hid.mk' (K.out _ _ hP4.out hg5))
  go_upto_region 13 with (go_at_call 13; refine (b2.out _ hP5.out).mono ?_; rintro e w6 ⟨rfl, hg6⟩; have hP6 := Hid.mk' (K.out _ _ hP5.out hg6))
  go_upto_region 14 with (go_at_call 13; refine (b3.out _ hP6.out).mono ?_; rintro e w7 ⟨rfl, hg7⟩; have hP7 := Hid.mk' (K.out _ _ hP6.out hg7))
  go_upto_region 15 with (go_at_call 13; refine (b4.out _ hP7.out).mono ?_; rintro e w8 ⟨rfl, hg8⟩)
  go_wp2
  go_ret
  exact ⟨rfl, gt hg1 (gt hg2 (gt hg3 (gt hg4 (gt hg5 (gt hg6 (gt hg7 hg8))))))⟩
set_option maxRecDepth 100000 in
set_option maxHeartbeats 2000000 in
theorem looks_ab {P : World → Prop} (C : Con P) (s : List UInt8) (hs : s.length ≤ 140737488351232) (n : Int) (hn64 : I64 n) (b : Bool) (fv : Value) (hK : fd s = 0) (hn : nm n ≠ []) (w : World) (hw : P w) : Calls Try.prog 4 #[.string (str s), .int .i64 n, .bool b, fv] w fun e w' => e = .returned (.bool true) ∧ w.grownBy w' none := by
  have a1 : Hid (∀ w, Calls Try.prog 12 #[.string (str s)] w fun e w' => e = .returned (.int .i64 0) ∧ w.grownBy w' none) := Hid.mk' (fun w => by
    have h := find_any s hs w
    rw [hK] at h
    exact h)
  have a2 : Hid (∀ w, P w → Calls Try.prog 13 #[.iface 9 (.string (str s))] w fun e w' => e = .returned (.tuple #[.int .i64 0, .int .i64 20]) ∧ w.grownBy w' none) := Hid.mk' (fun w hw => by
    have h := C.looks s hs w hw
    rw [hK] at h
    exact h)
  have a3 : Hid (∀ w, P w → Calls Try.prog 13 #[.iface 3 (.int .i64 n)] w fun e w' => e = .returned (.tuple #[.int .i64 n, .int .i64 0]) ∧ w.grownBy w' none) := Hid.mk' (fun w hw => by
    have h := C.lookn n hn64 w hw
    rw [if_neg hn] at h
    exact h)
  obtain ⟨ns, hns⟩ : ∃ x, Hid (str (nm n) = x) := ⟨_, Hid.mk' rfl⟩
  have a4 : Hid (∀ w, Calls Try.prog 9 #[.int .i64 n] w fun e w' => e = .returned (.string ns) ∧ w.grownBy w' none) := Hid.mk' (fun w => by
    have h := name_any n w
    rw [hns.out] at h
    exact h)
  have f3 : ns.toList.isEmpty = false := by rw [← hns.out, str_toList]; simpa using hn
  have K := Hid.mk' (fun (a b : World) (h : P a) (g : a.grownBy b none) => C.keep h g)
  have hq := Hid.mk' hw
  have b1 : Hid (∀ w, P w → Calls Try.prog 13 #[.iface 4 (.bool b)] w fun e w' => e = .returned (.tuple #[.int .i64 0, .int .i64 3]) ∧ w.grownBy w' none) := Hid.mk' (fun w hw => C.looke _ (.inr ⟨4, _, .inl rfl, rfl⟩) w hw)
  have b2 : Hid (∀ w, P w → Calls Try.prog 13 #[.iface 29 fv] w fun e w' => e = .returned (.tuple #[.int .i64 0, .int .i64 3]) ∧ w.grownBy w' none) := Hid.mk' (fun w hw => C.looke _ (.inr ⟨_, _, .inr (.inl rfl), rfl⟩) w hw)
  have b3 : Hid (∀ w, P w → Calls Try.prog 13 #[.nilIface] w fun e w' => e = .returned (.tuple #[.int .i64 0, .int .i64 3]) ∧ w.grownBy w' none) := Hid.mk' (fun w hw => C.looke _ (.inl rfl) w hw)
  have b4 : Hid (∀ w, P w → Calls Try.prog 13 #[.iface 2 (.int .i64 n)] w fun e w' => e = .returned (.tuple #[.int .i64 0, .int .i64 3]) ∧ w.grownBy w' none) := Hid.mk' (fun w hw => C.looke _ (.inr ⟨2, _, .inr (.inr rfl), rfl⟩) w hw)
  obtain ⟨st, hst⟩ : ∃ x, str s = x := ⟨_, rfl⟩
  rw [hst] at a1 a2
  rw [hst]
  clear C hw hK hn hns hst
  go_enter Try.func4, Try.ntmps4
  go_upto_region 3 with (first
    | (go_at_call 12; refine (a1.out _).mono ?_; rintro e w1 ⟨rfl, hg1⟩; have hP1 := Hid.mk' (K.out _ _ hq.out hg1))
    | (go_at_call 13; refine (a2.out _ hP1.out).mono ?_; rintro e w2 ⟨rfl, hg2⟩; have hP2 := Hid.mk' (K.out _ _ hP1.out hg2)))
  go_upto_region 6 with (go_at_call 13; refine (a3.out _ hP2.out).mono ?_; rintro e w3 ⟨rfl, hg3⟩; have hP3 := Hid.mk' (K.out _ _ hP2.out hg3))
  go_upto_region 11 with (go_at_call 9; refine (a4.out _).mono ?_; rintro e w4 ⟨rfl, hg4⟩; have hP4 := Hid.mk' (K.out _ _ hP3.out hg4))
  go_upto_region 12 with (go_at_call 13; refine (b1.out _ hP4.out).mono ?_; rintro e w5 ⟨rfl, hg5⟩; have hP5 := Hid.mk' (K.out _ _ hP4.out hg5))
  go_upto_region 13 with (go_at_call 13; refine (b2.out _ hP5.out).mono ?_; rintro e w6 ⟨rfl, hg6⟩; have hP6 := Hid.mk' (K.out _ _ hP5.out hg6))
  go_upto_region 14 with (go_at_call 13; refine (b3.out _ hP6.out).mono ?_; rintro e w7 ⟨rfl, hg7⟩; have hP7 := Hid.mk' (K.out _ _ hP6.out hg7))
  go_upto_region 15 with (go_at_call 13; refine (b4.out _ hP7.out).mono ?_; rintro e w8 ⟨rfl, hg8⟩)
  go_wp2
  go_ret
  exact ⟨rfl, gt hg1 (gt hg2 (gt hg3 (gt hg4 (gt hg5 (gt hg6 (gt hg7 hg8))))))⟩
set_option maxRecDepth 100000 in
set_option maxHeartbeats 2000000 in
theorem looks_ba {P : World → Prop} (C : Con P) (s : List UInt8) (hs : s.length ≤ 140737488351232) (n : Int) (hn64 : I64 n) (b : Bool) (fv : Value) (m : Nat) (hK : fd s = m + 1) (hn : nm n = []) (w : World) (hw : P w) : Calls Try.prog 4 #[.string (str s), .int .i64 n, .bool b, fv] w fun e w' => e = .returned (.bool true) ∧ w.grownBy w' none := by
  have a1 : Hid (∀ w, Calls Try.prog 12 #[.string (str s)] w fun e w' => e = .returned (.int .i64 ((m : Int) + 1)) ∧ w.grownBy w' none) := Hid.mk' (fun w => by
    have h := find_any s hs w
    rw [hK] at h
    exact h)
  have a2 : Hid (∀ w, P w → Calls Try.prog 13 #[.iface 9 (.string (str s))] w fun e w' => e = .returned (.tuple #[.int .i64 ((m : Int) + 1), .int .i64 0]) ∧ w.grownBy w' none) := Hid.mk' (fun w hw => by
    have h := C.looks s hs w hw
    rw [hK] at h
    exact h)
  have a3 : Hid (∀ w, P w → Calls Try.prog 13 #[.iface 3 (.int .i64 n)] w fun e w' => e = .returned (.tuple #[.int .i64 0, .int .i64 5]) ∧ w.grownBy w' none) := Hid.mk' (fun w hw => by
    have h := C.lookn n hn64 w hw
    rw [if_pos hn] at h
    exact h)
  obtain ⟨ns, hns⟩ : ∃ x, Hid (str (nm n) = x) := ⟨_, Hid.mk' rfl⟩
  have a4 : Hid (∀ w, Calls Try.prog 9 #[.int .i64 n] w fun e w' => e = .returned (.string ns) ∧ w.grownBy w' none) := Hid.mk' (fun w => by
    have h := name_any n w
    rw [hns.out] at h
    exact h)
  have f3 : ns.toList.isEmpty = true := by rw [← hns.out, str_toList, hn]; rfl
  have k1 : (((m : Int) + 1) == 0) = false := by simp; omega
  have k2 : ¬ (m : Int) + 1 = 0 := by omega
  have K := Hid.mk' (fun (a b : World) (h : P a) (g : a.grownBy b none) => C.keep h g)
  have hq := Hid.mk' hw
  have b1 : Hid (∀ w, P w → Calls Try.prog 13 #[.iface 4 (.bool b)] w fun e w' => e = .returned (.tuple #[.int .i64 0, .int .i64 3]) ∧ w.grownBy w' none) := Hid.mk' (fun w hw => C.looke _ (.inr ⟨4, _, .inl rfl, rfl⟩) w hw)
  have b2 : Hid (∀ w, P w → Calls Try.prog 13 #[.iface 29 fv] w fun e w' => e = .returned (.tuple #[.int .i64 0, .int .i64 3]) ∧ w.grownBy w' none) := Hid.mk' (fun w hw => C.looke _ (.inr ⟨_, _, .inr (.inl rfl), rfl⟩) w hw)
  have b3 : Hid (∀ w, P w → Calls Try.prog 13 #[.nilIface] w fun e w' => e = .returned (.tuple #[.int .i64 0, .int .i64 3]) ∧ w.grownBy w' none) := Hid.mk' (fun w hw => C.looke _ (.inl rfl) w hw)
  have b4 : Hid (∀ w, P w → Calls Try.prog 13 #[.iface 2 (.int .i64 n)] w fun e w' => e = .returned (.tuple #[.int .i64 0, .int .i64 3]) ∧ w.grownBy w' none) := Hid.mk' (fun w hw => C.looke _ (.inr ⟨2, _, .inr (.inr rfl), rfl⟩) w hw)
  obtain ⟨st, hst⟩ : ∃ x, str s = x := ⟨_, rfl⟩
  rw [hst] at a1 a2
  rw [hst]
  clear C hw hK hn hns hst
  go_enter Try.func4, Try.ntmps4
  go_upto_region 3 with (first
    | (go_at_call 12; refine (a1.out _).mono ?_; rintro e w1 ⟨rfl, hg1⟩; have hP1 := Hid.mk' (K.out _ _ hq.out hg1))
    | (go_at_call 13; refine (a2.out _ hP1.out).mono ?_; rintro e w2 ⟨rfl, hg2⟩; have hP2 := Hid.mk' (K.out _ _ hP1.out hg2)))
  go_upto_region 6 with (go_at_call 13; refine (a3.out _ hP2.out).mono ?_; rintro e w3 ⟨rfl, hg3⟩; have hP3 := Hid.mk' (K.out _ _ hP2.out hg3))
  go_upto_region 11 with (go_at_call 9; refine (a4.out _).mono ?_; rintro e w4 ⟨rfl, hg4⟩; have hP4 := Hid.mk' (K.out _ _ hP3.out hg4))
  go_upto_region 12 with (go_at_call 13; refine (b1.out _ hP4.out).mono ?_; rintro e w5 ⟨rfl, hg5⟩; have hP5 := Hid.mk' (K.out _ _ hP4.out hg5))
  go_upto_region 13 with (go_at_call 13; refine (b2.out _ hP5.out).mono ?_; rintro e w6 ⟨rfl, hg6⟩; have hP6 := Hid.mk' (K.out _ _ hP5.out hg6))
  go_upto_region 14 with (go_at_call 13; refine (b3.out _ hP6.out).mono ?_; rintro e w7 ⟨rfl, hg7⟩; have hP7 := Hid.mk' (K.out _ _ hP6.out hg7))
  go_upto_region 15 with (go_at_call 13; refine (b4.out _ hP7.out).mono ?_; rintro e w8 ⟨rfl, hg8⟩)
  go_wp2
  go_ret
  exact ⟨rfl, gt hg1 (gt hg2 (gt hg3 (gt hg4 (gt hg5 (gt hg6 (gt hg7 hg8))))))⟩
set_option maxRecDepth 100000 in
set_option maxHeartbeats 2000000 in
theorem looks_bb {P : World → Prop} (C : Con P) (s : List UInt8) (hs : s.length ≤ 140737488351232) (n : Int) (hn64 : I64 n) (b : Bool) (fv : Value) (m : Nat) (hK : fd s = m + 1) (hn : nm n ≠ []) (w : World) (hw : P w) : Calls Try.prog 4 #[.string (str s), .int .i64 n, .bool b, fv] w fun e w' => e = .returned (.bool true) ∧ w.grownBy w' none := by
  have a1 : Hid (∀ w, Calls Try.prog 12 #[.string (str s)] w fun e w' => e = .returned (.int .i64 ((m : Int) + 1)) ∧ w.grownBy w' none) := Hid.mk' (fun w => by
    have h := find_any s hs w
    rw [hK] at h
    exact h)
  have a2 : Hid (∀ w, P w → Calls Try.prog 13 #[.iface 9 (.string (str s))] w fun e w' => e = .returned (.tuple #[.int .i64 ((m : Int) + 1), .int .i64 0]) ∧ w.grownBy w' none) := Hid.mk' (fun w hw => by
    have h := C.looks s hs w hw
    rw [hK] at h
    exact h)
  have a3 : Hid (∀ w, P w → Calls Try.prog 13 #[.iface 3 (.int .i64 n)] w fun e w' => e = .returned (.tuple #[.int .i64 n, .int .i64 0]) ∧ w.grownBy w' none) := Hid.mk' (fun w hw => by
    have h := C.lookn n hn64 w hw
    rw [if_neg hn] at h
    exact h)
  obtain ⟨ns, hns⟩ : ∃ x, Hid (str (nm n) = x) := ⟨_, Hid.mk' rfl⟩
  have a4 : Hid (∀ w, Calls Try.prog 9 #[.int .i64 n] w fun e w' => e = .returned (.string ns) ∧ w.grownBy w' none) := Hid.mk' (fun w => by
    have h := name_any n w
    rw [hns.out] at h
    exact h)
  have f3 : ns.toList.isEmpty = false := by rw [← hns.out, str_toList]; simpa using hn
  have k1 : (((m : Int) + 1) == 0) = false := by simp; omega
  have k2 : ¬ (m : Int) + 1 = 0 := by omega
  have K := Hid.mk' (fun (a b : World) (h : P a) (g : a.grownBy b none) => C.keep h g)
  have hq := Hid.mk' hw
  have b1 : Hid (∀ w, P w → Calls Try.prog 13 #[.iface 4 (.bool b)] w fun e w' => e = .returned (.tuple #[.int .i64 0, .int .i64 3]) ∧ w.grownBy w' none) := Hid.mk' (fun w hw => C.looke _ (.inr ⟨4, _, .inl rfl, rfl⟩) w hw)
  have b2 : Hid (∀ w, P w → Calls Try.prog 13 #[.iface 29 fv] w fun e w' => e = .returned (.tuple #[.int .i64 0, .int .i64 3]) ∧ w.grownBy w' none) := Hid.mk' (fun w hw => C.looke _ (.inr ⟨_, _, .inr (.inl rfl), rfl⟩) w hw)
  have b3 : Hid (∀ w, P w → Calls Try.prog 13 #[.nilIface] w fun e w' => e = .returned (.tuple #[.int .i64 0, .int .i64 3]) ∧ w.grownBy w' none) := Hid.mk' (fun w hw => C.looke _ (.inl rfl) w hw)
  have b4 : Hid (∀ w, P w → Calls Try.prog 13 #[.iface 2 (.int .i64 n)] w fun e w' => e = .returned (.tuple #[.int .i64 0, .int .i64 3]) ∧ w.grownBy w' none) := Hid.mk' (fun w hw => C.looke _ (.inr ⟨2, _, .inr (.inr rfl), rfl⟩) w hw)
  obtain ⟨st, hst⟩ : ∃ x, str s = x := ⟨_, rfl⟩
  rw [hst] at a1 a2
  rw [hst]
  clear C hw hK hn hns hst
  go_enter Try.func4, Try.ntmps4
  go_upto_region 3 with (first
    | (go_at_call 12; refine (a1.out _).mono ?_; rintro e w1 ⟨rfl, hg1⟩; have hP1 := Hid.mk' (K.out _ _ hq.out hg1))
    | (go_at_call 13; refine (a2.out _ hP1.out).mono ?_; rintro e w2 ⟨rfl, hg2⟩; have hP2 := Hid.mk' (K.out _ _ hP1.out hg2)))
  go_upto_region 6 with (go_at_call 13; refine (a3.out _ hP2.out).mono ?_; rintro e w3 ⟨rfl, hg3⟩; have hP3 := Hid.mk' (K.out _ _ hP2.out hg3))
  go_upto_region 11 with (go_at_call 9; refine (a4.out _).mono ?_; rintro e w4 ⟨rfl, hg4⟩; have hP4 := Hid.mk' (K.out _ _ hP3.out hg4))
  go_upto_region 12 with (go_at_call 13; refine (b1.out _ hP4.out).mono ?_; rintro e w5 ⟨rfl, hg5⟩; have hP5 := Hid.mk' (K.out _ _ hP4.out hg5))
  go_upto_region 13 with (go_at_call 13; refine (b2.out _ hP5.out).mono ?_; rintro e w6 ⟨rfl, hg6⟩; have hP6 := Hid.mk' (K.out _ _ hP5.out hg6))
  go_upto_region 14 with (go_at_call 13; refine (b3.out _ hP6.out).mono ?_; rintro e w7 ⟨rfl, hg7⟩; have hP7 := Hid.mk' (K.out _ _ hP6.out hg7))
  go_upto_region 15 with (go_at_call 13; refine (b4.out _ hP7.out).mono ?_; rintro e w8 ⟨rfl, hg8⟩)
  go_wp2
  go_ret
  exact ⟨rfl, gt hg1 (gt hg2 (gt hg3 (gt hg4 (gt hg5 (gt hg6 (gt hg7 hg8))))))⟩
theorem looks_walk {P : World → Prop} (C : Con P) (s : List UInt8) (hs : s.length ≤ 140737488351232) (n : Int) (hn64 : I64 n) (b : Bool) (fv : Value) (w : World) (hw : P w) : Calls Try.prog 4 #[.string (str s), .int .i64 n, .bool b, fv] w fun e w' => e = .returned (.bool true) ∧ w.grownBy w' none := by
  by_cases hn : nm n = []
  · cases hK : fd s with
    | zero => exact looks_aa C s hs n hn64 b fv hK hn w hw
    | succ m => exact looks_ba C s hs n hn64 b fv m hK hn w hw
  · cases hK : fd s with
    | zero => exact looks_ab C s hs n hn64 b fv hK hn w hw
    | succ m => exact looks_bb C s hs n hn64 b fv m hK hn w hw
end Go.Proofs.Ytljkncgbabiojaa.C23
