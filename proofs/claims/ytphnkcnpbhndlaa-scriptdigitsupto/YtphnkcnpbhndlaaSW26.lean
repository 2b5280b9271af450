/- ScriptDigits: the walk, over what the program's Hex and Bytes answer. -/
import Derived.Test.YtphnkcnpbhndlaaSB26
namespace Go.Proofs.Ytphnkcnpbhndlaa.C26
open Go.ChangeShapes Go.WideShapes Go.ChangeAt Go.RowKit Go.Proofs.Ytphnkcnpbhndlaa.Mem Go.Proofs.Ytphnkcnpbhndlaa.Sx
set_option linter.unusedVariables false
set_option linter.unusedSimpArgs false

/-- What the program's two functions answer. -/
structure Con : Prop where
  hex : ∀ (ao : Option Addr) (cap : Nat) (L : List UInt8) (len : Nat), L.length = len → ∀ w : World, Bytes w ao L → len ≤ cap → cap ≤ 140737488351232 → len ≤ 35184372088832 → ∀ T : ByteArray, Hid (str (hexT L) = T) →
    Calls Try.prog 4 #[.slice ao len cap] w fun e w' => e = .returned (.string T) ∧ w.grownBy w' none
  bytes : ∀ (S : List UInt8) (s : ByteArray), Hid (str S = s) → ∀ w : World, S.length ≤ 70368744177665 → ∀ R : Option (List UInt8), Hid (byT S = R) →
    Calls Try.prog 6 #[.string s] w fun e w' => ∃ ao cap, e = .returned (.tuple #[.slice ao (R.getD []).length cap, .bool R.isSome]) ∧ Bytes w' ao (R.getD []) ∧ w.grownBy w' none

set_option maxRecDepth 100000 in
set_option maxHeartbeats 1000000 in
theorem digits_walk (C : Con) (ao : Option Addr) (cap : Nat) (L : List UInt8) (len : Nat) (hlen : L.length = len) (S : List UInt8) (s : ByteArray) (hs : str S = s) (w : World) (hB : Bytes w ao L) (hLc : len ≤ cap) (hcm : cap ≤ 140737488351232) (hm : len ≤ 35184372088832) (hS : S.length ≤ 70368744177665) :
    Calls Try.prog 3 #[.slice ao len cap, .string s] w fun e w' => e = .returned (.bool true) ∧ w.grownBy w' none := by
  obtain ⟨T, hT⟩ : ∃ T, Hid (str (hexT L) = T) := ⟨_, Hid.mk' rfl⟩
  obtain ⟨R, hR⟩ : ∃ R, Hid (byT S = R) := ⟨_, Hid.mk' rfl⟩
  have hTl : (hexT L).length ≤ 70368744177665 := by have := hexT_length_le L; omega
  have a1 := Hid.mk' (fun w hB => C.hex ao cap L len hlen w hB hLc hcm hm T hT)
  have a2 := Hid.mk' (fun w hB => hexRef_any ao cap L len hlen w hB hm T hT)
  have a3 := Hid.mk' (fun w => C.bytes (hexT L) T hT w hTl (some L) (Hid.mk' (byT_hexT L)))
  have a4 := Hid.mk' (fun w => C.bytes S s (Hid.mk' hs) w hS R hR)
  have a5 := Hid.mk' (fun w => bytesRef_any S s (Hid.mk' hs) w hS R hR)
  have hB0 := Hid.mk' hB
  have hl0 := Hid.mk' hlen
  clear hB hlen hTl C hT hs hS
  go_enter Try.func3, Try.ntmps3
  go_upto_region 2 with (go_at_call 4; refine (a1.out _ hB0.out).mono ?_; rintro e w1 ⟨rfl, hg1⟩)
  have G1 := Hid.mk' hg1
  clear hg1 a1
  go_upto_region 4 with (go_at_call 5; refine (a2.out _ (hB0.out.kept0 G1.out)).mono ?_; rintro e w2 ⟨rfl, hg2⟩)
  have G2 := Hid.mk' (gt G1.out hg2)
  clear hg2 a2 G1
  go_upto_region 5 with (go_at_call 6; refine (a3.out _).mono ?_; rintro e w3 ⟨yo, yc, rfl, hy, hg3⟩)
  have G3 := Hid.mk' (gt G2.out hg3)
  have Y3 := Hid.mk' hy
  clear hg3 hy a3 G2
  go_upto_region 6 with (go_at_call 6; refine (a4.out _).mono ?_; rintro e w4 ⟨uo, uc, rfl, hu, hg4⟩)
  have G4 := Hid.mk' (gt G3.out hg4)
  have Y4 := Hid.mk' (Y3.out.kept0 hg4)
  have U4 := Hid.mk' hu
  clear hg4 hu a4 G3 Y3
  go_upto_region 7 with (go_at_call 7; refine (a5.out _).mono ?_; rintro e w5 ⟨vo, vc, rfl, hv, hg5⟩)
  have G5 := Hid.mk' (gt G4.out hg5)
  have c1 := conv (Y4.out.kept0 hg5) 22 9 yc Try.underlying22 Try.underlying5 Try.underlying9
  have c2 := conv (hB0.out.kept0 G5.out) 22 9 cap Try.underlying22 Try.underlying5 Try.underlying9
  have c3 := conv (U4.out.kept0 hg5) 22 9 uc Try.underlying22 Try.underlying5 Try.underlying9
  have c4 := conv hv.bytes 22 9 vc Try.underlying22 Try.underlying5 Try.underlying9
  rw [hl0.out] at c2
  simp only [Option.getD_some] at c1
  obtain ⟨B, hBs⟩ : ∃ B, str L = B := ⟨_, rfl⟩
  obtain ⟨V, hVs⟩ : ∃ V, str (R.getD []) = V := ⟨_, rfl⟩
  rw [hBs] at c1 c2
  rw [hVs] at c3 c4
  clear hg5 hv a5 G4 Y4 U4 hBs hVs
  go_wp2
  go_ret
  exact ⟨rfl, G5.out⟩
end Go.Proofs.Ytphnkcnpbhndlaa.C26
