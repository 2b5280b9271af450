/- RangesPacks: a walk. -/
import Derived.Test.YtdeohnnepifjaaaRPack
import Derived.Test.YtdeohnnepifjaaaSame
import Derived.Below
namespace Go.Proofs.Ytdeohnnepifjaaa.Rn
open Go.ChangeShapes Go.WideShapes Go.ChangeAt Go.RowKit Go.Proofs.Ytdeohnnepifjaaa.Mem Go.Proofs.Ytdeohnnepifjaaa.Ucs Go.Proofs.Ytdeohnnepifjaaa.El
set_option linter.unusedVariables false
set_option linter.unusedSimpArgs false

theorem below_gP {w w' : World} (h : w.grownBy w' none) : Below w.heap.size w w' := ⟨h.os, h.tape, h.output, h.size, fun k hk => h.block k hk (by simp)⟩
set_option maxRecDepth 100000 in
set_option maxHeartbeats 4000000 in
theorem packs_walk (ao : Option Addr) (cap : Nat) (L : List Pr) (w : World) (hrd : PE.Rd w ao L) (hle : L.length ≤ cap) (hcb : cap * 16 ≤ 140737488351232) :
    Calls Try.prog 3 #[.slice ao L.length cap] w fun e w' => e = .returned (.bool true) ∧ Below w.heap.size w w' := by
  have HL : Hid (PE.Rd w ao L) := hrd
  have hcm : cap ≤ 8796093021952 := by omega
  clear hrd hcb
  obtain ⟨E, hE⟩ : ∃ E, Hid (rightE L = E) := ⟨_, (rfl : rightE L = rightE L)⟩
  obtain ⟨Q, hQ⟩ : ∃ Q, Hid (packR L = Q) := ⟨_, (rfl : packR L = packR L)⟩
  have hm : Hid (PE.Own (w.alloc (.cells #[] 41)) (some ⟨w.heap.size, 0, none⟩) 0 []) := own_made (E := PE) w
  go_enter Try.func3, Try.ntmps3
  go_wp2_with (first | (at_builtin; refine wpList_pair _ rfl _ _ rfl _ _ [] rfl hm.out _ rfl L (src_pair (HL.out.alloc _) cap) (by simp; omega) L (by simp) ?_; intro ao' c' w1 ho1 hga hat; have hg1 := Hid.mk' (grownBy_new (World.grownBy_alloc w _ none) hga (by intro g' e; simp [blk] at e; omega)); have HO := Hid.mk' ho1.rd; have p1 := ho1.cap_le; have p2 := ho1.cap_max; clear ho1 hga hat) | (go_at_call 8; refine (pack_any _ _ L _ HO.out p1 p2 E hE Q hQ).mono ?_; rintro e w2 ⟨ro2, rc2, rfl, ho2, hg2⟩; have HQ2 := Hid.mk' ho2.rd; have p3 := ho2.cap_le; have p4 := ho2.cap_max; clear ho2) | (go_at_call 9; refine (packRef_any _ _ L _ (HL.out.kept0 (gt hg1.out hg2)) hle (by omega) E hE Q hQ).mono ?_; rintro e w3 ⟨ro3, rc3, rfl, ho3, hg3⟩; have HQ3 := Hid.mk' ho3.rd; have p5 := ho3.cap_le; have p6 := ho3.cap_max; clear ho3) | (go_at_call 10; refine (same_eq _ _ _ _ Q _ (HQ2.out.kept0 hg3) HQ3.out p3 p4 p5 p6).mono ?_; rintro e w4 ⟨rfl, hg4⟩) | (go_at_call 11; refine (samePairs_eq _ _ _ _ L _ (HO.out.kept0 (gt (gt hg2 hg3) hg4)) (HL.out.kept0 (gt (gt (gt hg1.out hg2) hg3) hg4)) p1 p2 hle (by omega)).mono ?_; rintro e w5 ⟨rfl, hg5⟩))
  go_ret
  refine ⟨rfl, below_gP ?_⟩
  exact gt (gt (gt (gt hg1.out hg2) hg3) hg4) hg5
end Go.Proofs.Ytdeohnnepifjaaa.Rn
