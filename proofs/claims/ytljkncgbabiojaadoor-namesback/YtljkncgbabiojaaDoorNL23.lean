/- The document's Large and Find of layer 23: walks. -/
import Derived.Test.YtljkncgbabiojaaDoorNN23
import Derived.Test.YtljkncgbabiojaaDoorSx
import Derived.Test.YtljkncgbabiojaaDoorRegion
import Derived.Deep.RegionHeld3
namespace Go.Proofs.YtljkncgbabiojaaDoor.C23
open Go.ChangeShapes Go.WideShapes Go.ChangeAt Go.RowKit Go.Proofs.YtljkncgbabiojaaDoor.Mem Go.Proofs.YtljkncgbabiojaaDoor.El Go.Proofs.YtljkncgbabiojaaDoor.St Go.Proofs.YtljkncgbabiojaaDoor.Ri Go.Proofs.YtljkncgbabiojaaDoor.Sx
set_option linter.unusedVariables false
set_option linter.unusedSimpArgs false

theorem large_step (s : List UInt8) (i : Nat) (h : i < s.length) : large (s.take i) ++ [lg s[i]] = large (s.take (i + 1)) := by
  unfold large
  rw [List.take_add_one, List.getElem?_eq_getElem h, List.map_append]
  rfl
theorem large_len (s : List UInt8) : (large s).length = s.length := by unfold large; rw [List.length_map]
set_option maxRecDepth 100000 in
set_option maxHeartbeats 2000000 in
theorem large_any (s : List UInt8) (hs : s.length ≤ 140737488351232) (w : World) : Calls Tryd.prog 20 #[.string (str s)] w fun e w' => e = .returned (.string (str (large s))) ∧ w.grownBy w' none := by
  obtain ⟨i0, hi0, hz0, hz1, hz2⟩ := info_parts info5
  have hsz : (str s).size = s.length := str_size s
  go_enter Tryd.func20, Tryd.ntmps20
  go_wp2
  go_loopw [3, 4] (fun t3 t4 wx => ∃ (i : Nat) (ao : Option Addr) (cap : Nat), i ≤ s.length ∧ t4 = .int .i64 (i : Int) ∧ t3 = .slice ao (large (s.take i)).length cap ∧ Hid (Own wx ao cap (large (s.take i))) ∧ Hid (∀ g, blk ao = some g → w.heap.size ≤ g) ∧ Hid (w.grownBy wx none)) (fun _ t4 _ => s.length - (intOf t4).toNat)
  case atStart => exact ⟨0, none, 0, by omega, rfl, rfl, Hid.mk' (.inl ⟨rfl, rfl, rfl⟩), Hid.mk' (by simp [blk]), Hid.mk' (grownBy_refl _ _)⟩
  case round =>
    obtain ⟨i, ao, cap, hi, rfl, rfl, ho, hb, hG⟩ := hrel
    by_cases hlt : i < s.length
    · have hlt' : (i : Int) < (s.length : Int) := by omega
      have hii : (0 : Int) ≤ (i : Int) := by omega
      have e9 : (i : Int) + 1 ≤ 9223372036854775807 := by omega
      obtain ⟨A, hA⟩ : ∃ A, Hid (large (s.take i) = A) := ⟨_, Hid.mk' rfl⟩
      obtain ⟨A2, hA2⟩ : ∃ A, Hid (large (s.take (i + 1)) = A) := ⟨_, Hid.mk' rfl⟩
      have hal : Hid (A.length + 1 ≤ 140737488351232) := Hid.mk' (by rw [← hA.out, large_len, List.length_take]; omega)
      have ho2 : Hid (Own wr ao cap A) := Hid.mk' (by rw [← hA.out]; exact ho.out)
      obtain ⟨c, hc⟩ : ∃ c, Hid (s[i] = c) := ⟨_, Hid.mk' rfl⟩
      have hst0 : Hid (A ++ [lg c] = A2) := Hid.mk' (by rw [← hA.out, ← hA2.out, ← hc.out]; exact large_step s i hlt)
      have hA3 : Hid (A2 = large (s.take (i + 1))) := Hid.mk' hA2.out.symm
      have hix := index_of (L := s) (i := i) (c := c) (by rw [List.getElem?_eq_getElem hlt, hc.out]) wr
      have hc8 := c.toNat_lt
      rw [hA.out]
      clear ho hA hA2 hc
      by_cases h1 : 97 ≤ c.toNat ∧ c.toNat ≤ 122
      · have hlg : lg c = UInt8.ofNat (c.toNat - 32) := by unfold lg; rw [if_pos h1]
        obtain ⟨d, hd⟩ : ∃ d, UInt8.ofNat (c.toNat - 32) = d := ⟨_, rfl⟩
        have hdn : (d.toNat : Int) = (c.toNat : Int) - 32 := by rw [← hd, UInt8.toNat_ofNat']; omega
        have hst : Hid (A ++ [d] = A2) := Hid.mk' (by rw [← hd, ← hlg]; exact hst0.out)
        have e1 : (c.toNat : Int) - 32 = (d.toNat : Int) := hdn.symm
        have hd8 := d.toNat_lt
        have e2 : (d.toNat : Int) < 256 := by omega
        have f1 : decide (97 ≤ (c.toNat : Int)) = true := by simp; omega
        have f2 : decide ((c.toNat : Int) ≤ 122) = true := by simp; omega
        clear hst0 hlg hd hdn
        go_wp2_with (at_builtin; refine wpList_append_any _ rfl _ _ 40 40 rfl i0 Tryd.underlying40 hi0 hz0 hz1 hz2 ao cap A rfl (ho2.out.alloc _) _ rfl [d] (src_of (own_byte _ d).bytes 40 1 Tryd.underlying40) (by have := hal.out; simp; omega) A2 hst.out ?_; intro a2 c2 w2 o2 g2 f2)
        go_roundw
        case rel =>
          refine ⟨i + 1, a2, c2, by omega, by go_num, hA3.out ▸ rfl, Hid.mk' (hA3.out ▸ o2), Hid.mk' (fun g hg => ?_), Hid.mk' (grownBy_new (gt hG.out (World.grownBy_alloc _ _ _)) g2 (fun g hg => hb.out g hg))⟩
          rcases f2 with rfl | rfl
          · exact hb.out g hg
          · simp [blk] at hg; have := hG.out.size; omega
        all_goals (simp [intOf] <;> omega)
      · have hlg : lg c = c := by unfold lg; rw [if_neg h1]
        obtain ⟨d, hd⟩ : ∃ d, c = d := ⟨_, rfl⟩
        have hst : Hid (A ++ [d] = A2) := Hid.mk' (by rw [← hd, ← hlg]; rw [hlg]; have := hst0.out; rw [hlg] at this; exact this)
        subst hd
        by_cases h2 : 97 ≤ c.toNat
        · have f1 : decide (97 ≤ (c.toNat : Int)) = true := by simp; omega
          have f2 : decide ((c.toNat : Int) ≤ 122) = false := by simp; omega
          clear hst0 hlg h1 h2
          go_wp2_with (at_builtin; refine wpList_append_any _ rfl _ _ 40 40 rfl i0 Tryd.underlying40 hi0 hz0 hz1 hz2 ao cap A rfl (ho2.out.alloc _) _ rfl [c] (src_of (own_byte _ c).bytes 40 1 Tryd.underlying40) (by have := hal.out; simp; omega) A2 hst.out ?_; intro a2 c2 w2 o2 g2 f2)
          go_roundw
          case rel =>
            refine ⟨i + 1, a2, c2, by omega, by go_num, hA3.out ▸ rfl, Hid.mk' (hA3.out ▸ o2), Hid.mk' (fun g hg => ?_), Hid.mk' (grownBy_new (gt hG.out (World.grownBy_alloc _ _ _)) g2 (fun g hg => hb.out g hg))⟩
            rcases f2 with rfl | rfl
            · exact hb.out g hg
            · simp [blk] at hg; have := hG.out.size; omega
          all_goals (simp [intOf] <;> omega)
        · have f1 : decide (97 ≤ (c.toNat : Int)) = false := by simp; omega
          clear hst0 hlg h1 h2
          go_wp2_with (at_builtin; refine wpList_append_any _ rfl _ _ 40 40 rfl i0 Tryd.underlying40 hi0 hz0 hz1 hz2 ao cap A rfl (ho2.out.alloc _) _ rfl [c] (src_of (own_byte _ c).bytes 40 1 Tryd.underlying40) (by have := hal.out; simp; omega) A2 hst.out ?_; intro a2 c2 w2 o2 g2 f2)
          go_roundw
          case rel =>
            refine ⟨i + 1, a2, c2, by omega, by go_num, hA3.out ▸ rfl, Hid.mk' (hA3.out ▸ o2), Hid.mk' (fun g hg => ?_), Hid.mk' (grownBy_new (gt hG.out (World.grownBy_alloc _ _ _)) g2 (fun g hg => hb.out g hg))⟩
            rcases f2 with rfl | rfl
            · exact hb.out g hg
            · simp [blk] at hg; have := hG.out.size; omega
          all_goals (simp [intOf] <;> omega)
    · obtain rfl : i = s.length := by omega
      have e : s.take s.length = s := List.take_length
      have ho2 := ho.out
      rw [e] at ho2
      rw [e]
      have hcv := conv ho2.bytes 40 9 cap Tryd.underlying40 Tryd.underlying5 Tryd.underlying9
      go_wp2
      go_ret
      exact ⟨rfl, hG.out⟩
end Go.Proofs.YtljkncgbabiojaaDoor.C23
