/- The document's Drain, one and Set of layer 13: walks. -/
import Derived.Test.YtfehmbicolllkaaVP13
namespace Go.Proofs.Ytfehmbicolllkaa.C13
open Go.ChangeShapes Go.WideShapes Go.ChangeAt Go.RowKit Go.Proofs.Ytfehmbicolllkaa.Mem
set_option linter.unusedVariables false
set_option linter.unusedSimpArgs false

/-- What Drain answers. -/
def drT (md bi ac he : Int) : Int × Bool := if fitR md bi ac he = true ∧ he ≠ 0 then (he, true) else (0, false)
set_option maxRecDepth 100000 in
set_option maxHeartbeats 1000000 in
theorem drain_any (md bi ac he : Int) (w : World) (z : Int) (ok : Bool) (hD : Hid (drT md bi ac he = (z, ok))) : Calls Try.prog 14 #[stV md bi ac he] w fun e w' => e = .returned (.tuple #[.int .i32 z, .bool ok]) ∧ w.grownBy w' none := by
  obtain ⟨F, hF⟩ : ∃ F, Hid (fitR md bi ac he = F) := ⟨_, Hid.mk' rfl⟩
  have hD2 := hD.out
  rw [drT, hF.out] at hD2
  have a1 := Hid.mk' (fun w => fits_any md bi ac he w F hF)
  have hblk : Hid (∀ wx, (w.alloc (.cells #[.int .i64 md, .int .i64 bi, .int .u32 ac, .int .i32 he] 29)).grownBy wx none → wx.cell? ⟨w.heap.size, 3, none⟩ = some (.int .i32 he)) := Hid.mk' (fun wx hg => cell_at (blk_kept (heap_alloc_new w _) hg) 3 rfl)
  clear hD hF
  cases F
  · simp at hD2
    obtain ⟨rfl, rfl⟩ := hD2
    go_enter Try.func14, Try.ntmps14
    go_wp2_with (go_at_call 18; refine (a1.out _).mono ?_; rintro e w1 ⟨rfl, hg1⟩; have x3 := hblk.out _ hg1)
    go_ret2
    exact ⟨rfl, gt (World.grownBy_alloc _ _ _) hg1⟩
  · by_cases h0 : he = 0
    · simp [h0] at hD2
      obtain ⟨rfl, rfl⟩ := hD2
      subst h0
      go_enter Try.func14, Try.ntmps14
      go_wp2_with (go_at_call 18; refine (a1.out _).mono ?_; rintro e w1 ⟨rfl, hg1⟩; have x3 := hblk.out _ hg1)
      go_ret2
      exact ⟨rfl, gt (World.grownBy_alloc _ _ _) hg1⟩
    · simp [h0] at hD2
      obtain ⟨rfl, rfl⟩ := hD2
      have h0' : (he == 0) = false := by simpa using h0
      go_enter Try.func14, Try.ntmps14
      go_wp2_with (go_at_call 18; refine (a1.out _).mono ?_; rintro e w1 ⟨rfl, hg1⟩; have x3 := hblk.out _ hg1)
      go_ret2
      exact ⟨rfl, gt (World.grownBy_alloc _ _ _) hg1⟩

/-- What one answers. -/
def onV (R : Option Nat) : Int := match R with | some b => (b : Int) | none => -1
theorem range_hit (f : Nat → Bool) (n i : Nat) (hi : i < n) (h1 : f i = true) (h0 : ∀ j, j < i → f j = false) : (List.range n).find? f = some i := by
  rw [List.find?_range_eq_some]
  exact ⟨h1, by simpa using hi, fun j hj => by rw [h0 j hj]; rfl⟩
theorem range_miss (f : Nat → Bool) (n : Nat) (h0 : ∀ j, j < n → f j = false) : (List.range n).find? f = none := by
  rw [List.find?_range_eq_none]
  exact fun j hj => by rw [h0 j hj]; rfl
theorem vsR_le (b : Nat) (hb : b < 256) : vsR b ≤ 65535 := by
  unfold vsR
  split
  · omega
  · rw [List.getD_eq_getElem?_getD]
    cases e : tl[b - 128]? with
    | none => simp
    | some x => exact tl_small x (List.mem_of_getElem? e)
set_option maxRecDepth 100000 in
set_option maxHeartbeats 1000000 in
theorem one_any (u : Int) (w : World) (R : Option Nat) (hR : Hid (onR u = R)) : Calls Try.prog 34 #[.int .i32 u] w fun e w' => e = .returned (.int .i64 (onV R)) ∧ w.grownBy w' none := by
  have hR1 := hR.out
  unfold onR at hR1
  by_cases h9 : u = 65533
  · rw [if_pos h9] at hR1
    subst hR1
    subst h9
    clear hR
    go_enter Try.func34, Try.ntmps34
    go_wp2
    go_loopw [3] (fun t3 wx => ∃ (i : Nat), i ≤ 256 ∧ t3 = .int .i64 (i : Int) ∧ Hid (w.grownBy wx none)) (fun t3 _ => 256 - (intOf t3).toNat)
    case atStart => exact ⟨0, by omega, rfl, Hid.mk' ⟨rfl, rfl, rfl, Nat.le_refl _, fun _ _ _ => rfl⟩⟩
    case round =>
      obtain ⟨i, hi, rfl, hG⟩ := hrel
      by_cases hlt : i < 256
      · have hlt' : (i : Int) < 256 := by omega
        obtain ⟨n, hn⟩ : ∃ n, Hid (vsR i = n) := ⟨_, Hid.mk' rfl⟩
        have a1 := Hid.mk' (fun w => scalar_any i hlt w n hn)
        by_cases hnu : (n : Int) = 65533
        · rw [hnu] at a1
          go_wp2_with (go_at_call 31; refine (a1.out _).mono ?_; rintro e w1 ⟨rfl, hg1⟩)
          go_roundw
          case rel => exact ⟨i + 1, by omega, by go_num, Hid.mk' (gt hG.out hg1)⟩
          all_goals (simp [intOf]; omega)
        · have hnu' : ((n : Int) == 65533) = false := by simpa using hnu
          go_wp2_with (go_at_call 31; refine (a1.out _).mono ?_; rintro e w1 ⟨rfl, hg1⟩)
          go_roundw
          case rel => exact ⟨i + 1, by omega, by go_num, Hid.mk' (gt hG.out hg1)⟩
          all_goals (simp [intOf]; omega)
      · obtain rfl : i = 256 := by omega
        go_wp2_with fail
        go_ret
        exact ⟨rfl, hG.out⟩
  · rw [if_neg h9] at hR1
    have hR2 := Hid.mk' hR1
    have h9' : (u == 65533) = false := by simpa using h9
    have h9'' : (u != 65533) = true := by simpa using h9
    clear hR hR1
    go_enter Try.func34, Try.ntmps34
    go_wp2
    go_loopw [3] (fun t3 wx => ∃ (i : Nat), i ≤ 256 ∧ t3 = .int .i64 (i : Int) ∧ Hid (∀ j, j < i → decide ((vsR j : Int) = u) = false) ∧ Hid (w.grownBy wx none)) (fun t3 _ => 256 - (intOf t3).toNat)
    case atStart => exact ⟨0, by omega, rfl, Hid.mk' (by omega), Hid.mk' ⟨rfl, rfl, rfl, Nat.le_refl _, fun _ _ _ => rfl⟩⟩
    case round =>
      obtain ⟨i, hi, rfl, hb, hG⟩ := hrel
      by_cases hlt : i < 256
      · have hlt' : (i : Int) < 256 := by omega
        obtain ⟨n, hn⟩ : ∃ n, Hid (vsR i = n) := ⟨_, Hid.mk' rfl⟩
        have a1 := Hid.mk' (fun w => scalar_any i hlt w n hn)
        by_cases hnu : (n : Int) = u
        · have : R = some i := by
            rw [← hR2.out]
            exact range_hit _ 256 i hlt (by rw [hn.out]; exact decide_eq_true hnu) hb.out
          subst this
          clear hR2 h9
          subst hnu
          go_wp2_with (go_at_call 31; refine (a1.out _).mono ?_; rintro e w1 ⟨rfl, hg1⟩)
          go_ret
          exact ⟨rfl, gt hG.out hg1⟩
        · have hnu' : ((n : Int) == u) = false := by simpa using hnu
          go_wp2_with (go_at_call 31; refine (a1.out _).mono ?_; rintro e w1 ⟨rfl, hg1⟩)
          go_roundw
          case rel => exact ⟨i + 1, by omega, by go_num, Hid.mk' (fun j hj => by
            by_cases e : j = i
            · subst e; rw [hn.out]; simpa using hnu
            · exact hb.out j (by omega)), Hid.mk' (gt hG.out hg1)⟩
          all_goals (simp [intOf]; omega)
      · obtain rfl : i = 256 := by omega
        have : R = none := by rw [← hR2.out]; exact range_miss _ _ hb.out
        subst this
        clear hR2
        go_wp2_with fail
        go_ret
        exact ⟨rfl, hG.out⟩
end Go.Proofs.Ytfehmbicolllkaa.C13
