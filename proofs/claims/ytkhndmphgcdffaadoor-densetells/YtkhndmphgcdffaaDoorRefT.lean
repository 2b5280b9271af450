/- The document's table: walks. -/
import Derived.Test.YtkhndmphgcdffaaDoorDp
import Derived.Test.YtkhndmphgcdffaaDoorRefScalars
import Derived.Test.YtkhndmphgcdffaaDoorConv
import Derived.Test.YtkhndmphgcdffaaDoorNew
namespace Go.Proofs.YtkhndmphgcdffaaDoor.Dn
open Go.ChangeShapes Go.WideShapes Go.ChangeAt Go.RowKit Go.Maps Go.Proofs.YtkhndmphgcdffaaDoor.Mem Go.Proofs.YtkhndmphgcdffaaDoor.Ucs Go.Proofs.YtkhndmphgcdffaaDoor.U8
set_option linter.unusedVariables false

/-- The document's table as a value. -/
abbrev rtV (f : Nat) (ro : Option Addr) (n rc : Nat) : Value := .agg #[.int .i64 (f : Int), .slice ro n rc]

theorem byR_hit {f : Nat} {zs : List Int} {u : Int} (hu : u ≠ 65533) {i : Nat} (hi : i < zs.length) (h : zs[i] = u) (hm : ∀ j (hj : j < i), zs[j] ≠ u) : byR f zs u = (((f + i : Nat) : Int), true) := by
  obtain ⟨_, k, hk, e, hz, hmin⟩ := byR_true (byR_of (f := f) hu hi h)
  rw [e]
  have h1 : ¬ i < k := fun hlt => hmin i hlt h
  have h2 : ¬ k < i := fun hlt => hm k hlt hz
  have : i = k := by omega
  subst this
  rfl
theorem byR_none {f : Nat} {zs : List Int} {u : Int} (h : u = 65533 ∨ ∀ j (hj : j < zs.length), zs[j] ≠ u) : byR f zs u = (0, false) := by
  apply byR_false
  cases hb : (byR f zs u).2
  · rfl
  · obtain ⟨hu, k, hk, e, hz, hmin⟩ := byR_true hb
    rcases h with h | h
    · exact absurd h hu
    · exact absurd hz (h k hk)

set_option maxRecDepth 100000 in
set_option maxHeartbeats 1000000 in
theorem refscalar_at (w : World) (f : Nat) (ro : Option Addr) (rc : Nat) (zs : List Int) (h : MemR.Bytes w ro zs) (hf : f + zs.length ≤ 256) (b : Nat) (hb : b < 256) (x : Int) (ok : Bool) (hR : Hid (scR f zs b = (x, ok))) :
    Calls Tryd.prog 9 #[rtV f ro zs.length rc, .int .u8 (b : Int)] w fun e w' => e = .returned (.tuple #[.int .i32 x, .bool ok]) ∧ w.grownBy w' none := by
  by_cases h1 : f ≤ b
  · by_cases h2 : b - f < zs.length
    · obtain ⟨g, o, rfl, q⟩ := runes_cell h (List.ne_nil_of_length_pos (by omega))
      have c3 := q (b - f) h2
      have hgl := World.block_lt_of_cell? w _ c3
      simp only at hgl
      have hR' := hR.out
      rw [scR_at h1 h2] at hR'
      have e1 : (b : Int) - (f : Int) = ((b - f : Nat) : Int) := by omega
      clear q h
      generalize zs[b - f] = z at c3 hR'
      generalize b - f = j at *
      generalize hN : zs.length = N at *
      have d1 : ¬ ((j : Int) < 0) := by omega
      have d2 : (j : Int) < (N : Int) := by omega
      clear hR
      by_cases hz : z = 65533
      · subst hz
        rw [if_pos rfl] at hR'
        cases hR'
        go_enter Tryd.func9, Tryd.ntmps9
        go_wp2
        go_ret2
        exact ⟨rfl, World.grownBy_alloc _ _ _⟩
      · rw [if_neg hz] at hR'
        cases hR'
        have hz' : (x == 65533) = false := by simpa using hz
        go_enter Tryd.func9, Tryd.ntmps9
        go_wp2
        go_ret2
        exact ⟨rfl, World.grownBy_alloc _ _ _⟩
    · have hR' := hR.out
      rw [scR_behind h1 (by omega)] at hR'
      cases hR'
      generalize hN : zs.length = N at *
      obtain ⟨j, hj⟩ : ∃ j, j = b - f := ⟨_, rfl⟩
      have e1 : (b : Int) - (f : Int) = (j : Int) := by omega
      have d1 : ¬ ((j : Int) < 0) := by omega
      have d2 : (N : Int) ≤ (j : Int) := by omega
      clear h hR
      go_enter Tryd.func9, Tryd.ntmps9
      go_wp2
      go_ret2
      exact ⟨rfl, World.grownBy_alloc _ _ _⟩
  · have hR' := hR.out
    rw [scR_below zs (by omega)] at hR'
    cases hR'
    have d1 : (b : Int) - (f : Int) < 0 := by omega
    clear h hR
    go_enter Tryd.func9, Tryd.ntmps9
    go_wp2
    go_ret2
    exact ⟨rfl, World.grownBy_alloc _ _ _⟩

set_option maxRecDepth 100000 in
set_option maxHeartbeats 1000000 in
theorem refbyte_at (w : World) (f : Nat) (ro : Option Addr) (rc : Nat) (zs : List Int) (h : MemR.Bytes w ro zs) (hf : f + zs.length ≤ 256) (u : Int) (x : Int) (ok : Bool) (hR : Hid (byR f zs u = (x, ok))) :
    Calls Tryd.prog 11 #[rtV f ro zs.length rc, .int .i32 u] w fun e w' => e = .returned (.tuple #[.int .u8 x, .bool ok]) ∧ w.grownBy w' none := by
  have h0 := Hid.mk' h
  clear h
  obtain ⟨N, hN⟩ : ∃ N, Hid (zs.length = N) := ⟨_, rfl⟩
  rw [hN.out] at hf ⊢
  go_enter Tryd.func11, Tryd.ntmps11
  go_wp2
  go_loopw [6] (fun t6 wx => ∃ i : Nat, i ≤ N ∧ t6 = .int .i64 (i : Int) ∧ wx = w.alloc (.cells #[.int .i64 (f : Int), .slice ro N rc] 28) ∧ Hid (u = 65533 ∨ ∀ j (hj : j < zs.length), j < i → zs[j] ≠ u)) (fun t6 _ => N - (intOf t6).toNat)
  case atStart => exact ⟨0, by omega, rfl, rfl, Hid.mk' (.inr (fun j _ hj => by omega))⟩
  case round =>
    obtain ⟨i, hi, rfl, rfl, hno⟩ := hrel
    by_cases hlt : i < N
    · have hlt' : (i : Int) < (N : Int) := by omega
      have hlz : i < zs.length := by rw [hN.out]; exact hlt
      obtain ⟨g, o, rfl, q⟩ := runes_cell h0.out (List.ne_nil_of_length_pos (by omega))
      have c3 := q i hlz
      have hgl := World.block_lt_of_cell? w _ c3
      simp only at hgl
      obtain ⟨z, hz⟩ : ∃ z, Hid (zs[i] = z) := ⟨_, Hid.mk' rfl⟩
      rw [hz.out] at c3
      clear q
      by_cases hzu : z = u
      · subst hzu
        by_cases hm : z = 65533
        · subst hm
          go_wp2
          go_roundw
          case rel => exact ⟨i + 1, by omega, by go_num, by first | rfl | trivial, Hid.mk' (.inl (by trivial))⟩
          case measure => simp [intOf]; omega
        · have hm' : (z == 65533) = false := by simpa using hm
          have hm2 : (z != 65533) = true := by simpa using hm
          have hx : Hid (x = (f : Int) + (i : Int) ∧ ok = true) := Hid.mk' (by
            have := byR_hit (f := f) hm hlz hz.out (fun j hj e => (hno.out.resolve_left hm) j (by omega) hj e)
            rw [hR.out] at this
            simpa using this)
          have hb1 : (f : Int) + (i : Int) ≤ 255 := by omega
          clear hm
          go_wp2
          obtain ⟨rfl, rfl⟩ := hx.out
          go_ret2
          exact ⟨rfl, World.grownBy_alloc _ _ _⟩
      · have hzu' : (z == u) = false := by simpa using hzu
        have hno2 := Hid.mk' (show u = 65533 ∨ ∀ j (hj : j < zs.length), j < i + 1 → zs[j] ≠ u from hno.out.imp id (fun hh j hj hji => by
          by_cases hje : j = i
          · subst hje; rw [hz.out]; exact hzu
          · exact hh j hj (by omega)))
        clear hzu
        go_wp2
        go_roundw
        case rel => exact ⟨i + 1, by omega, by go_num, by first | rfl | trivial, hno2⟩
        case measure => simp [intOf]; omega
    · obtain rfl : i = N := by omega
      have hx : Hid (x = 0 ∧ ok = false) := Hid.mk' (by
        have := byR_none (f := f) (zs := zs) (u := u) (hno.out.imp id (fun hh j hj => hh j hj (by rw [← hN.out]; exact hj)))
        rw [hR.out] at this
        simpa using this)
      go_wp2
      obtain ⟨rfl, rfl⟩ := hx.out
      go_ret2
      exact ⟨rfl, World.grownBy_alloc _ _ _⟩
end Go.Proofs.YtkhndmphgcdffaaDoor.Dn
