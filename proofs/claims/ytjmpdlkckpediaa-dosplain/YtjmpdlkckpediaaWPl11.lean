/- DosPlain: the walk. -/
import Derived.Test.YtjmpdlkckpediaaWk11
import Derived.Test.YtjmpdlkckpediaaArgs
namespace Go.Proofs.Ytjmpdlkckpediaa.C11
open Go.ChangeShapes Go.WideShapes Go.ChangeAt Go.RowKit Go.Proofs.Ytjmpdlkckpediaa.Mem Go.Proofs.Ytjmpdlkckpediaa.El Go.Proofs.Ytjmpdlkckpediaa.Ru
set_option linter.unusedVariables false
set_option linter.unusedSimpArgs false

theorem kinds_at (r : Nat) (h : r < 7) : ∃ k, kinds[r]? = some k ∧ k ∈ kinds ∧ I64 k := by
  have hl : r < kinds.length := by simpa [kinds] using h
  refine ⟨kinds[r], List.getElem?_eq_getElem hl, List.getElem_mem hl, ?_⟩
  have : ∀ k ∈ kinds, I64 k := by unfold I64; decide
  exact this _ (List.getElem_mem hl)
theorem kinds_row (w : World) : Calls Try.prog 17 #[] w fun e w' => ∃ g, e = .returned (.slice (some ⟨g, 0, none⟩) 7 7) ∧ (∀ (i : Nat) (k : Int), kinds[i]? = some k → w'.cell? ⟨g, i, none⟩ = some (.int .i64 k)) ∧ w.grownBy w' none :=
  (kinds_any w).mono (by
    rintro e w' ⟨rfl, rfl⟩
    refine ⟨_, rfl, ?_, World.grownBy_alloc _ _ _⟩
    intro i k h
    have hb : (w.alloc (.cells (kinds.map (Value.int .i64)).toArray 3)).heap[w.heap.size]? = some (.cells (kinds.map (Value.int .i64)).toArray 3 (0, 0)) := heap_alloc_new w _
    rw [cell_at hb]
    simp [h])
theorem scI_low {k : Int} {b : Nat} (hk : k ∈ kinds) (h : b < 128) : scI k b = some b := scI_of hk (by rw [atR, if_pos h]) (by omega)
theorem byI_low {k : Int} {b : Nat} (hk : k ∈ kinds) (h : b < 128) : byI k (b : Int) = some b := by
  obtain ⟨c, h1, h2, h3⟩ := scI_back (by omega) (scI_low hk h)
  rw [scI_low hk (by omega)] at h3
  rw [h1, h3]

set_option maxRecDepth 100000 in
set_option maxHeartbeats 1000000 in
theorem plain_walk {P : World → Prop} (C : Con P) (a : Int) (b : Nat) (hb : b < 256) (u : Int) (hu : I32 u) (w : World) (hw : P w) : Calls Try.prog 6 #[.int .i64 a, .int .u8 (b : Int), .int .i32 u] w fun e w' => e = .returned (.bool true) ∧ w.grownBy w' none := by
  obtain ⟨r, hr0, hr15⟩ := mod_fit a 7 (by omega) (by omega)
  have hr : wrap64 ((IntKind.u64.wrap a).tmod 7) = (r : Int) := hr0
  clear hr0
  obtain ⟨k, hkr, hkm, hk⟩ := kinds_at r hr15
  have a0 := Hid.mk' (fun w hw => works_any C w hw)
  have K := Hid.mk' (fun (a b : World) (h : P a) (g : a.grownBy b none) => C.keep h g)
  obtain ⟨x, y, a1, hxy⟩ : ∃ (x : Nat) (y : Bool), Hid (∀ w, P w → Calls Try.prog 7 #[.int .i64 k, .int .u8 (b : Int)] w fun e w' => e = .returned (.tuple #[.int .i32 (x : Int), .bool y]) ∧ w.grownBy w' none) ∧ ((b < 128 ∧ x = b ∧ y = true) ∨ ¬ b < 128) := by
    refine ⟨_, _, Hid.mk' (fun w hw => C.scalar k hk b hb w _ (Hid.mk' rfl) hw), ?_⟩
    by_cases h : b < 128
    · rw [scI_low hkm h]; exact .inl ⟨h, rfl, rfl⟩
    · exact .inr h
  obtain ⟨z, v, a3, hzv⟩ : ∃ (x : Nat) (y : Bool), Hid (∀ w, P w → Calls Try.prog 9 #[.int .i64 k, .int .i32 u] w fun e w' => e = .returned (.tuple #[.int .u8 (x : Int), .bool y]) ∧ w.grownBy w' none) ∧ (u < 0 ∨ 128 ≤ u ∨ (u < 128 ∧ u = (x : Int) ∧ y = true)) := by
    refine ⟨_, _, Hid.mk' (fun w hw => C.byte k hk u hu w _ (Hid.mk' rfl) hw), ?_⟩
    by_cases h : u < 0
    · exact .inl h
    · by_cases h2 : 128 ≤ u
      · exact .inr (.inl h2)
      · obtain ⟨n, rfl⟩ : ∃ n : Nat, u = (n : Int) := ⟨u.toNat, by omega⟩
        rw [byI_low hkm (by omega)]; exact .inr (.inr ⟨by omega, rfl, rfl⟩)
  have hq := Hid.mk' hw
  have hr15' : (r : Int) < 7 := by omega
  have hb' : (b : Int) < 256 := by omega
  clear hk hkm hw C hu
  rcases hxy with ⟨h1, rfl, rfl⟩ | h1 <;> rcases hzv with h2 | h2 | ⟨h2, rfl, rfl⟩
  all_goals (first | (have d1 : decide ((b : Int) < 128) = false := by simp; omega) | skip)
  all_goals (first | (have d1 : (x : Int) < 128 := by omega) | skip)
  all_goals (first | (have d2 : decide (u < 0) = false := by simp; omega) | skip)
  all_goals (first | (have d2 : (z : Int) < 128 := by omega) | skip)
  all_goals (first | (have d3 : decide (128 ≤ (z : Int)) = false := by simp; omega) | skip)
  all_goals (first | (have d4 : decide ((z : Int) < 0) = false := by simp; omega) | skip)
  all_goals
    go_enter Try.func6, Try.ntmps6
    go_upto_region 4 with (first
      | (go_at_call 16; refine (a0.out _ hq.out).mono ?_; rintro e w1 ⟨rfl, hg1, hp1⟩; have hq1 := Hid.mk' hp1; clear hp1)
      | (go_at_call 17; refine (kinds_row _).mono ?_; rintro e w2 ⟨g, rfl, hc, hg2⟩; have hq2 := Hid.mk' (K.out _ _ hq1.out hg2); have hc' := hc r k hkr; clear hc))
    go_wp2_with (first
      | (go_at_call 7; refine (a1.out _ hq2.out).mono ?_; rintro e w3 ⟨rfl, hg3⟩; have hq3 := Hid.mk' (K.out _ _ hq2.out hg3))
      | (go_at_call 9; refine (a3.out _ hq3.out).mono ?_; rintro e w4 ⟨rfl, hg4⟩))
    go_ret
    exact ⟨rfl, gt (gt (gt hg1 hg2) hg3) hg4⟩
