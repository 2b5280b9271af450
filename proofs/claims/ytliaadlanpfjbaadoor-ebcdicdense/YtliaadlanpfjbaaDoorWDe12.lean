/- EbcdicDense: the walk. -/
import Derived.Test.YtliaadlanpfjbaaDoorPrc12
import Derived.Test.YtliaadlanpfjbaaDoorWPl12
import Derived.Test.YtliaadlanpfjbaaDoorDWorks
import Derived.Test.YtliaadlanpfjbaaDoorTx
import Derived.Below
namespace Go.Proofs.YtliaadlanpfjbaaDoor.C12
open Go.ChangeShapes Go.WideShapes Go.ChangeAt Go.RowKit Go.Maps Go.Proofs.YtliaadlanpfjbaaDoor.Mem Go.Proofs.YtliaadlanpfjbaaDoor.Ucs Go.Proofs.YtliaadlanpfjbaaDoor.El Go.Proofs.YtliaadlanpfjbaaDoor.Ru Go.Proofs.YtliaadlanpfjbaaDoor.Dn
open Go.Proofs.YtliaadlanpfjbaaDoor.U8 hiding Hid.mk'
set_option linter.unusedVariables false
set_option linter.unusedSimpArgs false

/-- All bytes' scalars, as numbers. -/
def usR (k : Int) : List Nat := (List.range 256).map (fun b => atR k b)
theorem usR_len (k : Int) : (usR k).length = 256 := by simp [usR]
theorem flR_us {k : Int} (hk : k ∈ kinds) : flR k = ints (usR k) := by simp [flR, hk, ints, usR, List.map_map, Function.comp_def]
theorem tab_sc {k : Int} (hk : k ∈ kinds) : ∀ x ∈ tab k, scB (x : Int) = true := by
  have : ∀ k ∈ kinds, ∀ x ∈ tab k, scB (x : Int) = true := by decide +kernel
  exact this k hk
theorem at_sc {k : Int} (hk : k ∈ kinds) (b : Nat) : scB (atR k b : Int) = true := by
  rw [atR, List.getD_eq_getElem?_getD]
  cases e : (tab k)[b]? with
  | none => decide
  | some x => exact tab_sc hk x (List.mem_of_getElem? e)
theorem usR_sc {k : Int} (hk : k ∈ kinds) : Sc (usR k) := by
  intro u hu
  simp only [usR, List.mem_map] at hu
  obtain ⟨b, _, rfl⟩ := hu
  exact at_sc hk b
theorem ints_at (k : Int) {i : Nat} (hi : i < 256) : ∃ h : i < (ints (usR k)).length, (ints (usR k))[i] = (atR k i : Int) :=
  ⟨by simp [ints, usR, hi], by simp [ints, usR]⟩
theorem sc_same {k : Int} (hk : k ∈ kinds) {b : Nat} (hb : b < 256) (R : Option Nat) (hR : scI k b = R) : scR 0 (ints (usR k)) b = (((R.getD 0 : Nat) : Int), R.isSome) := by
  obtain ⟨h1, h2⟩ := ints_at k hb
  rw [scR_at (Nat.zero_le _) (by simpa using h1)]
  simp only [Nat.sub_zero, h2]
  rw [← hR, scI, if_pos hk]
  by_cases h : atR k b = 65533
  · rw [if_pos h, if_pos (by rw [h]; rfl)]
    rfl
  · rw [if_neg h, if_neg (by omega)]
    rfl
theorem find_idx (p : Nat → Bool) : ∀ (n : Nat), (List.range n).find? p = (((List.range n).map p).findIdx? (· == true)) := by
  intro n
  induction n with
  | zero => rfl
  | succ n ih =>
    rw [List.range_succ, List.map_append, List.find?_append, List.findIdx?_append, ih]
    cases h : ((List.range n).map p).findIdx? (· == true) with
    | some i => rfl
    | none =>
      cases hp : p n <;> simp [List.findIdx?_cons, hp]
theorem by_same {k : Int} (hk : k ∈ kinds) (u : Int) (R : Option Nat) (hR : byI k u = R) : byR 0 (ints (usR k)) u = (((R.getD 0 : Nat) : Int), R.isSome) := by
  rw [← hR, byI, if_pos hk, byR]
  by_cases h : u = 65533
  · rw [if_pos h, if_pos h]
    rfl
  · rw [if_neg h, if_neg h, find_idx]
    have e : (ints (usR k)).findIdx? (· == u) = ((List.range 256).map (fun b => (atR k b : Int) == u)).findIdx? (· == true) := by
      simp [ints, usR, List.findIdx?_map, Function.comp_def]
    rw [e]
    cases ((List.range 256).map (fun b => (atR k b : Int) == u)).findIdx? (· == true) with
    | none => rfl
    | some i => simp
theorem below_g {w w' : World} (h : w.grownBy w' none) : Below w.heap.size w w' := ⟨h.os, h.tape, h.output, h.size, fun k hk => h.block k hk (by simp)⟩

set_option maxRecDepth 100000 in
set_option maxHeartbeats 2000000 in
theorem dense_walk (a : Int) (u : Int) (hu : I32 u) (w : World) (hF : Forms w) : Calls Tryd.prog 3 #[.int .i64 a, .int .i32 u] w fun e w' => e = .returned (.bool true) ∧ Below w.heap.size w w' := by
  obtain ⟨r, hr0, hr15⟩ := mod_fit a 3 (by omega) (by omega)
  have hr : wrap64 ((IntKind.u64.wrap a).tmod 3) = (r : Int) := hr0
  clear hr0
  obtain ⟨k, hkr, hkm, hk⟩ := kinds_at r hr15
  have a0 := Hid.mk' (fun w => works_any con w trivial)
  obtain ⟨S, hS⟩ : ∃ S, Hid (str (units (usR k)) = S) := ⟨_, Hid.mk' rfl⟩
  have hlen : Hid ((ints (usR k)).length = 256) := Hid.mk' (by rw [ints, List.length_map, usR_len])
  have a1 : Hid (∀ w, Calls Tryd.prog 8 #[.int .i64 k] w fun e w' => ∃ ro rc, e = .returned (.slice ro 256 rc) ∧ RuE.Own w' ro rc (ints (usR k)) ∧ w.grownBy w' none) := Hid.mk' (fun w => by
    refine (con.flat k hk w (ints (usR k)) (Hid.mk' (flR_us hkm)) trivial).mono ?_
    rintro e w' ⟨ro, rc, rfl, h1, h2, _⟩
    rw [hlen.out]
    exact ⟨ro, rc, rfl, h1, h2⟩)
  have a2 : Hid (∀ ro rc w, RuE.Own w ro rc (ints (usR k)) → Calls Tryd.prog 7 #[.slice ro 256 rc] w fun e w' => e = .returned (.string S) ∧ w.grownBy w' none) := Hid.mk' (fun ro rc w ho =>
    refText_any ro rc (usR k) (usR_sc hkm) 256 (usR_len k) (by omega) w ho.rd (by have := ho.cap_le; rw [hlen.out] at this; exact this) ho.cap_max S hS)
  have a3 : Hid (∀ w, Forms w → Calls Tryd.prog 6 #[.int .i64 0, .string S] w fun e w' => ∃ B bm ro rc, e = .returned (.tuple #[.pointer (some ⟨B, 0, none⟩), .int .i64 0]) ∧ Tab w' B bm 0 ro rc (ints (usR k)) ∧ w.grownBy w' none) := Hid.mk' (fun w hF => by
    have hs1 : S.toList = units (usR k) := by rw [← hS.out, str_toList]
    have hs2 : S.size ≤ 100000 := by
      rw [← hS.out, str_size]
      have := units_small (usR k)
      rw [usR_len] at this
      omega
    exact new_ok 0 S hs2 w hF (usR k) (by omega) (usR_sc hkm) hs1 (by rw [usR_len]; omega))
  have a4 : Hid (∀ i : Nat, i < 256 → ∃ (x : Nat) (y : Bool), (∀ w, Calls Tryd.prog 9 #[.int .i64 k, .int .u8 (i : Int)] w fun e w' => e = .returned (.tuple #[.int .i32 (x : Int), .bool y]) ∧ w.grownBy w' none) ∧ Hid (scR 0 (ints (usR k)) (i : Int).toNat = ((x : Int), y))) := Hid.mk' (fun i hi =>
    ⟨_, _, fun w => con.scalar k hk i hi w _ (Hid.mk' rfl) trivial, Hid.mk' (by rw [Int.toNat_natCast]; exact sc_same hkm hi _ rfl)⟩)
  obtain ⟨c, y, a5, hby⟩ : ∃ (x : Nat) (y : Bool), Hid (∀ w, Calls Tryd.prog 11 #[.int .i64 k, .int .i32 u] w fun e w' => e = .returned (.tuple #[.int .u8 (x : Int), .bool y]) ∧ w.grownBy w' none) ∧ Hid (byR 0 (ints (usR k)) u = ((x : Int), y)) :=
    ⟨_, _, Hid.mk' (fun w => con.byte k hk u hu w _ (Hid.mk' rfl) trivial), Hid.mk' (by_same hkm u _ rfl)⟩
  have hl0 : Hid (0 + (ints (usR k)).length ≤ 256) := Hid.mk' (by rw [hlen.out]; omega)
  have hF0 := Hid.mk' hF
  have hu0 := Hid.mk' hu
  generalize ints (usR k) = zs at *
  have hr15' : (r : Int) < 3 := by omega
  clear hk hkm hF hu hS hlen
  go_enter Tryd.func3, Tryd.ntmps3
  go_upto_region 5 with (first
    | (go_at_call 4; refine (a0.out _).mono ?_; rintro e w1 ⟨rfl, hg1, _⟩)
    | (go_at_call 5; refine (kinds_row _).mono ?_; rintro e w2 ⟨g, rfl, hc, hg2⟩; have hc' := hc r k hkr; clear hc))
  have hG2 := Hid.mk' (grownBy_trans hg1 hg2)
  clear hg1 hg2 hc' a0
  go_upto_region 8 with (first
    | (go_at_call 8; refine (a1.out _).mono ?_; rintro e w3 ⟨ro, rc, rfl, ho3, hg3⟩; have ho3' := Hid.mk' ho3; clear ho3)
    | (go_at_call 7; refine (a2.out ro rc _ ho3'.out).mono ?_; rintro e w4 ⟨rfl, hg4⟩)
    | (go_at_call 6; refine (a3.out _ (hF0.out.kept0 (grownBy_trans (grownBy_trans hG2.out hg3) hg4))).mono ?_; rintro e w5 ⟨B, bm, so, sc, rfl, hT5, hg5⟩))
  have hG5 := Hid.mk' (grownBy_trans (grownBy_trans (grownBy_trans hG2.out hg3) hg4) hg5)
  have hT := Hid.mk' hT5
  clear hg3 hg4 hg5 hT5 hG2 a1 a2 a3 ho3' hF0
  go_wp2
  go_loopw [9] (fun t9 wx => ∃ (i : Nat), i ≤ 256 ∧ t9 = .int .i64 (i : Int) ∧ Hid (Tab wx B bm 0 so sc zs) ∧ Hid (w.grownBy wx none)) (fun t9 _ => 256 - (intOf t9).toNat)
  case atStart => exact ⟨0, by omega, rfl, hT, hG5⟩
  case round =>
    obtain ⟨i, hi, rfl, hTx, hG⟩ := hrel
    by_cases hlt : i < 256
    · have hlt' : (i : Int) < 256 := by omega
      obtain ⟨x, y1, b1, b2⟩ := a4.out i hlt
      have b1' := Hid.mk' b1
      clear b1 a4 a5 hby hT hG5
      cases y1 <;>
      · go_wp2_with (first
          | (go_at_call 9; refine (b1'.out _).mono ?_; rintro e w6 ⟨rfl, hg6⟩; have hT6 := Hid.mk' (hTx.out.kept0 hg6))
          | (go_at_call 10; refine (scalar_int _ B bm 0 so sc zs hT6.out hl0.out _ (by omega) (by omega) _ _ b2).mono ?_; rintro e w7 ⟨rfl, rfl⟩))
        go_roundw
        case rel => exact ⟨i + 1, by omega, by go_num, hT6, Hid.mk' (grownBy_trans hG.out hg6)⟩
        all_goals (simp [intOf]; omega)
    · obtain rfl : i = 256 := by omega
      have hu1 := hu0.out.1
      have hu2 := hu0.out.2
      clear a4 hT hG5
      cases y <;>
      · go_wp2_with (first
          | (go_at_call 11; refine (a5.out _).mono ?_; rintro e w6 ⟨rfl, hg6⟩; have hT6 := Hid.mk' (hTx.out.kept0 hg6))
          | (go_at_call 12; refine (byte_at _ B bm 0 so sc zs hT6.out u hu1 hu2 _ _ hby).mono ?_; rintro e w7 ⟨rfl, rfl⟩))
        go_ret
        exact ⟨rfl, below_g (grownBy_trans hG.out hg6)⟩
end Go.Proofs.YtliaadlanpfjbaaDoor.C12
