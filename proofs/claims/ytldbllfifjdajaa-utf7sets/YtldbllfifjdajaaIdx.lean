/- strings.IndexByte, IndexRune and ContainsRune over texts of ASCII: walks. -/
import Derived.Test.YtldbllfifjdajaaBits
import Derived.Test.YtldbllfifjdajaaTells
import Derived.Test.YtldbllfifjdajaaBlk
import Derived.Laws.RangeString
import Derived.Laws.RangeAny
import Derived.BigQuiet
import Derived.WalkMore
import Derived.Deep.RegionHeld3
namespace Go.Proofs.Ytldbllfifjdajaa.Sv
open Go.ChangeShapes Go.WideShapes Go.ChangeAt Go.RowKit Go.Proofs.Ytldbllfifjdajaa.Mem Go.Proofs.Ytldbllfifjdajaa.Ucs
set_option linter.unusedVariables false
set_option linter.unusedSimpArgs false

theorem lite_any (s : ByteArray) (c : Int) (w : World) : Calls Try.prog 34 #[.string s, .int .u8 c] w fun e w' => e = .returned (.int .i64 (Lib.indexByte s.data.toList c.toNat.toUInt8)) ∧ w' = w := by
  go_enter Try.func34, Try.ntmps34
  go_wp2
  rw [run_callFunc_extern Try.func35 (by kernel_rfl) (by kernel_rfl) (by kernel_rfl) (e := Extern.BytealgIndexByte.indexByte) (by kernel_rfl), Lib.run_indexByteString]
  simp only [Result.andThen]
  rw [Oper.upon_value]
  go_wp2
  go_ret
  exact ⟨rfl, rfl⟩
theorem byte_any (s : ByteArray) (c : Int) (w : World) : Calls Try.prog 29 #[.string s, .int .u8 c] w fun e w' => e = .returned (.int .i64 (Lib.indexByte s.data.toList c.toNat.toUInt8)) ∧ w' = w := by
  go_enter Try.func29, Try.ntmps29
  go_wp2_with (go_at_call 34; refine (lite_any _ _ _).mono ?_; rintro e w' ⟨rfl, rfl⟩)
  go_ret
  exact ⟨rfl, rfl⟩
theorem byte_is (s : ByteArray) (c : Int) (w : World) (i : Int) (hi : Lib.indexByte s.data.toList c.toNat.toUInt8 = i) : Calls Try.prog 29 #[.string s, .int .u8 c] w fun e w' => e = .returned (.int .i64 i) ∧ w' = w := by
  subst hi; exact byte_any s c w
set_option maxRecDepth 100000 in
set_option maxHeartbeats 1000000 in
theorem rune_low (s : ByteArray) (u : Int) (h0 : 0 ≤ u) (h1 : u < 128) (w : World) : Calls Try.prog 25 #[.string s, .int .i32 u] w fun e w' => e = .returned (.int .i64 (Lib.indexByte s.data.toList u.toNat.toUInt8)) ∧ w' = w := by
  go_enter Try.func25, Try.ntmps25
  go_wp2_with (go_at_call 29; refine (byte_any _ _ _).mono ?_; rintro e w' ⟨rfl, rfl⟩)
  go_ret
  exact ⟨rfl, rfl⟩
theorem valid_any (u : Int) (h : scB u = true) (w : World) : Calls Try.prog 30 #[.int .i32 u] w fun e w' => e = .returned (.bool true) ∧ w' = w := by
  have hb := scB_iff.1 h
  obtain ⟨h0, h1, h2⟩ := hb
  by_cases c : u < 55296
  · clear h2
    go_enter Try.func30, Try.ntmps30
    go_wp2
    go_ret
    exact ⟨rfl, rfl⟩
  · have h3 : 57343 < u := by omega
    clear h2
    go_enter Try.func30, Try.ntmps30
    go_wp2
    go_ret
    exact ⟨rfl, rfl⟩

theorem ascii_get {s : ByteArray} (hs : ∀ b ∈ s.data.toList, b.toNat < 128) (i : Nat) (h : i < s.size) : (s[i]'h).toNat < 128 := hs _ (Array.getElem_mem_toList (xs := s.data) h)
theorem ascii_cut {s : ByteArray} (hs : ∀ b ∈ s.data.toList, b.toNat < 128) (a b : Nat) : ∀ x ∈ (s.extract a b).data.toList, x.toNat < 128 := by
  intro x hx
  refine hs x ?_
  rw [ByteArray.data_extract, Array.toList_extract] at hx
  exact List.mem_of_mem_drop (List.mem_of_mem_take (by simpa [List.extract] using hx))
set_option maxRecDepth 100000 in
set_option maxHeartbeats 1000000 in
theorem rune_fffd (s : ByteArray) (hs : ∀ b ∈ s.data.toList, b.toNat < 128) (hz : s.size ≤ 1000) (w : World) : Calls Try.prog 25 #[.string s, .int .i32 65533] w fun e w' => e = .returned (.int .i64 (-1)) ∧ w.grownBy w' none := by
  have Hs : Hid (∀ b ∈ s.data.toList, b.toNat < 128) := hs
  clear hs
  go_enter Try.func25, Try.ntmps25
  go_wp2
  go_loopw [] (fun wr => ∃ pos : Nat, pos ≤ s.size ∧ wr = w.iter s pos) (fun wr => s.size - wr.iterPos w.heap.size)
  case atStart => exact ⟨0, Nat.zero_le _, rfl⟩
  case round =>
    obtain ⟨pos, hpos, rfl⟩ := hrel
    by_cases hlt : pos < s.size
    · have ha := ascii_get Hs.out pos hlt
      have hnx : ∀ ty, (Instr.next (.pointer (some ⟨w.heap.size, 0, none⟩)) true ty).run Try.prog (w.iter s pos) = _ := fun ty => run_next_ascii w s pos ty hlt ha
      generalize s[pos] = c at *
      go_wp2
      go_roundw
      case rel => exact ⟨pos + 1, by omega, rfl⟩
      case measure => simp; omega
    · have hnx : ∀ ty, (Instr.next (.pointer (some ⟨w.heap.size, 0, none⟩)) true ty).run Try.prog (w.iter s pos) = _ := fun ty => run_next_end w s pos ty hlt
      go_wp2
      go_ret
      exact ⟨rfl, World.grownBy_alloc _ _ _⟩

set_option maxRecDepth 100000 in
set_option maxHeartbeats 1000000 in
theorem rune_two (s : ByteArray) (hs : ∀ b ∈ s.data.toList, b.toNat < 128) (hz : s.size ≤ 1000) (hz5 : 5 ≤ s.size) (u : Int) (hu : 128 ≤ u) (hf : u ≠ 65533) (hsc : scB u = true) (x y : UInt8) (he : Utf8.encode u = ⟨#[x, y]⟩) (hy : 128 ≤ y.toNat) (w : World) : Calls Try.prog 25 #[.string s, .int .i32 u] w fun e w' => e = .returned (.int .i64 (-1)) ∧ w.grownBy w' none := by
  have hx : ∀ a b, Lib.indexByte (s.extract a b).data.toList ((y.toNat : Nat) : Int).toNat.toUInt8 = -1 := fun a b => index_none (ascii_cut hs a b) (by simpa using hy)
  have Hx : Hid (∀ a b, Lib.indexByte (s.extract a b).data.toList ((y.toNat : Nat) : Int).toNat.toUInt8 = -1) := hx
  have Hsc : Hid (scB u = true) := hsc
  have hc0 := ascii_get hs 1 (by omega)
  obtain ⟨c, hc⟩ : ∃ c, s[1]'(by omega) = c := ⟨_, rfl⟩
  have hc' : ∀ h, s[1]'h = c := fun _ => hc
  rw [hc] at hc0
  have hne : ((c.toNat : Int) == (y.toNat : Int)) = false := by rw [beq_eq_false_iff_ne]; omega
  have hw : IntKind.i64.wrap 2 = 2 := by decide
  have hgl : ∀ h, (⟨#[x, y]⟩ : ByteArray)[1]'h = y := fun _ => rfl
  clear hx hs hsc hc
  go_enter Try.func25, Try.ntmps25
  go_wp2_with (go_at_call 30; refine (valid_any _ Hsc.out _).mono ?_; rintro e w' ⟨rfl, rfl⟩)
  go_step3
  go_wp2
  go_loop [9, 10] (fun i f => i = .int .i64 1 ∧ f = .int .i64 0) (fun _ _ => 0)
  case atStart => exact ⟨rfl, rfl⟩
  case round =>
    obtain ⟨rfl, rfl⟩ := hrel
    go_wp2
    go_step3
    go_wp2
    go_quiet (fail)
    go_wp2
    go_region_with (go_at_call 29; refine (byte_is _ _ _ (-1) (Hx.out _ _)).mono ?_; rintro e w' ⟨rfl, rfl⟩)
    all_goals go_wp2
    all_goals rw [Exit.noGoto_ret]
    all_goals (try go_wp2)
    all_goals rw [Exit.noGoto_ret]
    all_goals (try go_wp2)
    all_goals go_ret
    all_goals refine ⟨rfl, ?_⟩
    all_goals (repeat (first | with_reducible exact grownBy_refl _ _ | (with_reducible refine gs ?_ ?_; first | omega | (simp; omega)) | with_reducible refine ga ?_ | with_reducible refine gd ?_ | with_reducible refine gdn ?_ | with_reducible refine gt ?_ (by assumption)))

set_option maxRecDepth 100000 in
set_option maxHeartbeats 1000000 in
theorem rune_three (s : ByteArray) (hs : ∀ b ∈ s.data.toList, b.toNat < 128) (hz : s.size ≤ 1000) (hz5 : 5 ≤ s.size) (u : Int) (hu : 128 ≤ u) (hf : u ≠ 65533) (hsc : scB u = true) (x z y : UInt8) (he : Utf8.encode u = ⟨#[x, z, y]⟩) (hy : 128 ≤ y.toNat) (w : World) : Calls Try.prog 25 #[.string s, .int .i32 u] w fun e w' => e = .returned (.int .i64 (-1)) ∧ w.grownBy w' none := by
  have hx : ∀ a b, Lib.indexByte (s.extract a b).data.toList ((y.toNat : Nat) : Int).toNat.toUInt8 = -1 := fun a b => index_none (ascii_cut hs a b) (by simpa using hy)
  have Hx : Hid (∀ a b, Lib.indexByte (s.extract a b).data.toList ((y.toNat : Nat) : Int).toNat.toUInt8 = -1) := hx
  have Hsc : Hid (scB u = true) := hsc
  have hc0 := ascii_get hs 2 (by omega)
  obtain ⟨c, hc⟩ : ∃ c, s[2]'(by omega) = c := ⟨_, rfl⟩
  have hc' : ∀ h, s[2]'h = c := fun _ => hc
  rw [hc] at hc0
  have hne : ((c.toNat : Int) == (y.toNat : Int)) = false := by rw [beq_eq_false_iff_ne]; omega
  have hw : IntKind.i64.wrap 3 = 3 := by decide
  have hgl : ∀ h, (⟨#[x, z, y]⟩ : ByteArray)[2]'h = y := fun _ => rfl
  clear hx hs hsc hc
  go_enter Try.func25, Try.ntmps25
  go_wp2_with (go_at_call 30; refine (valid_any _ Hsc.out _).mono ?_; rintro e w' ⟨rfl, rfl⟩)
  go_step3
  go_wp2
  go_loop [9, 10] (fun i f => i = .int .i64 2 ∧ f = .int .i64 0) (fun _ _ => 0)
  case atStart => exact ⟨rfl, rfl⟩
  case round =>
    obtain ⟨rfl, rfl⟩ := hrel
    go_wp2
    go_step3
    go_wp2
    go_quiet (fail)
    go_wp2
    go_region_with (go_at_call 29; refine (byte_is _ _ _ (-1) (Hx.out _ _)).mono ?_; rintro e w' ⟨rfl, rfl⟩)
    all_goals go_wp2
    all_goals rw [Exit.noGoto_ret]
    all_goals (try go_wp2)
    all_goals rw [Exit.noGoto_ret]
    all_goals (try go_wp2)
    all_goals go_ret
    all_goals refine ⟨rfl, ?_⟩
    all_goals (repeat (first | with_reducible exact grownBy_refl _ _ | (with_reducible refine gs ?_ ?_; first | omega | (simp; omega)) | with_reducible refine ga ?_ | with_reducible refine gd ?_ | with_reducible refine gdn ?_ | with_reducible refine gt ?_ (by assumption)))

set_option maxRecDepth 100000 in
set_option maxHeartbeats 1000000 in
theorem rune_four (s : ByteArray) (hs : ∀ b ∈ s.data.toList, b.toNat < 128) (hz : s.size ≤ 1000) (hz5 : 5 ≤ s.size) (u : Int) (hu : 128 ≤ u) (hf : u ≠ 65533) (hsc : scB u = true) (x z v y : UInt8) (he : Utf8.encode u = ⟨#[x, z, v, y]⟩) (hy : 128 ≤ y.toNat) (w : World) : Calls Try.prog 25 #[.string s, .int .i32 u] w fun e w' => e = .returned (.int .i64 (-1)) ∧ w.grownBy w' none := by
  have hx : ∀ a b, Lib.indexByte (s.extract a b).data.toList ((y.toNat : Nat) : Int).toNat.toUInt8 = -1 := fun a b => index_none (ascii_cut hs a b) (by simpa using hy)
  have Hx : Hid (∀ a b, Lib.indexByte (s.extract a b).data.toList ((y.toNat : Nat) : Int).toNat.toUInt8 = -1) := hx
  have Hsc : Hid (scB u = true) := hsc
  have hc0 := ascii_get hs 3 (by omega)
  obtain ⟨c, hc⟩ : ∃ c, s[3]'(by omega) = c := ⟨_, rfl⟩
  have hc' : ∀ h, s[3]'h = c := fun _ => hc
  rw [hc] at hc0
  have hne : ((c.toNat : Int) == (y.toNat : Int)) = false := by rw [beq_eq_false_iff_ne]; omega
  have hw : IntKind.i64.wrap 4 = 4 := by decide
  have hgl : ∀ h, (⟨#[x, z, v, y]⟩ : ByteArray)[3]'h = y := fun _ => rfl
  clear hx hs hsc hc
  go_enter Try.func25, Try.ntmps25
  go_wp2_with (go_at_call 30; refine (valid_any _ Hsc.out _).mono ?_; rintro e w' ⟨rfl, rfl⟩)
  go_step3
  go_wp2
  go_loop [9, 10] (fun i f => i = .int .i64 3 ∧ f = .int .i64 0) (fun _ _ => 0)
  case atStart => exact ⟨rfl, rfl⟩
  case round =>
    obtain ⟨rfl, rfl⟩ := hrel
    go_wp2
    go_step3
    go_wp2
    go_quiet (fail)
    go_wp2
    go_region_with (go_at_call 29; refine (byte_is _ _ _ (-1) (Hx.out _ _)).mono ?_; rintro e w' ⟨rfl, rfl⟩)
    all_goals go_wp2
    all_goals rw [Exit.noGoto_ret]
    all_goals (try go_wp2)
    all_goals rw [Exit.noGoto_ret]
    all_goals (try go_wp2)
    all_goals go_ret
    all_goals refine ⟨rfl, ?_⟩
    all_goals (repeat (first | with_reducible exact grownBy_refl _ _ | (with_reducible refine gs ?_ ?_; first | omega | (simp; omega)) | with_reducible refine ga ?_ | with_reducible refine gd ?_ | with_reducible refine gdn ?_ | with_reducible refine gt ?_ (by assumption)))
end Go.Proofs.Ytldbllfifjdajaa.Sv
