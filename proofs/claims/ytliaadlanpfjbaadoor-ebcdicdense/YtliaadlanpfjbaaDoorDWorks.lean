/- New as the laws call it; that the program works at all. -/
import Derived.Test.YtliaadlanpfjbaaDoorNew
import Derived.Test.YtliaadlanpfjbaaDoorLook
namespace Go.Proofs.YtliaadlanpfjbaaDoor.Dn
open Go.ChangeShapes Go.WideShapes Go.ChangeAt Go.RowKit Go.Maps Go.Proofs.YtliaadlanpfjbaaDoor.Mem Go.Proofs.YtliaadlanpfjbaaDoor.Ucs Go.Proofs.YtliaadlanpfjbaaDoor.U8
set_option linter.unusedVariables false

theorem newE_zero {fi : Int} {L : List UInt8} (h : newE fi L = 0) : ∃ f : Nat, fi = (f : Int) ∧ f ≤ 255 ∧ Sc (scanAll L).1 ∧ L = units (scanAll L).1 ∧ f + (scanAll L).1.length ≤ 256 ∧ (scanAll L).2.2 = 0 := by
  unfold newE at h
  split at h
  · cases h
  · rename_i h1
    split at h
    · cases h
    · rename_i h2
      split at h
      · cases h
      · rename_i h3
        have h2' : (scanAll L).2.2 = 0 := Decidable.not_not.1 h2
        obtain ⟨a, b⟩ := text_of L.length L (Nat.le_refl _) h2'
        exact ⟨fi.toNat, by omega, by omega, b, a, by omega, h2'⟩
theorem new_no (fi : Int) (s : ByteArray) (hs : s.size ≤ 100000) (w : World) (hF : Forms w) (E : Int) (hE : newE fi s.toList = E) (hne : E ≠ 0) :
    Calls Tryd.prog 6 #[.int .i64 fi, .string s] w fun e w' => e = .returned (.tuple #[.pointer none, .int .i64 E]) ∧ w.grownBy w' none := by
  unfold newE at hE
  split at hE
  · rename_i h1
    subst hE
    refine (new_range fi s w h1).mono ?_
    rintro e w' ⟨rfl, rfl⟩
    exact ⟨rfl, grownBy_refl _ _⟩
  · rename_i h1
    obtain ⟨f, rfl⟩ : ∃ f : Nat, fi = (f : Int) := ⟨fi.toNat, by omega⟩
    split at hE
    · rename_i h2
      subst hE
      exact new_bad f (by omega) s hs w hF h2
    · rename_i h2
      split at hE
      · rename_i h3
        subst hE
        have h2' : (scanAll s.toList).2.2 = 0 := Decidable.not_not.1 h2
        obtain ⟨a, b⟩ := text_of s.toList.length s.toList (Nat.le_refl _) h2'
        exact new_long f (by omega) _ b s a hs w hF (by omega)
      · exact absurd hE.symm hne
theorem new_ok (f : Nat) (s : ByteArray) (hs : s.size ≤ 100000) (w : World) (hF : Forms w) (us : List Nat) (hf : f ≤ 255) (hsc : Sc us) (hu : s.toList = units us) (hl : f + us.length ≤ 256) :
    Calls Tryd.prog 6 #[.int .i64 (f : Int), .string s] w fun e w' => ∃ B bm ro rc, e = .returned (.tuple #[.pointer (some ⟨B, 0, none⟩), .int .i64 0]) ∧ Tab w' B bm f ro rc (ints us) ∧ w.grownBy w' none :=
  new_yes f hf us hsc s hu hs w hF hl

theorem scalar_int (w : World) (B bm f : Nat) (ro : Option Addr) (rc : Nat) (zs : List Int) (h : Tab w B bm f ro rc zs) (hf : f + zs.length ≤ 256) (b : Int) (h0 : 0 ≤ b) (hb : b < 256) (x : Int) (ok : Bool) (hR : Hid (scR f zs b.toNat = (x, ok))) :
    Calls Tryd.prog 10 #[.pointer (some ⟨B, 0, none⟩), .int .u8 b] w fun e w' => e = .returned (.tuple #[.int .i32 x, .bool ok]) ∧ w' = w := by
  have := scalar_at w B bm f ro rc zs h hf b.toNat (by omega) x ok hR
  rwa [Int.toNat_of_nonneg h0] at this
abbrev wText : ByteArray := ⟨#[97, 195, 164, 239, 191, 189, 97]⟩
theorem new_w (w : World) (hF : Forms w) : Calls Tryd.prog 6 #[.int .i64 128, .string wText] w fun e w' => ∃ B bm ro rc, e = .returned (.tuple #[.pointer (some ⟨B, 0, none⟩), .int .i64 0]) ∧ Tab w' B bm 128 ro rc (ints [97, 228, 65533, 97]) ∧ w.grownBy w' none :=
  new_ok 128 wText (by decide) w hF [97, 228, 65533, 97] (by decide) (by intro u hu; simp at hu; rcases hu with rfl | rfl | rfl | rfl <;> decide) (by rw [ByteArray.toList_eq]; decide) (by decide)

end Go.Proofs.YtliaadlanpfjbaaDoor.Dn
