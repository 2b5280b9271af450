/- What the laws of layer 19 want of the program; JohabGets, JohabSets: walks. -/
import Derived.Test.YtdphkpjamclhjaaJG19
import Derived.Test.YtdphkpjamclhjaaArgs
import Derived.WalkSpells
import Derived.WalkLawsBesides
namespace Go.Proofs.Ytdphkpjamclhjaa.C19
open Go.ChangeShapes Go.WideShapes Go.ChangeAt Go.RowKit Go.Proofs.Ytdphkpjamclhjaa.Mem Go.Proofs.Ytdphkpjamclhjaa.Cb Go.Proofs.Ytdphkpjamclhjaa.Sp
set_option linter.unusedVariables false
set_option linter.unusedSimpArgs false

def I64 (k : Int) : Prop := -9223372036854775808 ≤ k ∧ k ≤ 9223372036854775807
def I32 (k : Int) : Prop := -2147483648 ≤ k ∧ k ≤ 2147483647
structure Con (P : World → Prop) : Prop where
  keep : ∀ {w w' : World}, P w → w.grownBy w' none → P w'
  get : ∀ (ao : Option Addr) (cap : Nat) (L : List UInt8) (n : Nat) (hn : L.length = n) (w : World) (hB : Bytes w ao L) (hc : n ≤ cap) (hcm : cap ≤ 9223372036854775807), P w → Calls Try.prog 9 #[.slice ao n cap] w fun e w' => e = .returned (gotV (gE L)) ∧ w.grownBy w' none
  set : ∀ (u : Int) (hu : I32 u) (w : World), P w → Calls Try.prog 11 #[.int .i32 u] w fun e w' => e = .returned (putV (sE u)) ∧ w.grownBy w' none
  pack : ∀ (f m l : Int) (hf : I64 f) (hm : I64 m) (hl : I64 l) (c : Int) (ok : Bool) (hP : Hid (pkT f m l = (c, ok))) (w : World), P w → Calls Try.prog 13 #[.int .i64 f, .int .i64 m, .int .i64 l] w fun e w' => e = .returned (.tuple #[.int .i64 c, .bool ok]) ∧ w.grownBy w' none
  unpack : ∀ (c : Int) (hc : I64 c) (x y z : Int) (ok : Bool) (hU : Hid (upT c = (x, y, z, ok))) (w : World), P w → Calls Try.prog 15 #[.int .i64 c] w fun e w' => e = .returned (.tuple #[.int .i64 x, .int .i64 y, .int .i64 z, .bool ok]) ∧ w.grownBy w' none
theorem info5 : (Try.prog.info? 5).map (fun i => (i.zero, i.size, i.bytes)) = some (some (.int .u8 0), 1, 1) := by kernel_rfl
theorem info_parts {o : Option TypeInfo} {z : Option Value} {a b : Nat} (h : o.map (fun i => (i.zero, i.size, i.bytes)) = some (z, a, b)) : ∃ i, o = some i ∧ i.zero = z ∧ i.size = a ∧ i.bytes = b := by
  cases o with
  | none => simp at h
  | some i => simp at h; exact ⟨i, rfl, h⟩
/-- Get at bytes of which it is known what it answers. -/
theorem Con.got {P : World → Prop} (C : Con P) (L : List UInt8) (ge gn gk g1 : Int) (hG : gE L = (ge, gn, gk, g1)) : Hid (∀ (n : Nat), L.length = n → ∀ ao cap w, Bytes w ao L → n ≤ cap → cap ≤ 9223372036854775807 → P w → Calls Try.prog 9 #[.slice ao n cap] w fun e w' => e = .returned (gV ge gn gk g1) ∧ w.grownBy w' none) := Hid.mk' (fun n hn ao cap w hB h1 h2 hw => by
  have := C.get ao cap L n hn w hB h1 h2 hw
  rwa [hG] at this)
theorem Con.put {P : World → Prop} (C : Con P) (u : Int) (hu : I32 u) (e : Int) (bs : List UInt8) (hS : sE u = (e, bs)) : Hid (∀ w, P w → Calls Try.prog 11 #[.int .i32 u] w fun x w' => x = .returned (pV e (str bs)) ∧ w.grownBy w' none) := Hid.mk' (fun w hw => by
  have := C.set u hu w hw
  rwa [hS] at this)
set_option maxRecDepth 100000 in
set_option maxHeartbeats 2000000 in
theorem gets_walk {P : World → Prop} (C : Con P) (ao : Option Addr) (cap : Nat) (L : List UInt8) (w : World) (hw : P w) (hB : Bytes w ao L) (hLc : L.length ≤ cap) (hcm : cap ≤ 140737488351232) :
    Calls Try.prog 3 #[.slice ao L.length cap] w fun e w' => e = .returned (.bool true) ∧ w.grownBy w' none := by
  obtain ⟨⟨ge, gn, gk, g1⟩, hG⟩ : ∃ p, gE L = p := ⟨_, rfl⟩
  have a1 := C.got L ge gn gk g1 hG
  have a2 : Hid (∀ ao cap w, Bytes w ao L → L.length ≤ cap → cap ≤ 9223372036854775807 → Calls Try.prog 10 #[.slice ao L.length cap] w fun e w' => e = .returned (gV ge gn gk g1) ∧ w.grownBy w' none) := Hid.mk' (fun ao cap w hB h1 h2 => by
    have := getRef_any ao cap L L.length rfl w hB h1 h2
    rwa [hG] at this)
  have K := Hid.mk' (fun (a b : World) (h : P a) (g : a.grownBy b none) => C.keep h g)
  have hq := Hid.mk' hw
  obtain ⟨i0, hi, hz0, hz1, hz2⟩ := info_parts info5
  have HB : Hid (Bytes w ao L) := Hid.mk' hB
  have hLl : L.length ≤ 140737488351232 := by omega
  clear hB hG hw C
  all_goals
  · go_enter Try.func3, Try.ntmps3
    go_upto_region 2 with (at_builtin; refine wpList_append_any _ rfl _ _ 22 22 rfl i0 Try.underlying22 hi hz0 hz1 hz2 _ _ [] rfl (own_made _) _ rfl L (src_of (HB.out.alloc _) 22 cap Try.underlying22) (by simp; omega) L rfl ?_; intro ao' c' wa hown hga hat)
    have hgw : Hid (w.grownBy wa none) := Hid.mk' (grownBy_new (ga (grownBy_refl _ _)) hga (by intro g e; simp [blk] at e; omega))
    have h1 : Hid (Bytes wa ao' L) := Hid.mk' hown.bytes
    have h2 : Hid (Bytes wa ao L) := Hid.mk' (HB.out.kept0 hgw.out)
    have q1 := hown.cap_le
    have q2 := hown.cap_max
    have hPa := Hid.mk' (K.out _ _ hq.out hgw.out)
    clear hown hga hat HB
    go_wp2_with (first
      | (go_at_call 9; refine (a1.out _ rfl ao' c' _ h1.out q1 q2 hPa.out).mono ?_; rintro e wb ⟨rfl, hgb⟩; have hPb := Hid.mk' (K.out _ _ hPa.out hgb))
      | (go_at_call 10; refine (a2.out ao cap _ (h2.out.kept0 hgb) hLc (by omega)).mono ?_; rintro e wc ⟨rfl, hgc⟩; have hPc := Hid.mk' (K.out _ _ hPb.out hgc); have v1 := conv ((h1.out.kept0 hgb).kept0 hgc) 22 9 c' Try.underlying22 Try.underlying5 Try.underlying9; have v2 := conv ((h2.out.kept0 hgb).kept0 hgc) 22 9 cap Try.underlying22 Try.underlying5 Try.underlying9))
    go_ret
    exact ⟨rfl, gt (gt hgw.out hgb) hgc⟩
set_option maxRecDepth 100000 in
set_option maxHeartbeats 2000000 in
theorem sets_walk {P : World → Prop} (C : Con P) (u : Int) (hu : I32 u) (w : World) (hw : P w) : Calls Try.prog 4 #[.int .i32 u] w fun e w' => e = .returned (.bool true) ∧ w.grownBy w' none := by
  obtain ⟨⟨e0, bs⟩, hS⟩ : ∃ p, sE u = p := ⟨_, rfl⟩
  have a1 := C.put u hu e0 bs hS
  have a2 : Hid (∀ w, Calls Try.prog 12 #[.int .i32 u] w fun e w' => e = .returned (pV e0 (str bs)) ∧ w.grownBy w' none) := Hid.mk' (fun w => by
    have := setRef_any u w
    rwa [hS] at this)
  have hq := Hid.mk' hw
  generalize str bs = s at *
  clear hS hw C
  go_enter Try.func4, Try.ntmps4
  go_wp2_with (first
    | (go_at_call 11; refine (a1.out _ hq.out).mono ?_; rintro e w1 ⟨rfl, hg1⟩)
    | (go_at_call 12; refine (a2.out _).mono ?_; rintro e w2 ⟨rfl, hg2⟩))
  go_ret
  exact ⟨rfl, gt hg1 hg2⟩
end Go.Proofs.Ytdphkpjamclhjaa.C19
