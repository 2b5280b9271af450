/- TrieTells: a walk. -/
import Derived.Test.YtcoiddmgcoeocaaGf
import Derived.Test.YtcoiddmgcoeocaaRBlocks
import Derived.Test.YtcoiddmgcoeocaaRRight
import Derived.Test.YtcoiddmgcoeocaaRefFind
import Derived.Test.YtcoiddmgcoeocaaSame
import Derived.Below
namespace Go.Proofs.Ytcoiddmgcoeocaa.Tr
open Go.ChangeShapes Go.WideShapes Go.ChangeAt Go.RowKit Go.Maps Go.Proofs.Ytcoiddmgcoeocaa.Mem Go.Proofs.Ytcoiddmgcoeocaa.Ucs Go.Proofs.Ytcoiddmgcoeocaa.El Go.Sort Go.Proofs.Ytcoiddmgcoeocaa.Rn
set_option linter.unusedVariables false
set_option linter.unusedSimpArgs false

theorem wf_i64 {a : Int} (h : (Lit.int .i64 a).wf = true) : -9223372036854775808 ≤ a ∧ a ≤ 9223372036854775807 := by
  simp only [Lit.wf, Bool.and_eq_true, decide_eq_true_eq] at h
  exact h
theorem wf_i32 {a : Int} (h : (Lit.int .i32 a).wf = true) : -2147483648 ≤ a ∧ a ≤ 2147483647 := by
  simp only [Lit.wf, Bool.and_eq_true, decide_eq_true_eq] at h
  exact h
theorem tell_below {w w' : World} (h : w.grownBy w' none) : Below w.heap.size w w' := ⟨h.os, h.tape, h.output, h.size, fun k hk => h.block k hk (by simp)⟩
theorem own_aside {α : Type} {E : Elem α} {w w' : World} {ao : Option Addr} {cap : Nat} {L : List α} (h : E.Own w ao cap L) {g t : Nat} {cur : Array Value} {fz : Nat × Nat} (hg : w.heap[g]? = some (.cells cur t fz)) (hne : t ≠ E.ty) (hw : w.grownBy w' (some g)) : E.Own w' ao cap L := by
  refine h.kept hw (.inr ?_)
  intro e
  rcases h with ⟨rfl, _⟩ | ⟨g', cur', rfl, hh, _⟩
  · cases e
  · have : g' = g := Option.some.inj e
    subst this
    rw [hh] at hg
    have h1 := Option.some.inj hg
    injection h1 with _ h2 _
    exact hne h2.symm
theorem SideOk.aside {w w' : World} {co : Option Addr} {nc : Nat} {bo : Option Addr} {nb cap : Nat} {Q : List Pr} {C : List Int} (h : SideOk w co nc bo nb cap Q C) {g : Nat} {cur : Array Value} {fz : Nat × Nat} (hg : w.heap[g]? = some (.cells cur 30 fz)) (hw : w.grownBy w' (some g)) : SideOk w' co nc bo nb cap Q C :=
  ⟨own_aside h.con hg (by decide) hw, h.clen, own_aside h.own hg (by decide) hw, h.nb, h.leads, h.small, h.all⟩
/-- A change of the pairs' row leaves the table as it was. -/
theorem Trie.aside {w w' : World} {T : Nat} {L : List Pr} (h : Trie w T L) {g : Nat} {cur : Array Value} {fz : Nat × Nat} (hg : w.heap[g]? = some (.cells cur 30 fz)) (hw : w.grownBy w' (some g)) : Trie w' T L := by
  obtain ⟨co, nc, bo, nb, cap, co', nc', bo', nb', cap', C, C', h⟩ := h
  refine ⟨co, nc, bo, nb, cap, co', nc', bo', nb', cap', C, C', ⟨?_, h.codes.aside hg hw, h.scalars.aside hg hw, h.ok, h.len⟩⟩
  rw [hw.block T (lt_of_block h.blk) ?_]
  · exact h.blk
  · intro e
    have : T = g := Option.some.inj e
    subst this
    rw [h.blk] at hg
    have h1 := Option.some.inj hg
    injection h1 with _ h2 _
    exact absurd h2 (by decide)
theorem pown_set2 {w : World} {g cap : Nat} {L : List Pr} (h : PE.Own w (some ⟨g, 0, none⟩) cap L) {i : Nat} (hi : i < L.length) (u v : Int) :
    PE.Own ((w.setCell ⟨g, i * 2, none⟩ (.int .i64 u)).setCell ⟨g, i * 2 + 1, none⟩ (.int .i32 v)) (some ⟨g, 0, none⟩) cap (L.set i (u, v)) := by
  have h1 := h.set i hi 0 (by decide) (.int .i64 u) (u, L[i].2) rfl
  have h2 := h1.set i (by simpa using hi) 1 (by decide) (.int .i32 v) (u, v) (by simp [PE])
  rw [List.set_set] at h2
  exact h2
theorem own_block {w : World} {g cap : Nat} {L : List Pr} (h : PE.Own w (some ⟨g, 0, none⟩) cap L) : ∃ cur, w.heap[g]? = some (.cells cur 30 (0, 0)) := by
  rcases h with ⟨h, _⟩ | ⟨g', cur, h, hh, _⟩
  · cases h
  · cases h
    exact ⟨cur, hh⟩

theorem tScalar_w (T : Nat) (L : List Pr) (code : Int) (hk1 : -9223372036854775808 ≤ code) (hk2 : code ≤ 9223372036854775807) (w : World) (h : Trie w T L) (V : Int) (I : Bool) (hV : Hid ((pS L code).getD 0 = V)) (hI : Hid ((pS L code).isSome = I)) :
    Calls Try.prog 10 #[.pointer (some ⟨T, 0, none⟩), .int .i64 code] w fun e w' => e = .returned (.tuple #[.int .i32 V, .bool I]) ∧ w.grownBy w' none := by
  have := tScalar_any T L code hk1 hk2 w h _ (Hid.mk' rfl)
  rwa [hV.out, hI.out] at this
theorem tCode_w (T : Nat) (L : List Pr) (u : Int) (hk1 : -2147483648 ≤ u) (hk2 : u ≤ 2147483647) (w : World) (h : Trie w T L) (V : Int) (I : Bool) (hV : Hid ((pC L u).getD 0 = V)) (hI : Hid ((pC L u).isSome = I)) :
    Calls Try.prog 12 #[.pointer (some ⟨T, 0, none⟩), .int .i32 u] w fun e w' => e = .returned (.tuple #[.int .i64 V, .bool I]) ∧ w.grownBy w' none := by
  have := tCode_any T L u hk1 hk2 w h _ (Hid.mk' rfl)
  rwa [hV.out, hI.out] at this
set_option maxRecDepth 100000 in
theorem refS_w (ao : Option Addr) (cap : Nat) (L : List Pr) (n : Nat) (hn : L.length = n) (x : Int) (w : World) (hB : PE.Rd w ao L) (hc : n ≤ cap) (hcm : cap ≤ 9223372036854775807) (V : Int) (I : Bool) (hV : Hid ((pS L x).getD 0 = V)) (hI : Hid ((pS L x).isSome = I)) :
    Calls Try.prog 11 #[.slice ao n cap, .int .i64 x] w fun e w' => e = .returned (.tuple #[.int .i32 V, .bool I]) ∧ w.grownBy w' none := by
  have h := refScalar_any ao cap L x w hB (by rw [hn]; exact hc) hcm _ (Hid.mk' rfl)
  rw [hV.out, hI.out, hn] at h
  have h0 := Hid.mk' h
  clear h hB hn hV hI
  go_enter Try.func11, Try.ntmps11
  go_wp2_with (go_at_call 25; refine h0.out.mono ?_; rintro e w1 ⟨rfl, hg⟩)
  go_ret2
  exact ⟨rfl, hg⟩
set_option maxRecDepth 100000 in
theorem refC_w (ao : Option Addr) (cap : Nat) (L : List Pr) (n : Nat) (hn : L.length = n) (x : Int) (w : World) (hB : PE.Rd w ao L) (hc : n ≤ cap) (hcm : cap ≤ 9223372036854775807) (V : Int) (I : Bool) (hV : Hid ((pC L x).getD 0 = V)) (hI : Hid ((pC L x).isSome = I)) :
    Calls Try.prog 13 #[.slice ao n cap, .int .i32 x] w fun e w' => e = .returned (.tuple #[.int .i64 V, .bool I]) ∧ w.grownBy w' none := by
  have h := refCode_any ao cap L x w hB (by rw [hn]; exact hc) hcm _ (Hid.mk' rfl)
  rw [hV.out, hI.out, hn] at h
  have h0 := Hid.mk' h
  clear h hB hn hV hI
  go_enter Try.func13, Try.ntmps13
  go_wp2_with (go_at_call 26; refine h0.out.mono ?_; rintro e w1 ⟨rfl, hg⟩)
  go_ret2
  exact ⟨rfl, hg⟩

set_option maxRecDepth 100000 in
set_option maxHeartbeats 4000000 in
theorem tells_walk (ao : Option Addr) (cap : Nat) (L : List Pr) (code u : Int) (hk1 : -9223372036854775808 ≤ code) (hk2 : code ≤ 9223372036854775807) (hu1 : -2147483648 ≤ u) (hu2 : u ≤ 2147483647) (w : World) (hrd : PE.Rd w ao L) (hle : L.length ≤ cap) (hcb : cap * 16 ≤ 140737488351232) :
    Calls Try.prog 3 #[.slice ao L.length cap, .int .i64 code, .int .i32 u] w fun e w' => e = .returned (.bool true) ∧ Below w.heap.size w w' := by
  have hR0 := Hid.mk' hrd
  have hcm : cap ≤ 9223372036854775807 := by omega
  obtain ⟨E, hE⟩ : ∃ E, Hid (rightE L = E) := ⟨_, Hid.mk' rfl⟩
  have hL8 : Hid (L.length ≤ 8796093021952) := Hid.mk' (by omega)
  have hlt : Hid (∀ g, blk ao = some g → L ≠ [] → g < w.heap.size) := Hid.mk' (fun g e hne => by
    obtain ⟨b, o, rfl, hb, _⟩ := hrd.at hne (by decide)
    have : b = g := Option.some.inj e
    omega)
  obtain ⟨n, hn⟩ : ∃ n, L.length = n := ⟨_, rfl⟩
  have hn0 := Hid.mk' hn
  have hsrc : Hid (∀ w : World, PE.Rd w ao L → Src Try.prog 2 22 (.slice ao n cap) L.length (PE.cells L) w) := Hid.mk' (fun w hw => by have := src_pair hw cap; rw [hn] at this ⊢; exact this)
  rw [hn] at hle ⊢
  clear hrd hcb hn
  go_enter Try.func3, Try.ntmps3
  go_upto_region 2 with (at_builtin; refine wpList_pair _ rfl _ _ rfl (some ⟨w.heap.size, 0, none⟩) 0 [] rfl (own_made (E := PE) w) _ rfl L (hsrc.out _ (hR0.out.alloc _)) (by have := hL8.out; simp; omega) L rfl ?_; intro oo oc w1 ho1 hg1 hat1)
  have hg10 : Hid (w.grownBy w1 none) := Hid.mk' (grownBy_new (World.grownBy_alloc w _ none) hg1 (fun k hk => by have : w.heap.size = k := Option.some.inj hk; omega))
  obtain ⟨g0, hoo, hg0⟩ : ∃ g0, oo = some ⟨g0, 0, none⟩ ∧ w.heap.size ≤ g0 := by
    rcases hat1 with h | h
    · exact ⟨_, h, Nat.le_refl _⟩
    · exact ⟨_, h, by simp⟩
  subst hoo
  have ho10 := Hid.mk' ho1
  have hoc1 := ho1.cap_le
  have hoc2 := ho1.cap_max
  rw [hn0.out] at hoc1 ⊢
  have hR1 := Hid.mk' (hR0.out.kept0 hg10.out)
  have hg00 := Hid.mk' hg0
  have hright : Hid (∀ w, PE.Rd w ao L → Calls Try.prog 8 #[.slice ao n cap] w fun e w' => e = .returned (.int .i64 E) ∧ w.grownBy w' none) := Hid.mk' (fun w hw => by have := rightRef_any ao cap L w hw (by rw [hn0.out]; exact hle) hcm E hE; rwa [hn0.out] at this)
  have hsame : Hid (∀ w, PE.Rd w (some ⟨g0, 0, none⟩) L → PE.Rd w ao L → Calls Try.prog 9 #[.slice (some ⟨g0, 0, none⟩) n oc, .slice ao n cap] w fun e w' => e = .returned (.bool true) ∧ w.grownBy w' none) := Hid.mk' (fun w h1 h2 => by have := samePairs_eq (some ⟨g0, 0, none⟩) ao oc cap L w h1 h2 (by rw [hn0.out]; exact hoc1) hoc2 (by rw [hn0.out]; exact hle) hcm; rwa [hn0.out] at this)
  clear ho1 hg1 hat1 hsrc
  by_cases hE0 : E = 0
  · subst hE0
    obtain ⟨hl, hok⟩ := rightE_ok.1 hE.out
    have hn65 : n ≤ 65536 := by rw [← hn0.out]; exact hl
    have hrng := Hid.mk' (okP_range hok)
    obtain ⟨A, hA⟩ : ∃ A, Hid (blocksN L = A) := ⟨_, Hid.mk' rfl⟩
    obtain ⟨B, hB⟩ : ∃ B, Hid (blocksN (byScalar L) = B) := ⟨_, Hid.mk' rfl⟩
    obtain ⟨V, hV⟩ : ∃ V, Hid ((pS L code).getD 0 = V) := ⟨_, Hid.mk' rfl⟩
    obtain ⟨I, hI⟩ : ∃ I, Hid ((pS L code).isSome = I) := ⟨_, Hid.mk' rfl⟩
    obtain ⟨V2, hV2⟩ : ∃ V, Hid ((pC L u).getD 0 = V) := ⟨_, Hid.mk' rfl⟩
    obtain ⟨I2, hI2⟩ : ∃ I, Hid ((pC L u).isSome = I) := ⟨_, Hid.mk' rfl⟩
    have hnew := Hid.mk' (new_ok (some ⟨g0, 0, none⟩) oc L n hn0.out w1 ho10.out.rd hoc1 hoc2 hE)
    have hbl : Hid (∀ w, PE.Rd w ao L → Calls Try.prog 15 #[.slice ao n cap] w fun e w' => e = .returned (.tuple #[.int .i64 (A : Int), .int .i64 (B : Int)]) ∧ w.grownBy w' none) := Hid.mk' (fun w hw => by have := blocks_any ao cap L w hw (by rw [hn0.out]; exact hn65) (by rw [hn0.out]; exact hle) hcm hrng.out A B hA hB; rwa [hn0.out] at this)
    clear hl hok
    go_wp2_with (first
      | (go_at_call 7; refine hnew.out.mono ?_; rintro e w2 ⟨T, rfl, hT2, hg2⟩; have hR2 := hR1.out.kept0 hg2; have ho2 := ho10.out.kept0 hg2)
      | (go_at_call 8; refine (hright.out w2 hR2).mono ?_; rintro e w3 ⟨rfl, hg3⟩; have hR3 := hR2.kept0 hg3; have ho3 := ho2.kept0 hg3; have hT3 := hT2.kept hg3)
      | (go_at_call 9; refine (hsame.out w3 ho3.rd hR3).mono ?_; rintro e w4 ⟨rfl, hg4⟩))
    have hT4 := Hid.mk' (hT3.kept hg4)
    have ho4 := Hid.mk' (ho3.kept0 hg4)
    have hg40 := Hid.mk' (grownBy_trans (grownBy_trans (grownBy_trans hg10.out hg2) hg3) hg4)
    clear hT2 hT3 ho2 ho3 hR2 hR3 hg2 hg3 hg4 hnew hright hsame
    go_loopw [10] (fun t10 wx => ∃ (i : Nat) (D : List Pr), i ≤ n ∧ t10 = .int .i64 (i : Int) ∧ Hid (D.length = n) ∧ Hid (PE.Own wx (some ⟨g0, 0, none⟩) oc D) ∧ Hid (Trie wx T L) ∧ Hid (w.grownBy wx none)) (fun t10 _ => n - (intOf t10).toNat)
    case atStart => exact ⟨0, L, by omega, rfl, hn0, ho4, hT4, hg40⟩
    case round =>
      obtain ⟨i, D, hi, rfl, hD, hO, hT, hG⟩ := hrel
      clear hT4 ho4 hg40
      by_cases hlt2 : i < n
      · have hiD : i < D.length := by rw [hD.out]; exact hlt2
        obtain ⟨cur, hcur⟩ := own_block hO.out
        obtain ⟨g', eg, hgl, hf, hcs⟩ := hO.out.at (List.ne_nil_of_length_pos (by omega))
        cases eg
        obtain ⟨v0, c0⟩ : ∃ v, wr.cell? ⟨g0, i * 2, none⟩ = some v := ⟨_, hcs i hiD 0 _ rfl⟩
        obtain ⟨v1, c1⟩ : ∃ v, wr.cell? ⟨g0, i * 2 + 1, none⟩ = some v := ⟨_, hcs i hiD 1 _ rfl⟩
        have hO2 := Hid.mk' (pown_set2 hO.out hiD 0 0)
        have hgS := Hid.mk' (grownBy_trans (grownBy_setCell wr ⟨g0, i * 2, none⟩ (.int .i64 0)) (grownBy_setCell _ ⟨g0, i * 2 + 1, none⟩ (.int .i32 0)))
        have hT2 := Hid.mk' (hT.out.aside hcur hgS.out)
        have hG2 := Hid.mk' (grownBy_new hG.out hgS.out (fun k hk => by have h5 : g0 = k := Option.some.inj hk; have := hg00.out; omega))
        have hlt3 : (i : Int) < (n : Int) := by omega
        have hiz : (0 : Int) ≤ (i : Int) := by omega
        have hio : i < oc := by omega
        clear hcs hcur hiD
        go_wp2_with fail
        go_roundw
        case rel => exact ⟨i + 1, D.set i (0, 0), by omega, by go_num, Hid.mk' (by simpa using hD.out), hO2, hT2, hG2⟩
        case measure => simp [intOf]; omega
      · obtain rfl : i = n := by omega
        have hlt3 : ¬ (i : Int) < (i : Int) := by omega
        have hRx := Hid.mk' (hR0.out.kept0 hG.out)
        go_wp2_with (first
          | (go_at_call 10; refine (tScalar_w T L code hk1 hk2 wr hT.out V I hV hI).mono ?_; rintro e w5 ⟨rfl, hg5⟩; have hT5 := hT.out.kept hg5; have hR5 := hRx.out.kept0 hg5)
          | (go_at_call 11; refine (refS_w ao cap L i hn0.out code w5 hR5 hle hcm V I hV hI).mono ?_; rintro e w6 ⟨rfl, hg6⟩; have hT6 := hT5.kept hg6; have hR6 := hR5.kept0 hg6)
          | (go_at_call 12; refine (tCode_w T L u hu1 hu2 w6 hT6 V2 I2 hV2 hI2).mono ?_; rintro e w7 ⟨rfl, hg7⟩; have hT7 := hT6.kept hg7; have hR7 := hR6.kept0 hg7)
          | (go_at_call 13; refine (refC_w ao cap L i hn0.out u w7 hR7 hle hcm V2 I2 hV2 hI2).mono ?_; rintro e w8 ⟨rfl, hg8⟩; have hT8 := hT7.kept hg8; have hR8 := hR7.kept0 hg8)
          | (go_at_call 14; refine (tBlocks_any T L w8 hT8 A B hA hB).mono ?_; rintro e w9 ⟨rfl, hg9⟩; have hR9 := hR8.kept0 hg9)
          | (go_at_call 15; refine (hbl.out w9 hR9).mono ?_; rintro e w10 ⟨rfl, hg10'⟩))
        go_ret
        refine ⟨?_, tell_below (grownBy_trans (grownBy_trans (grownBy_trans (grownBy_trans (grownBy_trans (grownBy_trans hG.out hg5) hg6) hg7) hg8) hg9) hg10')⟩
        first | rfl | simp
  · have hE1 : (E == 0) = false := by simpa using hE0
    have hE2 : (E != 0) = true := by simpa using hE0
    have hno := Hid.mk' (new_no (some ⟨g0, 0, none⟩) oc L w1 ho10.out.rd (by rw [hn0.out]; exact hoc1) hoc2 E hE hE0)
    rw [hn0.out] at hno
    go_wp2_with (first
      | (go_at_call 7; refine hno.out.mono ?_; rintro e w2 ⟨rfl, hg2⟩; have hR2 := hR1.out.kept0 hg2; have ho2 := ho10.out.kept0 hg2)
      | (go_at_call 8; refine (hright.out w2 hR2).mono ?_; rintro e w3 ⟨rfl, hg3⟩; have hR3 := hR2.kept0 hg3; have ho3 := ho2.kept0 hg3)
      | (go_at_call 9; refine (hsame.out w3 ho3.rd hR3).mono ?_; rintro e w4 ⟨rfl, hg4⟩))
    go_ret
    exact ⟨rfl, tell_below (grownBy_trans (grownBy_trans (grownBy_trans hg10.out hg2) hg3) hg4)⟩
end Go.Proofs.Ytcoiddmgcoeocaa.Tr
