/- TrieAll: a walk. -/
import Derived.Test.YtcoiddmgcoeocaaWk1
import Derived.Test.YtcoiddmgcoeocaaFind
namespace Go.Proofs.Ytcoiddmgcoeocaa.Rn
open Go.ChangeShapes Go.WideShapes Go.ChangeAt Go.RowKit Go.Proofs.Ytcoiddmgcoeocaa.Mem Go.Proofs.Ytcoiddmgcoeocaa.El
/-- A row of integers that came in. -/
def IntRow (w : World) (a : Option Addr) (len cap : Nat) (zs : List Int) : Prop :=
  (a = none ∧ len = 0 ∧ cap = 0 ∧ zs = []) ∨
  ∃ x, a = some x ∧ len ≤ cap ∧ cap ≤ maxLen ∧ zs.length = cap ∧ (∀ i, i < zs.length → w.cell? (x.add i) = some (.int .i64 (zs.getD i 0))) ∧ ∀ n ∈ zs, (Lit.int .i64 n).wf = true
theorem IntRow.at {w : World} {a : Option Addr} {len cap : Nat} {zs : List Int} (h : IntRow w a len cap zs) {i : Nat} (hi : i < len) : ∃ b o, a = some ⟨b, o, none⟩ ∧ b < w.heap.size ∧ w.cell? ⟨b, o + i, none⟩ = some (.int .i64 (zs.getD i 0)) ∧ (Lit.int .i64 (zs.getD i 0)).wf = true := by
  rcases h with ⟨_, h, _⟩ | ⟨x, rfl, h1, h2, h3, hc, hw⟩
  · omega
  · obtain ⟨b, o, s⟩ := x
    have h0 := hc 0 (by omega)
    have hs : s = none := by simpa [Addr.add] using World.cell?_spot h0
    subst hs
    have hcj := hc i (by omega)
    rw [addr_add] at hcj
    refine ⟨b, o, rfl, World.block_lt_of_cell? w _ hcj, hcj, hw _ ?_⟩
    rw [List.getD_eq_getElem?_getD, List.getElem?_eq_getElem (by omega)]
    exact List.getElem_mem _
theorem IntRow.max {w : World} {a : Option Addr} {len cap : Nat} {zs : List Int} (h : IntRow w a len cap zs) : len ≤ cap ∧ cap ≤ 9223372036854775807 := by
  rcases h with ⟨_, h, h', _⟩ | ⟨x, rfl, h1, h2, _⟩
  · omega
  · exact ⟨h1, by simpa [maxLen] using h2⟩
end Go.Proofs.Ytcoiddmgcoeocaa.Rn
namespace Go.Proofs.Ytcoiddmgcoeocaa.Tr
open Go.ChangeShapes Go.WideShapes Go.ChangeAt Go.RowKit Go.Maps Go.Proofs.Ytcoiddmgcoeocaa.Mem Go.Proofs.Ytcoiddmgcoeocaa.Ucs Go.Proofs.Ytcoiddmgcoeocaa.El Go.Sort Go.Proofs.Ytcoiddmgcoeocaa.Rn
set_option linter.unusedVariables false
set_option linter.unusedSimpArgs false

theorem tScalar_vi (T : Nat) (L : List Pr) (code : Int) (hk1 : -9223372036854775808 ≤ code) (hk2 : code ≤ 9223372036854775807) (w : World) (h : Trie w T L) (V : Int) (I : Bool) (hV : Hid ((pS L code).getD 0 = V)) (hI : Hid ((pS L code).isSome = I)) :
    Calls Try.prog 10 #[.pointer (some ⟨T, 0, none⟩), .int .i64 code] w fun e w' => e = .returned (.tuple #[.int .i32 V, .bool I]) ∧ w.grownBy w' none := by
  have := tScalar_any T L code hk1 hk2 w h _ (Hid.mk' rfl)
  rwa [hV.out, hI.out] at this
theorem rScalar_vi (ao : Option Addr) (cap : Nat) (X : List Rg) (n : Nat) (hn : X.length = n) (c : Int) (w : World) (hB : RE.Rd w ao X) (hc : n ≤ cap) (hcm : cap ≤ 9223372036854775807) (hl : n ≤ 65536) (hok : Hid (okFrom (-1) X = true)) (V : Int) (I : Bool) (hV : Hid ((scalR X c).getD 0 = V)) (hI : Hid ((scalR X c).isSome = I)) :
    Calls Try.prog 19 #[.slice ao n cap, .int .i64 c] w fun e w' => e = .returned (.tuple #[.int .i32 V, .bool I]) ∧ w.grownBy w' none := by
  subst hn
  have := scalar_of ao cap X c w hB hc hcm hl hok _ (Hid.mk' rfl)
  rwa [hV.out, hI.out] at this
theorem rCode_some (ao : Option Addr) (cap : Nat) (X : List Rg) (n : Nat) (hn : X.length = n) (u d : Int) (w : World) (hB : RE.Rd w ao X) (hc : n ≤ cap) (hcm : cap ≤ 9223372036854775807) (hl : n ≤ 65536) (hok : Hid (okFrom (-1) X = true)) (hd : Hid (codeR X u = some d)) :
    Calls Try.prog 18 #[.slice ao n cap, .int .i32 u] w fun e w' => e = .returned (.tuple #[.int .i64 d, .bool true]) ∧ w.grownBy w' none := by
  subst hn
  exact code_of ao cap X u w hB hc hcm hl hok _ hd

set_option maxRecDepth 100000 in
set_option maxHeartbeats 4000000 in
theorem all_walk (ao : Option Addr) (cap : Nat) (L : List Pr) (ao1 : Option Addr) (len1 cap1 : Nat) (z : List Int) (w : World) (hrd : PE.Rd w ao L) (hle : L.length ≤ cap) (hcb : cap * 16 ≤ 140737488351232) (hz : IntRow w ao1 len1 cap1 z) :
    Calls Try.prog 4 #[.slice ao L.length cap, .slice ao1 len1 cap1] w fun e w' => e = .returned (.bool true) ∧ Below w.heap.size w w' := by
  have hR0 := Hid.mk' hrd
  have hZ0 := Hid.mk' hz
  obtain ⟨hz1, hz2⟩ := hz.max
  have hcm : cap ≤ 9223372036854775807 := by omega
  obtain ⟨n, hn⟩ : ∃ n, L.length = n := ⟨_, rfl⟩
  have hn0 := Hid.mk' hn
  rw [hn] at hle ⊢
  clear hrd hz hcb hn
  by_cases hbig : 400 < n
  · have hb' : (400 : Int) < (n : Int) := by omega
    go_enter Try.func4, Try.ntmps4
    go_wp2_with (go_at_call 16; refine (works_any _).mono ?_; rintro e w1 ⟨rfl, hg1⟩)
    go_ret
    exact ⟨rfl, below_g hg1⟩
  · have hb' : ¬ (400 : Int) < (n : Int) := by omega
    have hb'' : decide ((400 : Int) < (n : Int)) = false := decide_eq_false hb'
    have hb3 : decide (400 < n) = false := decide_eq_false hbig
    obtain ⟨E, hE⟩ : ∃ E, Hid (rightE L = E) := ⟨_, Hid.mk' rfl⟩
    obtain ⟨X, hX⟩ : ∃ X, Hid (packR L = X) := ⟨_, Hid.mk' rfl⟩
    obtain ⟨nX, hnX⟩ : ∃ nX, Hid (X.length = nX) := ⟨_, Hid.mk' rfl⟩
    have hpk : Hid (∀ w, PE.Rd w ao L → Calls Try.prog 17 #[.slice ao n cap] w fun e w' => ∃ ro rc, e = .returned (.tuple #[.slice ro nX rc, .int .i64 E]) ∧ RE.Own w' ro rc X ∧ w.grownBy w' none) := Hid.mk' (fun w hw => by have := pack_any ao cap L w hw (by rw [hn0.out]; exact hle) hcm E hE X hX; rwa [hn0.out, hnX.out] at this)
    by_cases hE0 : E = 0
    · subst hE0
      obtain ⟨_, hok⟩ := rightE_ok.1 hE.out
      have hok0 := Hid.mk' hok
      have hXe : Hid (X = packOf L) := Hid.mk' (by rw [← hX.out]; unfold packR; rw [if_pos hE.out])
      have hXk : Hid (X.length ≤ 65536 ∧ okFrom (-1) X = true) := Hid.mk' (by rw [hXe.out]; have := checkR_ok.1 (packOf_check hE.out); exact ⟨this.1, this.2.1⟩)
      have hXok : Hid (okFrom (-1) X = true) := Hid.mk' hXk.out.2
      have hnX2 : nX ≤ 65536 := by rw [← hnX.out]; exact hXk.out.1
      have hpo : Hid (pairsOf X = L) := Hid.mk' (by rw [hXe.out, packOf_pairs])
      obtain ⟨A, hA⟩ : ∃ A, Hid (blocksN L = A) := ⟨_, Hid.mk' rfl⟩
      obtain ⟨B, hB⟩ : ∃ B, Hid (blocksN (byScalar L) = B) := ⟨_, Hid.mk' rfl⟩
      have hasc := (okP_asc L _ hok).2
      have hrng := okP_range hok
      have hAn : A ≤ n := by rw [← hA.out, ← allB_len hasc (fun q hq => (hrng q hq).2.1), ← hn0.out]; exact allB_le L
      have hBn : B ≤ n := by rw [← hB.out, ← allB_len (byScalar_asc L) (fun q hq => by have := hrng _ (byScalar_mem hasc q hq); omega), ← hn0.out]; exact Nat.le_trans (allB_le _) (byScalar_len L)
      have hA' : ¬ (n : Int) < (A : Int) := by omega
      have hB' : ¬ (n : Int) < (B : Int) := by omega
      have hA2 : decide ((n : Int) < (A : Int)) = false := decide_eq_false hA'
      have hB2 : decide ((n : Int) < (B : Int)) = false := decide_eq_false hB'
      have hA3 : decide (n < A) = false := decide_eq_false (by omega)
      have hB3 : decide (n < B) = false := decide_eq_false (by omega)
      have hnew := Hid.mk' (fun (w : World) (hw : PE.Rd w ao L) => new_ok ao cap L n hn0.out w hw hle hcm hE)
      clear hasc hok hAn hBn
      have hrng0 := Hid.mk' hrng
      clear hrng
      go_enter Try.func4, Try.ntmps4
      go_wp2_with (first
        | (go_at_call 16; refine (works_any _).mono ?_; rintro e w1 ⟨rfl, hg1⟩; have hR1 := hR0.out.kept0 hg1)
        | (go_at_call 7; refine (hnew.out w1 hR1).mono ?_; rintro e w2 ⟨T, rfl, hT2, hg2⟩; have hR2 := hR1.kept0 hg2)
        | (go_at_call 17; refine (hpk.out w2 hR2).mono ?_; rintro e w3 ⟨ro, rc, rfl, ho3, hg3⟩; have hT3 := hT2.kept hg3; have hrc1 := ho3.cap_le; have hrc2 := ho3.cap_max; rw [hnX.out] at hrc1)
        | (go_at_call 14; refine (tBlocks_any T L w3 hT3 A B hA hB).mono ?_; rintro e w4 ⟨rfl, hg4⟩))
      have hT4 := Hid.mk' (hT3.kept hg4)
      have ho4 := Hid.mk' (ho3.kept0 hg4)
      have hg40 := Hid.mk' (grownBy_trans (grownBy_trans (grownBy_trans hg1 hg2) hg3) hg4)
      clear hT2 hT3 ho3 hR1 hR2 hg1 hg2 hg3 hg4 hnew hpk
      go_loopw [11] (fun t11 wx => ∃ (i : Nat), i ≤ n ∧ t11 = .int .i64 (i : Int) ∧ Hid (w4.grownBy wx none)) (fun t11 _ => n - (intOf t11).toNat)
      case atStart => exact ⟨0, by omega, rfl, Hid.mk' (grownBy_refl _ _)⟩
      case round =>
        obtain ⟨i, hi, rfl, hG⟩ := hrel
        have hTx := Hid.mk' (hT4.out.kept hG.out)
        have hox := Hid.mk' (ho4.out.kept0 hG.out)
        by_cases hlt : i < n
        · have hlL : i < L.length := by rw [hn0.out]; exact hlt
          obtain ⟨c, u, he⟩ : ∃ c u, L[i] = (c, u) := ⟨_, _, rfl⟩
          obtain ⟨b, o, rfl, hb, x0, x1⟩ := pcells ((hR0.out.kept0 hg40.out).kept0 hG.out) hlL he
          have hps : Hid (pS L c = some u) := Hid.mk' (by have := pS_at hok0.out i hlL; rw [he] at this; exact this)
          obtain ⟨d, hpc⟩ : ∃ d, pC L (L[i]).2 = some d := by obtain ⟨d, h, _⟩ := pC_at hok0.out i hlL; exact ⟨d, h⟩
          rw [he] at hpc
          have hpc0 : Hid (pC L u = some d) := Hid.mk' hpc
          have hcd : Hid (codeR X u = some d) := Hid.mk' (by rw [codeR_eq hXok.out, hpo.out]; exact hpc)
          obtain ⟨q1, q2⟩ := hrng0.out _ (List.getElem_mem hlL)
          rw [he] at q1 q2
          simp only at q1 q2
          have hlt' : (i : Int) < (n : Int) := by omega
          have hiz : (0 : Int) ≤ (i : Int) := by omega
          clear hpc he hlL
          go_wp2_with (first
            | (go_at_call 10; refine (tScalar_any T L c (by omega) (by omega) wr hTx.out (some u) hps).mono ?_; rintro e w5 ⟨rfl, hg5⟩; have hT5 := hTx.out.kept hg5; have y1 := hg5.cell x1 (by simp); have y0 := hg5.cell x0 (by simp))
            | (go_at_call 12; refine (tCode_any T L u (by omega) (by omega) w5 hT5 (some d) hpc0).mono ?_; rintro e w6 ⟨rfl, hg6⟩; have v1 := hg6.cell y1 (by simp); have o6 := (hox.out.kept0 hg5).kept0 hg6)
            | (go_at_call 18; refine (rCode_some ro rc X nX hnX.out u d w6 o6.rd hrc1 hrc2 hnX2 hXok hcd).mono ?_; rintro e w7 ⟨rfl, hg7⟩; have k1 := hg7.cell v1 (by simp)))
          go_roundw
          case rel => exact ⟨i + 1, by omega, by go_num, Hid.mk' (grownBy_trans (grownBy_trans (grownBy_trans hG.out hg5) hg6) hg7)⟩
          case measure => simp [intOf]; omega
        · obtain rfl : i = n := by omega
          have hlt' : ¬ (i : Int) < (i : Int) := by omega
          go_wp2_with fail
          go_loopw [18] (fun t18 wx => ∃ (j : Nat), j ≤ 50 ∧ t18 = .int .i64 (j : Int) ∧ Hid (w4.grownBy wx none)) (fun t18 _ => 50 - (intOf t18).toNat)
          case atStart => exact ⟨0, by omega, rfl, hG⟩
          case round =>
            obtain ⟨j, hj, rfl, hG2⟩ := hrel
            clear hTx hox hG
            have hTx := Hid.mk' (hT4.out.kept hG2.out)
            have hox := Hid.mk' (ho4.out.kept0 hG2.out)
            by_cases h1 : j < len1
            · have h1' : (j : Int) < (len1 : Int) := by omega
              by_cases h2 : j < 50
              · have h2' : (j : Int) < 50 := by omega
                obtain ⟨b, o, rfl, hb, x0, hwf⟩ := hZ0.out.at h1
                have x2 := hG2.out.cell (hg40.out.cell x0 (by simp)) (by simp)
                obtain ⟨q1, q2⟩ := wf_i64 hwf
                obtain ⟨V, hV⟩ : ∃ V, Hid ((pS L (z.getD j 0)).getD 0 = V) := ⟨_, Hid.mk' rfl⟩
                obtain ⟨I, hI⟩ : ∃ I, Hid ((pS L (z.getD j 0)).isSome = I) := ⟨_, Hid.mk' rfl⟩
                have hV2 : Hid ((scalR X (z.getD j 0)).getD 0 = V) := Hid.mk' (by rw [scalR_eq hXok.out, hpo.out]; exact hV.out)
                have hI2 : Hid ((scalR X (z.getD j 0)).isSome = I) := Hid.mk' (by rw [scalR_eq hXok.out, hpo.out]; exact hI.out)
                clear x0 hwf
                generalize z.getD j 0 = zz at *
                have hjz : (0 : Int) ≤ (j : Int) := by omega
                go_wp2_with (first
                  | (go_at_call 10; refine (tScalar_vi T L zz q1 q2 wr hTx.out V I hV hI).mono ?_; rintro e w5 ⟨rfl, hg5⟩; have y0 := hg5.cell x2 (by simp); have o5 := hox.out.kept0 hg5)
                  | (go_at_call 19; refine (rScalar_vi ro rc X nX hnX.out zz w5 o5.rd hrc1 hrc2 hnX2 hXok V I hV2 hI2).mono ?_; rintro e w6 ⟨rfl, hg6⟩))
                go_roundw
                case rel => exact ⟨j + 1, by omega, by go_num, Hid.mk' (grownBy_trans (grownBy_trans hG2.out hg5) hg6)⟩
                case measure => simp [intOf]; omega
              · have h2' : ¬ (j : Int) < 50 := by omega
                go_wp2_with fail
                go_ret
                exact ⟨rfl, below_g (grownBy_trans hg40.out hG2.out)⟩
            · have h1' : ¬ (j : Int) < (len1 : Int) := by omega
              go_wp2_with fail
              go_ret
              exact ⟨rfl, below_g (grownBy_trans hg40.out hG2.out)⟩
    · have hE1 : (E == 0) = false := by simpa using hE0
      have hno := Hid.mk' (fun (w : World) (hw : PE.Rd w ao L) => new_no ao cap L w hw (by rw [hn0.out]; exact hle) hcm E hE hE0)
      rw [hn0.out] at hno
      go_enter Try.func4, Try.ntmps4
      go_wp2_with (first
        | (go_at_call 16; refine (works_any _).mono ?_; rintro e w1 ⟨rfl, hg1⟩; have hR1 := hR0.out.kept0 hg1)
        | (go_at_call 7; refine (hno.out w1 hR1).mono ?_; rintro e w2 ⟨rfl, hg2⟩; have hR2 := hR1.kept0 hg2)
        | (go_at_call 17; refine (hpk.out w2 hR2).mono ?_; rintro e w3 ⟨ro, rc, rfl, ho3, hg3⟩))
      go_ret
      exact ⟨rfl, below_g (grownBy_trans (grownBy_trans hg1 hg2) hg3)⟩
end Go.Proofs.Ytcoiddmgcoeocaa.Tr
