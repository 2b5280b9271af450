/- How many different texts there are: the document's, a walk. -/
import Derived.Test.YtcoiddmgcoeocaaPp
namespace Go.Proofs.Ytcoiddmgcoeocaa.Tr
open Go.ChangeShapes Go.WideShapes Go.ChangeAt Go.RowKit Go.Maps Go.Proofs.Ytcoiddmgcoeocaa.Mem Go.Proofs.Ytcoiddmgcoeocaa.Ucs Go.Proofs.Ytcoiddmgcoeocaa.El
set_option linter.unusedVariables false
set_option linter.unusedSimpArgs false

theorem FS_put (S : List (List UInt8)) (L : List UInt8) : FS (S ++ [L]) (.string L) = .lit (.bool true) ∧ ∀ x, WideAt.IsKeyLit x → x ≠ .string L → FS (S ++ [L]) x = FS S x := by
  refine ⟨by simp [FS], ?_⟩
  intro x _ hne
  cases x with
  | string M =>
    have : M ≠ L := fun e => hne (by rw [e])
    simp [FS, this]
  | _ => rfl
theorem FS_mem (S : List (List UInt8)) (L : List UInt8) (h : L ∈ S) : FS (S ++ [L]) = FS S := by
  funext x
  cases x with
  | string M =>
    by_cases e : M = L
    · subst e; simp [FS, h]
    · simp [FS, e]
  | _ => rfl

set_option maxRecDepth 100000 in
set_option maxHeartbeats 1000000 in
theorem different_any (ao : Option Addr) (ac : Nat) (ks : List Int) (bm N : Nat) (T : Int → List UInt8) (w : World) (hA : IE.Rd w ao ks) (hl : ks.length ≤ 65536) (hc : ks.length ≤ ac) (hM : MF w 3 9 bm eStr (FT T) N) (hk : ∀ k ∈ ks, -9223372036854775808 ≤ k ∧ k ≤ 9223372036854775807) (hT : ∀ k ∈ ks, (T k).length ≤ 1000000000)
    (c : Nat) (hcn : Hid ((nub (ks.map T)).length = c)) :
    Calls Try.prog 30 #[.slice ao ks.length ac, .map (some bm)] w fun e w' => e = .returned (.int .i64 (c : Int)) ∧ w.grownBy w' none := by
  have hA0 := Hid.mk' hA
  have hM0 := Hid.mk' hM
  have hk0 := Hid.mk' hk
  have hT0 := Hid.mk' hT
  clear hA hM hk hT
  have hmm := @run_makeMap Try.prog
  go_enter Try.func30, Try.ntmps30
  go_wp2
  go_loopw [6, 7] (fun t6 t7 wx => ∃ i : Nat, i ≤ ks.length ∧ t7 = .int .i64 (i : Int) ∧ t6 = .int .i64 (((nub ((ks.take i).map T)).length : Nat) : Int) ∧ Hid (MF wx 9 4 w.heap.size eBool (FS ((ks.take i).map T)) i) ∧ Hid (w.grownBy wx none)) (fun _ t7 _ => ks.length - (intOf t7).toNat)
  case atStart => exact ⟨0, by omega, rfl, rfl, Hid.mk' (MF.mono (MF.made w 9 4 eBool) (Nat.le_refl _) (fun kl _ => by cases kl <;> rfl)), Hid.mk' (World.grownBy_alloc _ _ _)⟩
  case round =>
    obtain ⟨i, hi, rfl, rfl, hS, hgx⟩ := hrel
    by_cases hlt : i < ks.length
    · have hlt' : (i : Int) < (ks.length : Int) := by omega
      obtain ⟨k, hkk⟩ : ∃ k, Hid (ks[i] = k) := ⟨_, Hid.mk' rfl⟩
      have hmem : k ∈ ks := by rw [← hkk.out]; exact List.getElem_mem hlt
      obtain ⟨k0, k1⟩ := hk0.out k hmem
      have hTk := hT0.out k hmem
      obtain ⟨b, o, hao, hb, x0⟩ := ncell (hA0.out.kept0 hgx.out) hlt hkk.out
      subst hao
      have hMx := hM0.out.kept0 hgx.out
      have q1 := look_text hMx k k0 k1
      have q2 := look_str hS.out (T k) (by omega)
      have htk : Hid ((ks.take (i + 1)).map T = (ks.take i).map T ++ [T k]) := Hid.mk' (by rw [List.take_succ_eq_append_getElem hlt, hkk.out]; simp)
      have hmN : Hid ((T k ∈ (ks.take i).map T) ↔ T k ∈ nub ((ks.take i).map T)) := Hid.mk' (mem_nub _ _).symm
      have hle := length_nub ((ks.take i).map T)
      rw [List.length_map, List.length_take] at hle
      obtain ⟨n, hn⟩ : ∃ n, Hid ((nub ((ks.take i).map T)).length = n) := ⟨_, Hid.mk' rfl⟩
      rw [hn.out] at hle ⊢
      have hn65 : n ≤ 65536 := by omega
      generalize hSd : (ks.take i).map T = S at *
      have hMx0 := Hid.mk' hMx
      clear hMx hmem
      by_cases hin : T k ∈ S
      · have hd : decide (T k ∈ S) = true := decide_eq_true hin
        rw [hd] at q2
        generalize hTg : T k = L at *
        have hTg0 := Hid.mk' hTg
        clear hTg
        go_wp2_with (at_mapUpdate; refine wpList_put _ rfl _ _ _ 90 rfl 9 4 kStr Try.underlying90 w.heap.size i eBool (FS S) rfl hS.out (by unfold maxLen; omega) _ _ (.string L) rfl rfl ((Go.WideMaps.keyOf_string_mk Try.underlying9 (by rw [str_size]; unfold maxLen; omega)).trans (by rw [str_data])) trivial _ [] (plainElem_bool Try.underlying4 true) (FS (S ++ [L])) (FS_put S L).1 (FS_put S L).2 ?_; intro w2 hm2 hg2)
        go_roundw
        case rel =>
          refine ⟨i + 1, by omega, by go_num, ?_, ?_, ?_⟩
          · rw [htk.out, nub_snoc, ← hn.out]; unfold addN; rw [if_pos (hmN.out.1 hin)]
          · rw [htk.out]; exact Hid.mk' hm2
          · exact Hid.mk' (grownBy_new hgx.out hg2 (fun g e => by have := Option.some.inj e; omega))
        case measure => simp [intOf]; omega
      · have hd : decide (T k ∈ S) = false := decide_eq_false hin
        rw [hd] at q2
        generalize hTg : T k = L at *
        have hTg0 := Hid.mk' hTg
        clear hTg
        go_wp2_with (at_mapUpdate; refine wpList_put _ rfl _ _ _ 90 rfl 9 4 kStr Try.underlying90 w.heap.size i eBool (FS S) rfl hS.out (by unfold maxLen; omega) _ _ (.string L) rfl rfl ((Go.WideMaps.keyOf_string_mk Try.underlying9 (by rw [str_size]; unfold maxLen; omega)).trans (by rw [str_data])) trivial _ [] (plainElem_bool Try.underlying4 true) (FS (S ++ [L])) (FS_put S L).1 (FS_put S L).2 ?_; intro w2 hm2 hg2)
        go_roundw
        case rel =>
          refine ⟨i + 1, by omega, by go_num, ?_, ?_, ?_⟩
          · rw [htk.out, nub_snoc, ← hn.out]; unfold addN; rw [if_neg (fun h => hin (hmN.out.2 h))]; simp
          · rw [htk.out]; exact Hid.mk' hm2
          · exact Hid.mk' (grownBy_new hgx.out hg2 (fun g e => by have := Option.some.inj e; omega))
        case measure => simp [intOf]; omega
    · obtain rfl : i = ks.length := by omega
      rw [List.take_length, hcn.out]
      go_wp2
      go_ret
      exact ⟨rfl, hgx.out⟩
end Go.Proofs.Ytcoiddmgcoeocaa.Tr
