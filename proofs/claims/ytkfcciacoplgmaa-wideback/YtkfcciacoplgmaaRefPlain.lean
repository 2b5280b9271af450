/- The document's step of one order: all bytes. -/
import Derived.Test.YtkfcciacoplgmaaRefPlain1
namespace Go.Proofs.Ytkfcciacoplgmaa.Wd
open Go.ChangeShapes Go.WideShapes Go.ChangeAt Go.RowKit Go.Proofs.Ytkfcciacoplgmaa.Mem Go.Proofs.Ytkfcciacoplgmaa.Ucs
set_option linter.unusedVariables false
set_option linter.unusedSimpArgs false
theorem not_ucs {k : Int} {n : Nat} {p m low : Bool} (h : fm k = some (n, p, m, low)) (hp : p = true ∨ n = 4) : (k == 9) = false ∧ (k == 10) = false := by
  rcases fm_some h with ⟨rfl, e⟩ | ⟨rfl, e⟩ | ⟨rfl, e⟩ | ⟨rfl, e⟩ | ⟨rfl, e⟩ | ⟨rfl, e⟩ | ⟨rfl, e⟩ | ⟨rfl, e⟩ <;> (simp only [Prod.mk.injEq] at e; obtain ⟨rfl, rfl, rfl, rfl⟩ := e; simp at hp ⊢)
theorem is_ucs {k : Int} {m low : Bool} (h : fm k = some (2, false, m, low)) : k = 9 ∨ k = 10 := by
  rcases fm_some h with ⟨rfl, e⟩ | ⟨rfl, e⟩ | ⟨rfl, e⟩ | ⟨rfl, e⟩ | ⟨rfl, e⟩ | ⟨rfl, e⟩ | ⟨rfl, e⟩ | ⟨rfl, e⟩ <;> simp at e ⊢
theorem hi_not_sc {x : Int} (h : hiB x = true) : scB x = false := by
  have := hiB_iff.1 h
  exact scB_neg (by omega)
theorem plainW_any (k : Int) (n : Nat) (p m low : Bool) (hf : fm k = some (n, p, m, low)) (lo : Bool) (ao : Option Addr) (len cap : Nat) (L : List UInt8) (w : World) (hB : Bytes w ao L) (hlen : L.length = len) (hx : len ≤ 140737488355328) (hcap : len ≤ cap) (hcm : cap ≤ 9223372036854775807) (R : Gt) (hR : plainR p lo n L 0 = R) :
    Calls Try.prog 26 #[.int .i64 k, .bool lo, .slice ao len cap] w fun e w' => e = .returned (gotS R.e R.n R.k R.a 0) ∧ w.grownBy w' none := by
  subst hR
  have ff := fm_facts hf
  by_cases hl : len < n
  · have e : plainR p lo n L 0 = more := by unfold plainR; rw [if_pos (by omega)]
    rw [e]
    exact plainW_more k n p m low lo hf ao len cap L w hB hlen hx hcap hcm hl
  · have hl' : n ≤ len := by omega
    have hLn : ¬ L.length < n := by omega
    have hxn := num_lt lo n L
    by_cases hs : scB (num lo n L : Int) = true
    · have hb := scB_iff.1 hs
      have hh : ¬ (p = true ∧ hiB (num lo n L : Int) = true) := fun h => by have := hi_not_sc h.2; rw [hs] at this; cases this
      have e : plainR p lo n L 0 = ok n (num lo n L : Int) 0 := by unfold plainR; rw [if_neg hLn, if_neg hh, if_pos hs]
      rw [e]
      rcases ff.2.2.1 with rfl | rfl
      · exact plainW_ok2 k p m low lo hf ao len cap L w hB hlen hx hcap hcm hl' _ rfl (by omega) hs
      · exact plainW_ok4 k p m low lo hf ao len cap L w hB hlen hx hcap hcm hl' _ rfl (by omega) hs
    · have hs' : scB (num lo n L : Int) = false := by simpa using hs
      rcases ff.2.2.1 with rfl | rfl
      · have hx6 : num lo 2 L ≤ 65535 := by omega
        cases p with
        | false =>
          have e : plainR false lo 2 L 0 = ill 2 0 := by unfold plainR; rw [if_neg hLn, if_neg (by simp), if_neg hs]; rfl
          rw [e]
          rcases is_ucs hf with rfl | rfl
          · exact plainW_ucs9 false m low lo hf ao len cap L w hB hlen hx hcap hcm hl' _ rfl hx6 hs'
          · exact plainW_ucs10 false m low lo hf ao len cap L w hB hlen hx hcap hcm hl' _ rfl hx6 hs'
        | true =>
          have hk := not_ucs hf (.inl rfl)
          by_cases hh : hiB (num lo 2 L : Int) = true
          · by_cases h4 : len < 4
            · have e : plainR true lo 2 L 0 = more := by unfold plainR; rw [if_neg hLn, if_pos ⟨rfl, hh⟩, if_pos (by omega)]
              rw [e]
              exact plainW_himore k true m low lo hf ao len cap L w hB hlen hx hcap hcm hl' _ rfl hk.1 hk.2 hx6 hs' hh h4
            · have hyn := num_lt lo 2 (L.drop 2)
              by_cases hy : loB (num lo 2 (L.drop 2) : Int) = true
              · have e : plainR true lo 2 L 0 = ok 4 (joinV (num lo 2 L : Int) (num lo 2 (L.drop 2) : Int)) 0 := by unfold plainR; rw [if_neg hLn, if_pos ⟨rfl, hh⟩, if_neg (by omega), if_pos hy]; rfl
                rw [e]
                exact plainW_pair k true m low lo hf ao len cap L w hB hlen hx hcap hcm hl' _ rfl hk.1 hk.2 hx6 hs' hh (by omega) _ (by omega) rfl _ (join_yes hh hy).1 rfl
              · have e : plainR true lo 2 L 0 = ill 2 0 := by unfold plainR; rw [if_neg hLn, if_pos ⟨rfl, hh⟩, if_neg (by omega), if_neg hy]; rfl
                rw [e]
                have hj := join_no (a := (num lo 2 L : Int)) (b := (num lo 2 (L.drop 2) : Int)) (.inr (by simpa using hy))
                exact plainW_nopair k true m low lo hf ao len cap L w hB hlen hx hcap hcm hl' _ rfl hk.1 hk.2 hx6 hs' hh (by omega) _ (by omega) rfl hj.1 hj.2
          · have e : plainR true lo 2 L 0 = ill 2 0 := by unfold plainR; rw [if_neg hLn, if_neg (fun h => hh h.2), if_neg hs]; rfl
            rw [e]
            exact plainW_low k true m low lo hf ao len cap L w hB hlen hx hcap hcm hl' _ rfl hk.1 hk.2 hx6 hs' (show hiB (num lo 2 L : Int) = false by simpa using hh)
      · have hp : p = false := by
          cases p
          · rfl
          · have := ff.2.2.2.1 rfl; omega
        subst hp
        have e : plainR false lo 4 L 0 = ill 4 0 := by unfold plainR; rw [if_neg hLn, if_neg (by simp), if_neg hs]; rfl
        rw [e]
        by_cases h1 : num lo 4 L ≤ 1114111
        · exact plainW_ill4a k false m low lo hf ao len cap L w hB hlen hx hcap hcm hl' _ rfl h1 hs'
        · exact plainW_ill4b k false m low lo hf ao len cap L w hB hlen hx hcap hcm hl' _ rfl (by omega) (by omega)
end Go.Proofs.Ytkfcciacoplgmaa.Wd
