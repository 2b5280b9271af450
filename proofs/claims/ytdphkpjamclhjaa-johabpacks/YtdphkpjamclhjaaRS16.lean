/- The program's Syllable and Parts of layer 16. -/
import Derived.Test.YtdphkpjamclhjaaRK16
namespace Go.Proofs.Ytdphkpjamclhjaa.C16
open Go.ChangeShapes Go.WideShapes Go.ChangeAt Go.RowKit Go.Proofs.Ytdphkpjamclhjaa.Mem
set_option linter.unusedVariables false
set_option linter.unusedSimpArgs false

set_option maxRecDepth 100000 in
set_option maxHeartbeats 1000000 in
theorem pSyl_yes (f m l : Int) (h : In3 f m l) (w : World) : Calls Try.prog 32 #[.int .i64 f, .int .i64 m, .int .i64 l] w fun e w' => e = .returned (.tuple #[.int .i32 (syV f m l), .bool true]) ∧ w' = w := by
  obtain ⟨⟨h1, h2⟩, ⟨h3, h4⟩, h5, h6⟩ := h
  have d1 : ¬ f < 0 := by omega
  have d2 : ¬ 18 < f := by omega
  have d3 : ¬ m < 0 := by omega
  have d4 : ¬ 20 < m := by omega
  have d5 : ¬ l < 0 := by omega
  have d6 : ¬ 27 < l := by omega
  have g1 : 0 ≤ f := h1
  have g2 : f < 19 := by omega
  have g3 : 0 ≤ m := h3
  have g4 : m < 21 := by omega
  have g5 : 0 ≤ l := h5
  have g6 : l < 28 := by omega
  have gv : wrap32 (wrap64 (44032 + (f * 21 + m) * 28 + l)) = 44032 + f * 588 + m * 28 + l := by unfold wrap64 wrap32; omega
  go_enter Try.func32, Try.ntmps32
  go_wp2
  go_ret2
  refine ⟨?_, rfl⟩
  unfold syV
  first | rfl | (rw [gv]) | (congr 4; go_num)
set_option maxRecDepth 100000 in
set_option maxHeartbeats 1000000 in
theorem pSyl_no (f m l : Int) (h : ¬ In3 f m l) (w : World) : Calls Try.prog 32 #[.int .i64 f, .int .i64 m, .int .i64 l] w fun e w' => e = .returned (.tuple #[.int .i32 0, .bool false]) ∧ w' = w := by
  unfold In3 at h
  by_cases d1 : f < 0
  · have g : ¬ 0 ≤ f := by omega
    go_enter Try.func32, Try.ntmps32
    go_wp2
    go_ret2
    exact ⟨rfl, rfl⟩
  · by_cases d2 : 18 < f
    · clear h
      have g : ¬ f < 19 := by omega
      go_enter Try.func32, Try.ntmps32
      go_wp2
      go_ret2
      exact ⟨rfl, rfl⟩
    · by_cases d3 : m < 0
      · clear h
        have g : ¬ 0 ≤ m := by omega
        go_enter Try.func32, Try.ntmps32
        go_wp2
        go_ret2
        exact ⟨rfl, rfl⟩
      · by_cases d4 : 20 < m
        · clear h
          have g : ¬ m < 21 := by omega
          go_enter Try.func32, Try.ntmps32
          go_wp2
          go_ret2
          exact ⟨rfl, rfl⟩
        · by_cases d5 : l < 0
          · clear h
            have g : ¬ 0 ≤ l := by omega
            go_enter Try.func32, Try.ntmps32
            go_wp2
            go_ret2
            exact ⟨rfl, rfl⟩
          · have d6 : 27 < l := by omega
            clear h
            have g : ¬ l < 28 := by omega
            go_enter Try.func32, Try.ntmps32
            go_wp2
            go_ret2
            exact ⟨rfl, rfl⟩
set_option maxRecDepth 100000 in
set_option maxHeartbeats 1000000 in
theorem pParts_yes (u : Int) (h : InS u) (w : World) : Calls Try.prog 22 #[.int .i32 u] w fun e w' => e = .returned (.tuple #[.int .i64 ((u - 44032) / 588), .int .i64 ((u - 44032) % 588 / 28), .int .i64 ((u - 44032) % 28), .bool true]) ∧ w' = w := by
  obtain ⟨h1, h2⟩ := h
  obtain ⟨n, hn⟩ : ∃ n : Nat, u - 44032 = (n : Int) := ⟨(u - 44032).toNat, by omega⟩
  have hn2 : n ≤ 11171 := by omega
  have hn3 : (n : Int) ≤ 11171 := by omega
  have d1 : ¬ u < 44032 := by omega
  have d2 : ¬ 55203 < u := by omega
  have e1 : (n : Int).tdiv 588 = (n : Int) / 588 := Int.tdiv_eq_ediv_of_nonneg (by omega)
  have e2 : (n : Int).tmod 588 = (n : Int) % 588 := Int.tmod_eq_emod_of_nonneg (by omega)
  have e3 : ((n : Int) % 588).tdiv 28 = (n : Int) % 588 / 28 := Int.tdiv_eq_ediv_of_nonneg (by omega)
  have e4 : (n : Int).tmod 28 = (n : Int) % 28 := Int.tmod_eq_emod_of_nonneg (by omega)
  have e5 : (n : Int).tdiv 28 = (n : Int) / 28 := Int.tdiv_eq_ediv_of_nonneg (by omega)
  have e6 : ((n : Int) / 28).tdiv 21 = (n : Int) / 588 := by rw [Int.tdiv_eq_ediv_of_nonneg (by omega)]; omega
  have e7 : ((n : Int) / 28).tmod 21 = (n : Int) % 588 / 28 := by rw [Int.tmod_eq_emod_of_nonneg (by omega)]; omega
  have e8 : (n : Int) / 28 / 21 = (n : Int) / 588 := by omega
  have e9 : (n : Int) / 28 % 21 = (n : Int) % 588 / 28 := by omega
  rw [hn]
  go_enter Try.func22, Try.ntmps22
  go_wp2
  refine bodyPost_ret (v := .tuple #[.int .i64 ((n : Int) / 588), .int .i64 ((n : Int) % 588 / 28), .int .i64 ((n : Int) % 28), .bool true]) (by simp [results, Try.results22, go_sem, e8, e9]) rfl ⟨rfl, rfl⟩
set_option maxRecDepth 100000 in
set_option maxHeartbeats 1000000 in
theorem pParts_no (u : Int) (h : ¬ InS u) (w : World) : Calls Try.prog 22 #[.int .i32 u] w fun e w' => e = .returned (.tuple #[.int .i64 0, .int .i64 0, .int .i64 0, .bool false]) ∧ w' = w := by
  unfold InS at h
  by_cases d1 : u < 44032
  · clear h
    go_enter Try.func22, Try.ntmps22
    go_wp2
    exact bodyPost_ret (v := .tuple #[.int .i64 0, .int .i64 0, .int .i64 0, .bool false]) (by simp [results, Try.results22, go_sem]) rfl ⟨rfl, rfl⟩
  · have d2 : 55203 < u := by omega
    clear h
    go_enter Try.func22, Try.ntmps22
    go_wp2
    exact bodyPost_ret (v := .tuple #[.int .i64 0, .int .i64 0, .int .i64 0, .bool false]) (by simp [results, Try.results22, go_sem]) rfl ⟨rfl, rfl⟩
end Go.Proofs.Ytdphkpjamclhjaa.C16
