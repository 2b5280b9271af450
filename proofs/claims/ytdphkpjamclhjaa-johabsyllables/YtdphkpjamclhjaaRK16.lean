/- Syllables: the document's Syllable and Parts: walks; the laws' walks over the program's contracts. -/
import Derived.Test.YtdphkpjamclhjaaRD16
import Derived.Test.YtdphkpjamclhjaaArgs
namespace Go.Proofs.Ytdphkpjamclhjaa.C16
open Go.ChangeShapes Go.WideShapes Go.ChangeAt Go.RowKit Go.Proofs.Ytdphkpjamclhjaa.Mem
set_option linter.unusedVariables false
set_option linter.unusedSimpArgs false

/-- A syllable's number; its parts. -/
abbrev In3 (f m l : Int) : Prop := (0 ≤ f ∧ f ≤ 18) ∧ (0 ≤ m ∧ m ≤ 20) ∧ 0 ≤ l ∧ l ≤ 27
def syV (f m l : Int) : Int := 44032 + f * 588 + m * 28 + l
abbrev InS (u : Int) : Prop := 44032 ≤ u ∧ u ≤ 55203
theorem syV_in {f m l : Int} (h : In3 f m l) : InS (syV f m l) := by unfold In3 at h; unfold InS syV; omega
theorem parts_of {f m l : Int} (h : In3 f m l) : (syV f m l - 44032) / 588 = f ∧ (syV f m l - 44032) % 588 / 28 = m ∧ (syV f m l - 44032) % 28 = l := by unfold In3 at h; unfold syV; omega
theorem of_parts {u : Int} (h : InS u) : In3 ((u - 44032) / 588) ((u - 44032) % 588 / 28) ((u - 44032) % 28) ∧ syV ((u - 44032) / 588) ((u - 44032) % 588 / 28) ((u - 44032) % 28) = u := by unfold InS at h; unfold In3 syV; omega
set_option maxRecDepth 100000 in
set_option maxHeartbeats 1000000 in
theorem refSyl_yes (f m l : Int) (h : In3 f m l) (w : World) : Calls Try.prog 21 #[.int .i64 f, .int .i64 m, .int .i64 l] w fun e w' => e = .returned (.tuple #[.int .i32 (syV f m l), .bool true]) ∧ w' = w := by
  obtain ⟨⟨h1, h2⟩, ⟨h3, h4⟩, h5, h6⟩ := h
  have d1 : ¬ f < 0 := by omega
  have d2 : ¬ 18 < f := by omega
  have d3 : ¬ m < 0 := by omega
  have d4 : ¬ 20 < m := by omega
  have d5 : ¬ l < 0 := by omega
  have d6 : ¬ 27 < l := by omega
  go_enter Try.func21, Try.ntmps21
  go_wp2
  go_ret2
  refine ⟨?_, rfl⟩
  unfold syV
  first | rfl | (congr 4; go_num)
set_option maxRecDepth 100000 in
set_option maxHeartbeats 1000000 in
theorem refSyl_no (f m l : Int) (h : ¬ In3 f m l) (w : World) : Calls Try.prog 21 #[.int .i64 f, .int .i64 m, .int .i64 l] w fun e w' => e = .returned (.tuple #[.int .i32 0, .bool false]) ∧ w' = w := by
  unfold In3 at h
  by_cases d1 : f < 0
  · go_enter Try.func21, Try.ntmps21
    go_wp2
    go_ret2
    exact ⟨rfl, rfl⟩
  · by_cases d2 : 18 < f
    · clear h
      go_enter Try.func21, Try.ntmps21
      go_wp2
      go_ret2
      exact ⟨rfl, rfl⟩
    · by_cases d3 : m < 0
      · clear h
        go_enter Try.func21, Try.ntmps21
        go_wp2
        go_ret2
        exact ⟨rfl, rfl⟩
      · by_cases d4 : 20 < m
        · clear h
          go_enter Try.func21, Try.ntmps21
          go_wp2
          go_ret2
          exact ⟨rfl, rfl⟩
        · by_cases d5 : l < 0
          · clear h
            go_enter Try.func21, Try.ntmps21
            go_wp2
            go_ret2
            exact ⟨rfl, rfl⟩
          · have d6 : 27 < l := by omega
            clear h
            go_enter Try.func21, Try.ntmps21
            go_wp2
            go_ret2
            exact ⟨rfl, rfl⟩
set_option maxRecDepth 100000 in
set_option maxHeartbeats 1000000 in
theorem refParts_yes (u : Int) (h : InS u) (w : World) : Calls Try.prog 23 #[.int .i32 u] w fun e w' => e = .returned (.tuple #[.int .i64 ((u - 44032) / 588), .int .i64 ((u - 44032) % 588 / 28), .int .i64 ((u - 44032) % 28), .bool true]) ∧ w' = w := by
  obtain ⟨h1, h2⟩ := h
  obtain ⟨n, hn⟩ : ∃ n : Nat, u - 44032 = (n : Int) := ⟨(u - 44032).toNat, by omega⟩
  have hn2 : n ≤ 11171 := by omega
  have hn3 : (n : Int) ≤ 11171 := by omega
  have d1 : ¬ u < 44032 := by omega
  have d2 : ¬ 55203 < u := by omega
  have e1 : (n : Int).tdiv 588 = (n : Int) / 588 := Int.tdiv_eq_ediv_of_nonneg (by omega)
  have e2 : (n : Int).tmod 588 = (n : Int) % 588 := Int.tmod_eq_emod_of_nonneg (by omega)
  have e3 : ((n : Int) % 588).tdiv 28 = (n : Int) % 588 / 28 := Int.tdiv_eq_ediv_of_nonneg (by omega)
  have e4 : (n : Int).tmod 28 = (n : Int) % 28 := Int.tmod_eq_emod_of_nonneg (by omega)
  rw [hn]
  go_enter Try.func23, Try.ntmps23
  go_wp2
  refine bodyPost_ret (v := .tuple #[.int .i64 ((n : Int) / 588), .int .i64 ((n : Int) % 588 / 28), .int .i64 ((n : Int) % 28), .bool true]) (by simp [results, Try.results23, go_sem]) rfl ⟨rfl, rfl⟩
set_option maxRecDepth 100000 in
set_option maxHeartbeats 1000000 in
theorem refParts_no (u : Int) (h : ¬ InS u) (w : World) : Calls Try.prog 23 #[.int .i32 u] w fun e w' => e = .returned (.tuple #[.int .i64 0, .int .i64 0, .int .i64 0, .bool false]) ∧ w' = w := by
  unfold InS at h
  by_cases d1 : u < 44032
  · clear h
    go_enter Try.func23, Try.ntmps23
    go_wp2
    exact bodyPost_ret (v := .tuple #[.int .i64 0, .int .i64 0, .int .i64 0, .bool false]) (by simp [results, Try.results23, go_sem]) rfl ⟨rfl, rfl⟩
  · have d2 : 55203 < u := by omega
    clear h
    go_enter Try.func23, Try.ntmps23
    go_wp2
    exact bodyPost_ret (v := .tuple #[.int .i64 0, .int .i64 0, .int .i64 0, .bool false]) (by simp [results, Try.results23, go_sem]) rfl ⟨rfl, rfl⟩
end Go.Proofs.Ytdphkpjamclhjaa.C16
