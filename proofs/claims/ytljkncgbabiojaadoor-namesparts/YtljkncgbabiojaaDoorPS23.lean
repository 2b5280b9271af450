/- strings.Split at //, by the library's contract; its pieces are the chapter's parts. -/
import Derived.Test.YtljkncgbabiojaaDoorNP23
import Derived.Test.YtljkncgbabiojaaDoorNW23
import Derived.Test.YtljkncgbabiojaaDoorCb
import Derived.Shelf.Strings.Split
namespace Go.Proofs.YtljkncgbabiojaaDoor.C23
open Go.Shelf
open Go.ChangeShapes Go.WideShapes Go.ChangeAt Go.RowKit Go.Proofs.YtljkncgbabiojaaDoor.Mem Go.Proofs.YtljkncgbabiojaaDoor.El Go.Proofs.YtljkncgbabiojaaDoor.St Go.Proofs.YtljkncgbabiojaaDoor.Ri Go.Proofs.YtljkncgbabiojaaDoor.Sx Go.Proofs.YtljkncgbabiojaaDoor.Cb
set_option linter.unusedVariables false
set_option linter.unusedSimpArgs false

def sren : Shelf.Ren where
  f := fun x =>
    match x with
    | 146 => 15
    | 221 => 26
    | 268 => 30
    | 138 => 31
    | 143 => 32
    | 195 => 34
    | 197 => 35
    | 218 => 36
    | 219 => 37
    | 260 => 39
    | 217 => 40
    | 225 => 41
    | 224 => 42
    | 267 => 43
    | 266 => 44
    | 314 => 45
    | n => n
  t := fun x =>
    match x with
    | 9 => 9
    | 31 => 38
    | 3 => 3
    | 4 => 4
    | 0 => 0
    | 105 => 65
    | 21 => 21
    | 5 => 5
    | 46 => 69
    | 119 => 70
    | 139 => 73
    | 138 => 72
    | 146 => 75
    | 51 => 74
    | n => n
  g := fun x =>
    match x with
    | 1 => 0
    | 3 => 1
    | 4 => 2
    | n => n
theorem slays : Lays.n146 Tryd.prog sren where
  mixed := by kernel_rfl
  f138 := Eq.trans Tryd.func31 (congrArg some (by kernel_rfl))
  f143 := Eq.trans Tryd.func32 (congrArg some (by kernel_rfl))
  f146 := Eq.trans Tryd.func15 (congrArg some (by kernel_rfl))
  f195 := Eq.trans Tryd.func34 (congrArg some (by kernel_rfl))
  f197 := Eq.trans Tryd.func35 (congrArg some (by kernel_rfl))
  f217 := Eq.trans Tryd.func40 (congrArg some (by kernel_rfl))
  f218 := Eq.trans Tryd.func36 (congrArg some (by kernel_rfl))
  f219 := Eq.trans Tryd.func37 (congrArg some (by kernel_rfl))
  f221 := Eq.trans Tryd.func26 (congrArg some (by kernel_rfl))
  f224 := Eq.trans Tryd.func42 (congrArg some (by kernel_rfl))
  f225 := Eq.trans Tryd.func41 (congrArg some (by kernel_rfl))
  f260 := Eq.trans Tryd.func39 (congrArg some (by kernel_rfl))
  f266 := Eq.trans Tryd.func44 (congrArg some (by kernel_rfl))
  f267 := Eq.trans Tryd.func43 (congrArg some (by kernel_rfl))
  f268 := Eq.trans Tryd.func30 (congrArg some (by kernel_rfl))
  f314 := Eq.trans Tryd.func45 (congrArg some (by kernel_rfl))
  t0 := Tryd.underlying0
  a0 := Tryd.isAgg0
  z0 := Tryd.sizeOf0
  v0 := Tryd.zeroValue0
  t3 := Tryd.underlying3
  a3 := Tryd.isAgg3
  z3 := Tryd.sizeOf3
  v3 := Tryd.zeroValue3
  t4 := Tryd.underlying4
  a4 := Tryd.isAgg4
  z4 := Tryd.sizeOf4
  v4 := Tryd.zeroValue4
  t5 := Tryd.underlying5
  a5 := Tryd.isAgg5
  z5 := Tryd.sizeOf5
  v5 := Tryd.zeroValue5
  t9 := Tryd.underlying9
  a9 := Tryd.isAgg9
  z9 := Tryd.sizeOf9
  v9 := Tryd.zeroValue9
  t21 := Tryd.underlying21
  a21 := Tryd.isAgg21
  z21 := Tryd.sizeOf21
  v21 := Tryd.zeroValue21
  t31 := Tryd.underlying38
  a31 := Tryd.isAgg38
  z31 := Tryd.sizeOf38
  v31 := Tryd.zeroValue38
  t46 := Tryd.underlying69
  a46 := Tryd.isAgg69
  z46 := Tryd.sizeOf69
  v46 := Tryd.zeroValue69
  t51 := Tryd.underlying74
  a51 := Tryd.isAgg74
  z51 := Tryd.sizeOf74
  v51 := Tryd.zeroValue74
  t105 := Tryd.underlying65
  a105 := Tryd.isAgg65
  z105 := Tryd.sizeOf65
  v105 := Tryd.zeroValue65
  t119 := Tryd.underlying70
  a119 := Tryd.isAgg70
  z119 := Tryd.sizeOf70
  t138 := Tryd.underlying72
  a138 := Tryd.isAgg72
  z138 := Tryd.sizeOf72
  v138 := Tryd.zeroValue72
  t139 := Tryd.underlying73
  a139 := Tryd.isAgg73
  z139 := Tryd.sizeOf73
  v139 := Tryd.zeroValue73
  t146 := Tryd.underlying75
  a146 := Tryd.isAgg75
  z146 := Tryd.sizeOf75
  v146 := Tryd.zeroValue75
  g1 := by kernel_rfl
  g3 := by kernel_rfl
  g4 := by kernel_rfl
theorem slays_i : (Tryd.prog.info? (sren.t 9)).map (fun i => (i.zero, i.size, i.bytes)) = some (some (.string ByteArray.empty), 1, 16) := by kernel_rfl
abbrev ss : List UInt8 := [47, 47]
theorem ix_cons (a : UInt8) (l : List UInt8) (h : ss.isPrefixOf (a :: l) = false) : Lib.index (a :: l) ss = if Lib.index l ss == -1 then -1 else Lib.index l ss + 1 := by rw [Lib.index, h]; simp
theorem ix_nil : Lib.index [] ss = -1 := by decide
theorem pts_ix : ∀ (s cur : List UInt8), (Lib.index s ss = -1 → pts cur s = [cur ++ s]) ∧ ∀ j : Nat, Lib.index s ss = j → pts cur s = (cur ++ s.take j) :: pts [] (s.drop (j + 2)) ∧ j + 2 ≤ s.length
  | [], cur => ⟨fun _ => by rw [pts, List.append_nil], fun j h => by rw [ix_nil] at h; omega⟩
  | [a], cur => by
    have e : Lib.index [a] ss = -1 := by rw [ix_cons a [] (by simp [List.isPrefixOf]), ix_nil]; rfl
    exact ⟨fun _ => by rw [pts], fun j h => by rw [e] at h; omega⟩
  | a :: b :: r, cur => by
    rw [pts_cons]
    by_cases h : a = 47 ∧ b = 47
    · have e : Lib.index (a :: b :: r) ss = 0 := by
        rw [Lib.index, if_pos (by obtain ⟨rfl, rfl⟩ := h; simp [List.isPrefixOf])]
      rw [if_pos h, e]
      refine ⟨fun h => by omega, fun j hj => ?_⟩
      obtain rfl : j = 0 := by omega
      exact ⟨by simp, by simp⟩
    · have hp : ss.isPrefixOf (a :: b :: r) = false := by
        simp only [List.isPrefixOf, Bool.and_true]
        by_cases h1 : a = 47
        · have h2 : ¬ b = 47 := fun e => h ⟨h1, e⟩
          simp [Ne.symm h2]
        · simp [Ne.symm h1]
      rw [if_neg h, ix_cons a (b :: r) hp]
      obtain ⟨i1, i2⟩ := pts_ix (b :: r) (cur ++ [a])
      refine ⟨fun h1 => ?_, fun j hj => ?_⟩
      · by_cases hm : Lib.index (b :: r) ss = -1
        · rw [i1 hm, List.append_assoc]; rfl
        · rw [if_neg (by simpa using hm)] at h1
          have := Lib.index_ge (b :: r) ss
          omega
      · by_cases hm : Lib.index (b :: r) ss = -1
        · rw [if_pos (by simpa using hm)] at hj; omega
        · rw [if_neg (by simpa using hm)] at hj
          have hge := Lib.index_ge (b :: r) ss
          obtain ⟨k, rfl⟩ : ∃ k, j = k + 1 := ⟨j - 1, by omega⟩
          obtain ⟨q1, q2⟩ := i2 k (by omega)
          refine ⟨?_, by simp only [List.length_cons] at q2 ⊢; omega⟩
          rw [q1, List.append_assoc]
          rfl
theorem split_pts : ∀ (n : Nat) (s : List UInt8), s.length ≤ n → Lib.splitK ss 0 (Lib.count s ss) s = pts [] s
  | n, s, hn => by
    have hge := Lib.index_ge s ss
    by_cases hm : Lib.index s ss = -1
    · rw [Lib.count_miss hm, (pts_ix s []).1 hm]
      rfl
    · obtain ⟨j, hj⟩ : ∃ j : Nat, Lib.index s ss = j := ⟨(Lib.index s ss).toNat, by omega⟩
      obtain ⟨q1, q2⟩ := (pts_ix s []).2 j hj
      rw [Lib.count_hit (by simp) hj, Nat.add_comm 1, Lib.splitK, if_neg (by simpa using hm), hj, q1]
      have hl : (s.drop (j + 2)).length < s.length := by rw [List.length_drop]; omega
      match n, hn with
      | 0, hn => omega
      | n + 1, hn =>
        have ih := split_pts n (s.drop (j + 2)) (by omega)
        show s.take (j + 0) :: Lib.splitK ss 0 (Lib.count (s.drop (j + 2)) ss) (s.drop (j + 2)) = _
        rw [ih]
        rfl
theorem split_cells (s : List UInt8) : (Lib.splitB (str ss) 0 (Lib.countB (str s) (str ss)) (str s)).map Value.string = StE.cells (pts [] s) := by
  have h1 := Lib.splitB_data (str ss) 0 (Lib.countB (str s) (str ss)) (str s)
  have h2 : Lib.splitK ss 0 (Lib.countB (str s) (str ss)) s = pts [] s := split_pts _ s (Nat.le_refl _)
  have h3 : (Lib.splitB (str ss) 0 (Lib.countB (str s) (str ss)) (str s)).map (·.data.toList) = pts [] s := h1.trans h2
  have ec : ∀ L : List (List UInt8), StE.cells L = L.map (fun s => Value.string (str s)) := by
    intro L
    induction L with
    | nil => rfl
    | cons a L ih => rw [cells_cons, ih]; rfl
  rw [ec, ← h3, List.map_map]
  refine List.map_congr_left (fun x _ => ?_)
  exact congrArg Value.string (str_of x).symm
theorem split_len (s : List UInt8) : Lib.countB (str s) (str ss) + 1 = (pts [] s).length := by
  have h := congrArg List.length (split_cells s)
  rw [cells_length, List.length_map, Lib.splitB_all (str ss) (by decide) 0 _ _ rfl] at h
  rw [h]
  exact Nat.mul_one _
/-- The library's variable holds some int. -/
def VM (w : World) : Prop := ∃ m : Int, w.cell? ⟨sren.g 1, 0, none⟩ = some (.int .i64 m)
theorem VM.keep {w w' : World} (h : VM w) (hg : w.grownBy w' none) : VM w' := by
  obtain ⟨m, hm⟩ := h
  exact ⟨m, hg.cell hm (by simp)⟩
theorem pSplit (s : List UInt8) (hs : s.length ≤ 64) (w : World) (hw : VM w) : Calls Tryd.prog 15 #[.string (str s), .string (str ss)] w fun e w' => ∃ g, e = .returned (.slice (some ⟨g, 0, none⟩) (pts [] s).length (pts [] s).length) ∧ StE.Own w' (some ⟨g, 0, none⟩) (pts [] s).length (pts [] s) ∧ w.grownBy w' none := by
  obtain ⟨m, hm⟩ := hw
  have c := Any.strings_Split slays slays_i (str s) (str ss) m w (by rw [str_size]; omega) hm (by decide)
  refine Calls.mono c ?_
  rintro e w' ⟨rfl, rfl⟩
  rw [split_len]
  refine ⟨w.heap.size, rfl, ?_, World.grownBy_alloc _ _ _⟩
  refine .inr ⟨_, _, rfl, heap_alloc_new w _, Nat.le_refl _, ?_, ?_, ?_⟩
  · rw [← split_len]
    have := Lib.countB_le (str ss) (by decide) _ (str s) (Nat.le_refl _)
    rw [str_size] at this
    simp only [maxLen]; omega
  · rw [split_cells]
    simp only [List.size_toArray]
    rw [cells_length]
  · rw [split_cells]
    exact List.take_of_length_le (by rw [cells_length]; exact Nat.le_refl _)
end Go.Proofs.YtljkncgbabiojaaDoor.C23
