/- The document's parts of layer 23: a walk. -/
import Derived.Test.YtljkncgbabiojaaNF23
namespace Go.Proofs.Ytljkncgbabiojaa.C23
open Go.ChangeShapes Go.WideShapes Go.ChangeAt Go.RowKit Go.Proofs.Ytljkncgbabiojaa.Mem Go.Proofs.Ytljkncgbabiojaa.El Go.Proofs.Ytljkncgbabiojaa.St Go.Proofs.Ytljkncgbabiojaa.Ri Go.Proofs.Ytljkncgbabiojaa.Sx
set_option linter.unusedVariables false
set_option linter.unusedSimpArgs false

/-- A text's parts, at each //: cur is what stands before it, behind the last //. -/
def pts : List UInt8 → List UInt8 → List (List UInt8)
  | cur, [] => [cur]
  | cur, [a] => [cur ++ [a]]
  | cur, a :: b :: r => if a = 47 ∧ b = 47 then cur :: pts [] r else pts (cur ++ [a]) (b :: r)
theorem pts_cons (cur : List UInt8) (a b : UInt8) (r : List UInt8) : pts cur (a :: b :: r) = if a = 47 ∧ b = 47 then cur :: pts [] r else pts (cur ++ [a]) (b :: r) := by rw [pts]
theorem pts_end {cur L : List UInt8} (h : L.length ≤ 1) : pts cur L = [cur ++ L] := by
  match L, h with
  | [], _ => rw [pts, List.append_nil]
  | [a], _ => rw [pts]
theorem ext_of (L : List UInt8) (a b : Nat) (h : b ≤ L.length) : (str L).extract a b = str ((L.take b).drop a) := by
  have e : ((str L).extract a b).data = (str ((L.take b).drop a)).data := by
    rw [ByteArray.data_extract]
    apply Array.toList_inj.1
    rw [Array.toList_extract]
    simp only [str, List.extract_eq_take_drop]
    rw [List.drop_take]
  cases h1 : (str L).extract a b
  cases h2 : str ((L.take b).drop a)
  rw [h1, h2] at e
  exact congrArg _ e
theorem ext_end (L : List UInt8) (a : Nat) : (str L).extract a (str L).size = str (L.drop a) := by
  have h := ext_of L a (str L).size (by rw [str_size]; exact Nat.le_refl _)
  rw [h, str_size, List.take_length]
theorem src_str1 (w : World) (x : List UInt8) : Src Try.prog 1 22 (.slice (some ⟨w.heap.size, 0, none⟩) 1 1) 1 (StE.cells [x]) (w.alloc (.cells #[.string (str x)] 9)) :=
  src_strs (rd_new w _ _ [x] rfl) 1
/-- One step of parts: behind a //, and behind any other byte. -/
theorem pts_hit {s : List UInt8} {f i : Nat} (hf : f ≤ i) (h : i + 1 < s.length) (h1 : s[i] = 47) (h2 : s[i + 1] = 47) : pts ((s.take i).drop f) (s.drop i) = (s.take i).drop f :: pts ((s.take (i + 2)).drop (i + 2)) (s.drop (i + 2)) := by
  rw [List.drop_eq_getElem_cons (show i < s.length by omega), List.drop_eq_getElem_cons (show i + 1 < s.length by omega), pts_cons, if_pos ⟨h1, h2⟩]
  have e : (s.take (i + 2)).drop (i + 2) = [] := List.drop_eq_nil_of_le (by rw [List.length_take]; omega)
  rw [e]
theorem pts_step {s : List UInt8} {f i : Nat} (hf : f ≤ i) (h : i + 1 < s.length) (hn : ¬ (s[i] = 47 ∧ s[i + 1] = 47)) : pts ((s.take i).drop f) (s.drop i) = pts ((s.take (i + 1)).drop f) (s.drop (i + 1)) := by
  have e : (s.take (i + 1)).drop f = (s.take i).drop f ++ [s[i]'(by omega)] := by
    rw [List.take_add_one, List.getElem?_eq_getElem (show i < s.length by omega), List.drop_append_of_le_length (by rw [List.length_take]; omega)]
    rfl
  rw [List.drop_eq_getElem_cons (show i < s.length by omega), List.drop_eq_getElem_cons (show i + 1 < s.length by omega), pts_cons, if_neg hn, e]
end Go.Proofs.Ytljkncgbabiojaa.C23
