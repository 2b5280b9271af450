/- The plain functions of chapter 1 over integers and bytes, with no program in sight: what each function of ucs answers. -/
namespace Go.Proofs.YtljkncgbabiojaaDoor.Ucs

def hiB (u : Int) : Bool := decide (55296 ≤ u) && decide (u ≤ 56319)
def loB (u : Int) : Bool := decide (56320 ≤ u) && decide (u ≤ 57343)
def scB (u : Int) : Bool := decide (0 ≤ u) && decide (u ≤ 1114111) && (decide (u < 55296) || decide (57343 < u))

theorem hiB_pos {u : Int} (h : 55296 ≤ u) (k : u ≤ 56319) : hiB u = true := by simp [hiB, h, k]
theorem hiB_neg {u : Int} (h : u < 55296 ∨ 56319 < u) : hiB u = false := by simp [hiB]; omega
theorem loB_pos {u : Int} (h : 56320 ≤ u) (k : u ≤ 57343) : loB u = true := by simp [loB, h, k]
theorem loB_neg {u : Int} (h : u < 56320 ∨ 57343 < u) : loB u = false := by simp [loB]; omega
theorem scB_pos {u : Int} (h : 0 ≤ u) (k : u ≤ 1114111) (j : u < 55296 ∨ 57343 < u) : scB u = true := by simp [scB, h, k, j]
theorem scB_neg {u : Int} (h : u < 0 ∨ 1114111 < u ∨ (55296 ≤ u ∧ u ≤ 57343)) : scB u = false := by simp [scB]; omega
theorem scB_iff {u : Int} : scB u = true ↔ 0 ≤ u ∧ u ≤ 1114111 ∧ (u < 55296 ∨ 57343 < u) := by simp [scB, and_assoc]
theorem hiB_iff {u : Int} : hiB u = true ↔ 55296 ≤ u ∧ u ≤ 56319 := by simp [hiB]
theorem loB_iff {u : Int} : loB u = true ↔ 56320 ≤ u ∧ u ≤ 57343 := by simp [loB]

def plane (u : Int) : Int := if scB u = true then u / 65536 else -1

def joinB (a b : Int) : Bool := hiB a && loB b
def joinV (a b : Int) : Int := if joinB a b = true then 65536 + (a - 55296) * 1024 + (b - 56320) else 0
def splitB (u : Int) : Bool := decide (65536 ≤ u) && decide (u ≤ 1114111)
def splitH (u : Int) : Int := if splitB u = true then 55296 + (u - 65536) / 1024 else 0
def splitL (u : Int) : Int := if splitB u = true then 56320 + (u - 65536) % 1024 else 0

theorem joinB_iff {a b : Int} : joinB a b = true ↔ (55296 ≤ a ∧ a ≤ 56319) ∧ (56320 ≤ b ∧ b ≤ 57343) := by simp [joinB, hiB_iff, loB_iff]
theorem splitB_iff {u : Int} : splitB u = true ↔ 65536 ≤ u ∧ u ≤ 1114111 := by simp [splitB]
theorem join_no {a b : Int} (h : hiB a = false ∨ loB b = false) : joinB a b = false ∧ joinV a b = 0 := by
  have e : joinB a b = false := by unfold joinB; rcases h with h | h <;> simp [h]
  exact ⟨e, by simp [joinV, e]⟩
theorem join_yes {a b : Int} (h : hiB a = true) (k : loB b = true) : joinB a b = true ∧ joinV a b = 65536 + (a - 55296) * 1024 + (b - 56320) := by
  have e : joinB a b = true := by simp [joinB, h, k]
  exact ⟨e, by simp [joinV, e]⟩
theorem split_no {u : Int} (h : u < 65536 ∨ 1114111 < u) : splitB u = false ∧ splitH u = 0 ∧ splitL u = 0 := by
  have e : splitB u = false := by simp [splitB]; omega
  exact ⟨e, by simp [splitH, e], by simp [splitL, e]⟩
theorem split_yes {u : Int} (h : 65536 ≤ u) (k : u ≤ 1114111) : splitB u = true ∧ splitH u = 55296 + (u - 65536) / 1024 ∧ splitL u = 56320 + (u - 65536) % 1024 := by
  have e : splitB u = true := by simp [splitB, h, k]
  exact ⟨e, by simp [splitH, e], by simp [splitL, e]⟩

/-- The digit of a number from 0 to 15. -/
def dig (n : Nat) : UInt8 := if n < 10 then UInt8.ofNat (48 + n) else UInt8.ofNat (55 + n)
def digS (n : Nat) : ByteArray := ⟨#[dig n]⟩
/-- The k lowest digits of a number. -/
def low : Nat → Int → ByteArray
  | 0, _ => ⟨#[]⟩
  | k + 1, u => digS (u / 16 ^ k % 16).toNat ++ low k u
/-- How many digits Hex writes. -/
def cnt (u : Int) : Nat := if u < 65536 then 4 else if u < 1048576 then 5 else 6
def hex (u : Int) : ByteArray := if scB u = true then ⟨#[85, 43]⟩ ++ low (cnt u) u else ⟨#[]⟩

theorem digS_size (n : Nat) : (digS n).size = 1 := rfl
theorem low_size : ∀ (k : Nat) (u : Int), (low k u).size = k
  | 0, _ => rfl
  | k + 1, u => by rw [low, ByteArray.size_append, low_size k u, digS_size]; omega
theorem div_step (u : Int) (k : Nat) : u / 16 ^ k / 16 = u / 16 ^ (k + 1) := by
  rw [Int.pow_succ, Int.ediv_ediv_of_nonneg (Int.pow_nonneg (by omega))]
theorem seven {k : Nat} (h : k ≤ 6) : k = 0 ∨ k = 1 ∨ k = 2 ∨ k = 3 ∨ k = 4 ∨ k = 5 ∨ k = 6 := by omega
theorem cnt_le (u : Int) : cnt u ≤ 6 := by unfold cnt; split <;> (try split) <;> omega
theorem cnt_ge (u : Int) : 4 ≤ cnt u := by unfold cnt; split <;> (try split) <;> omega
theorem cnt_cases (u : Int) : (cnt u = 4 ∧ u < 65536) ∨ (cnt u = 5 ∧ 65536 ≤ u ∧ u < 1048576) ∨ (cnt u = 6 ∧ 1048576 ≤ u) := by
  unfold cnt; split
  · left; exact ⟨rfl, by omega⟩
  · split
    · right; left; exact ⟨rfl, by omega, by omega⟩
    · right; right; exact ⟨rfl, by omega⟩
theorem step_lt {u : Int} {k : Nat} (h1 : u ≤ 1114111) (hk : k ≤ cnt u) (h : 0 < u / 16 ^ k ∨ k < 4) : k + 1 ≤ cnt u := by
  have h6 := cnt_le u
  have hc := cnt_cases u
  rcases seven (k := k) (by omega) with e | e | e | e | e | e | e <;> subst e <;> simp at h <;> omega
theorem stop_eq {u : Int} {k : Nat} (hk : k ≤ cnt u) (h : ¬ 0 < u / 16 ^ k) (h4 : ¬ k < 4) : k = cnt u := by
  have h6 := cnt_le u
  have hc := cnt_cases u
  rcases seven (k := k) (by omega) with e | e | e | e | e | e | e <;> subst e <;> omega

end Go.Proofs.YtljkncgbabiojaaDoor.Ucs
