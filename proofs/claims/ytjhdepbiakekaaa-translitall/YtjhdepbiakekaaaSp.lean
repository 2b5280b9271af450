/- What steps answer, as values: Got and Put; their variables; texts of one byte and of two. -/
import Derived.Test.YtjhdepbiakekaaaRows
import Derived.WalkKit
import Derived.ProofKit
import Derived.Test.YtjhdepbiakekaaaMem
import Derived.Test.YtjhdepbiakekaaaCb
namespace Go.Proofs.Ytjhdepbiakekaaa.Sp
open Go.ChangeShapes Go.WideShapes Go.ChangeAt Go.RowKit Go.Proofs.Ytjhdepbiakekaaa.Mem Go.Proofs.Ytjhdepbiakekaaa.Cb
set_option linter.unusedVariables false

/-- The cells of a Got, of a Put; those without a state. -/
abbrev gC (e n k a b md bi ac he : Int) : Array Value := #[.int .i64 e, .int .i64 n, .int .i64 k, .int .i32 a, .int .i32 b, .int .i64 md, .int .i64 bi, .int .u32 ac, .int .i32 he]
abbrev pC (e : Int) (s : ByteArray) (md bi ac he : Int) : Array Value := #[.int .i64 e, .string s, .int .i64 md, .int .i64 bi, .int .u32 ac, .int .i32 he]
abbrev gZ (e n k a : Int) : Array Value := gC e n k a 0 0 0 0 0
abbrev pZ (e : Int) (s : ByteArray) : Array Value := pC e s 0 0 0 0
abbrev gV (e n k a : Int) : Value := .agg (gZ e n k a)
abbrev pV (e : Int) (s : ByteArray) : Value := .agg (pZ e s)
theorem infoG : (Try.prog.info? 50).map (·.size) = some 9 := by kernel_rfl
theorem infoP : (Try.prog.info? 47).map (·.size) = some 6 := by kernel_rfl
theorem zeroG (w : World) : (zeroValue 50).run Try.prog w = .ok (.agg (gZ 0 0 0 0)) w := by kernel_rfl
theorem zeroP (w : World) : (zeroValue 47).run Try.prog w = .ok (.agg (pZ 0 ⟨#[]⟩)) w := by kernel_rfl
theorem gC_one (e n k a b md bi ac he : Int) : (gC e n k a b md bi ac he).all (·.oneCell') = true := by kernel_rfl
theorem pC_one (e : Int) (s : ByteArray) (md bi ac he : Int) : (pC e s md bi ac he).all (·.oneCell') = true := by kernel_rfl
def b8 (b : Nat) : UInt8 := UInt8.ofNat b
theorem b8_nat {b : Nat} (h : b < 256) : ((b8 b).toNat : Int) = (b : Int) := by unfold b8; rw [UInt8.toNat_ofNat', Nat.mod_eq_of_lt h]
theorem b8_toNat {b : Nat} (h : b < 256) : (b8 b).toNat = b := by unfold b8; rw [UInt8.toNat_ofNat', Nat.mod_eq_of_lt h]
theorem b8_of (c : UInt8) : b8 c.toNat = c := by unfold b8; simp
theorem bytes_one {b : Nat} (hb : b < 256) (w : World) (fr : Nat × Nat) : Bytes (w.alloc (.cells #[.int .u8 (b : Int)] 5 fr)) (some ⟨w.heap.size, 0, none⟩) [b8 b] := .inr ⟨_, rfl, fun j hj => by
  simp at hj
  subst hj
  rw [addr_add]
  refine cell_at (heap_alloc_new w _) 0 ?_
  simp [b8_nat hb]⟩
theorem bytes_two {x y : Nat} (hx : x < 256) (hy : y < 256) (w : World) (fr : Nat × Nat) : Bytes (w.alloc (.cells #[.int .u8 (x : Int), .int .u8 (y : Int)] 5 fr)) (some ⟨w.heap.size, 0, none⟩) [b8 x, b8 y] := .inr ⟨_, rfl, fun j hj => by
  have hj2 : j < 2 := hj
  rw [addr_add]
  match j, hj2 with
  | 0, _ => refine cell_at (heap_alloc_new w _) 0 ?_; simp [b8_nat hx]
  | 1, _ => refine cell_at (heap_alloc_new w _) 1 ?_; simp [b8_nat hy]⟩
theorem conv_one {b : Nat} (hb : b < 256) (w : World) : (convert 35 9 (.slice (some ⟨w.heap.size, 0, none⟩) 1 1)).run Try.prog (w.alloc (.cells #[.int .u8 (b : Int)] 5)) = .ok (.string (str [b8 b])) (w.alloc (.cells #[.int .u8 (b : Int)] 5)) :=
  conv (bytes_one hb w (0, 0)) 35 9 1 Try.underlying35 Try.underlying5 Try.underlying9
theorem conv_two {x y : Nat} (hx : x < 256) (hy : y < 256) (w : World) : (convert 35 9 (.slice (some ⟨w.heap.size, 0, none⟩) 2 2)).run Try.prog (w.alloc (.cells #[.int .u8 (x : Int), .int .u8 (y : Int)] 5)) = .ok (.string (str [b8 x, b8 y])) (w.alloc (.cells #[.int .u8 (x : Int), .int .u8 (y : Int)] 5)) :=
  conv (bytes_two hx hy w (0, 0)) 35 9 2 Try.underlying35 Try.underlying5 Try.underlying9
/-- The first bytes of a row that is not changed. -/
theorem first_cell {w : World} {ao : Option Addr} {c : UInt8} {L : List UInt8} (h : Bytes w ao (c :: L)) : ∃ g o, ao = some ⟨g, o, none⟩ ∧ ∀ wx, w.grownBy wx none → wx.cell? ⟨g, o, none⟩ = some (.int .u8 (c.toNat : Int)) := by
  rcases h with ⟨_, h⟩ | ⟨a, rfl, hcell⟩
  · cases h
  · obtain ⟨g, o, sp⟩ := a
    have hb0 := hcell 0 (by simp)
    have hsp : sp = none := by simpa [Addr.add] using World.cell?_spot hb0
    subst hsp
    refine ⟨g, o, rfl, fun wx hg => ?_⟩
    have hlt := World.block_lt_of_cell? w _ hb0
    rw [addr_add, Nat.add_zero] at hb0
    simp only [List.getElem_cons_zero, addr_add] at hb0 hlt
    have := hg.block g hlt (by simp)
    simpa [World.cell?, this] using hb0
theorem second_cell {w : World} {g o : Nat} {c d : UInt8} {L : List UInt8} (h : Bytes w (some ⟨g, o, none⟩) (c :: d :: L)) : ∀ wx, w.grownBy wx none → wx.cell? ⟨g, o + 1, none⟩ = some (.int .u8 (d.toNat : Int)) := by
  rcases h with ⟨_, h⟩ | ⟨a, h1, hcell⟩
  · cases h
  · cases h1
    intro wx hg
    have hb0 := hcell 1 (by simp)
    have hlt := World.block_lt_of_cell? w _ hb0
    rw [addr_add] at hb0
    simp only [List.getElem_cons_succ, List.getElem_cons_zero, addr_add] at hb0 hlt
    have := hg.block g hlt (by simp)
    simpa [World.cell?, this] using hb0
end Go.Proofs.Ytjhdepbiakekaaa.Sp
