/- strings.Builder's WriteByte and String, by the library's contracts. -/
import Derived.Test.YtphnkcnpbhndlaaRows
import Derived.WalkKit
import Derived.ProofKit
import Derived.Test.YtphnkcnpbhndlaaSP26
import Derived.Shelf.Strings.Builder1
namespace Go.Proofs.Ytphnkcnpbhndlaa.C26
open Go.Shelf
open Go.ChangeShapes Go.WideShapes Go.ChangeAt Go.RowKit Go.Proofs.Ytphnkcnpbhndlaa.Mem
set_option linter.unusedVariables false
set_option linter.unusedSimpArgs false

def sren : Shelf.Ren where
  f := fun x =>
    match x with
    | 167 => 8
    | 169 => 9
    | 240 => 12
    | 276 => 13
    | n => n
  t := fun x =>
    match x with
    | 0 => 0
    | 3 => 3
    | 4 => 4
    | 5 => 5
    | 9 => 9
    | 20 => 20
    | 37 => 22
    | 70 => 27
    | 72 => 29
    | 75 => 31
    | 80 => 34
    | 127 => 38
    | 164 => 39
    | n => n
  g := fun x => x
theorem slays167 : Lays.n167 Try.prog sren where
  mixed := by kernel_rfl
  f167 := Eq.trans Try.func8 (congrArg some (by kernel_rfl))
  f240 := Eq.trans Try.func12 (congrArg some (by kernel_rfl))
  f276 := Eq.trans Try.func13 (congrArg some (by kernel_rfl))
  t0 := Try.underlying0
  a0 := Try.isAgg0
  z0 := Try.sizeOf0
  v0 := Try.zeroValue0
  t4 := Try.underlying4
  a4 := Try.isAgg4
  z4 := Try.sizeOf4
  v4 := Try.zeroValue4
  t5 := Try.underlying5
  a5 := Try.isAgg5
  z5 := Try.sizeOf5
  v5 := Try.zeroValue5
  t9 := Try.underlying9
  a9 := Try.isAgg9
  z9 := Try.sizeOf9
  v9 := Try.zeroValue9
  t20 := Try.underlying20
  a20 := Try.isAgg20
  z20 := Try.sizeOf20
  v20 := Try.zeroValue20
  t37 := Try.underlying22
  a37 := Try.isAgg22
  z37 := Try.sizeOf22
  v37 := Try.zeroValue22
  t70 := Try.underlying27
  a70 := Try.isAgg27
  z70 := Try.sizeOf27
  v70 := Try.zeroValue27
  t72 := Try.underlying29
  a72 := Try.isAgg29
  z72 := Try.sizeOf29
  v72 := Try.zeroValue29
  t75 := Try.underlying31
  a75 := Try.isAgg31
  z75 := Try.sizeOf31
  v75 := Try.zeroValue31
  t164 := Try.underlying39
  a164 := Try.isAgg39
  z164 := Try.sizeOf39
  v164 := Try.zeroValue39
theorem slays169 : Lays.n169 Try.prog sren where
  mixed := by kernel_rfl
  f169 := Eq.trans Try.func9 (congrArg some (by kernel_rfl))
  t0 := Try.underlying0
  a0 := Try.isAgg0
  z0 := Try.sizeOf0
  v0 := Try.zeroValue0
  t3 := Try.underlying3
  a3 := Try.isAgg3
  z3 := Try.sizeOf3
  v3 := Try.zeroValue3
  t9 := Try.underlying9
  a9 := Try.isAgg9
  z9 := Try.sizeOf9
  v9 := Try.zeroValue9
  t37 := Try.underlying22
  a37 := Try.isAgg22
  z37 := Try.sizeOf22
  v37 := Try.zeroValue22
  t70 := Try.underlying27
  a70 := Try.isAgg27
  z70 := Try.sizeOf27
  v70 := Try.zeroValue27
  t72 := Try.underlying29
  a72 := Try.isAgg29
  z72 := Try.sizeOf29
  v72 := Try.zeroValue29
  t127 := Try.underlying38
  a127 := Try.isAgg38
  z127 := Try.sizeOf38
  v127 := Try.zeroValue38
theorem sextra : Builder.Extra Try.prog sren where
  sizeBuilder := by kernel_rfl
  liesBuilder := by kernel_rfl
  t5 := Try.underlying5
  a5 := Try.isAgg5
  z5 := Try.sizeOf5
  v5 := Try.zeroValue5
  infoByte := by kernel_rfl
  cellsByte := by kernel_rfl
  sizeByte := by kernel_rfl
  neB5 := by decide
/-- A builder that holds these bytes, in a block of its own from B on. -/
def Bld (B b : Nat) (L : List UInt8) (w : World) : Prop := Lib.IsBuilder 29 5 B b (Lib.byteCells L) w
theorem byteCells_length (L : List UInt8) : (Lib.byteCells L).length = L.length := by simp [Lib.byteCells]
theorem below_grown {w w' : World} (h : Below w.heap.size w w') : w.grownBy w' none := ⟨h.os, h.tape, h.output, h.size, fun k hk _ => h.block k hk⟩
theorem grown_below {w w' : World} (h : w.grownBy w' none) : Below w.heap.size w w' := ⟨h.os, h.tape, h.output, h.size, fun k hk => h.block k hk (by simp)⟩
theorem bld_write (B b : Nat) (L : List UInt8) (c : Nat) (hc : c < 256) (w : World) (h : Bld B b L w) (hl : L.length + 1 ≤ 140737488355328) (hB : B ≤ w.heap.size) (M : List UInt8) (hM : L ++ [b8 c] = M) :
    Calls Try.prog 8 #[.pointer (some ⟨b, 0, none⟩), .int .u8 (c : Int)] w fun e w' => e = .returned .nilIface ∧ Bld B b M w' ∧ Below B w w' := by
  have a := Any.Builder_WriteByte slays167 sextra B b (Lib.byteCells L) (c : Int) w h (by rw [byteCells_length]; exact hl) hB
  refine Calls.mono a ?_
  rintro e w' ⟨rfl, hb, hlo⟩
  refine ⟨rfl, ?_, hlo⟩
  subst hM
  have e : Lib.byteCells (L ++ [b8 c]) = Lib.byteCells L ++ [.int .u8 (c : Int)] := by simp [Lib.byteCells, b8_toNat hc]
  unfold Bld
  rw [e]
  exact .inr hb
theorem bld_string (B b : Nat) (L : List UInt8) (w : World) (h : Bld B b L w) (hB : B ≤ w.heap.size) (T : ByteArray) (hT : str L = T) :
    Calls Try.prog 9 #[.pointer (some ⟨b, 0, none⟩)] w fun e w' => e = .returned (.string T) ∧ Below B w w' := by
  subst hT
  exact Any.Builder_String_any slays169 sextra B b L w h hB
theorem bld_new (w : World) : Bld w.heap.size w.heap.size [] (w.alloc (.cells #[.pointer none, .slice none 0 0] 29)) := Lib.fresh_isBuilder 29 5 w
theorem bld_drew {B b : Nat} {L : List UInt8} {w : World} (h : Bld B b L w) : Bld B b L w.drew := h
end Go.Proofs.Ytphnkcnpbhndlaa.C26
