/- Layer 13's lists, as numbers: plain mathematics. -/
import Derived.Test.YtfehmbicolllkaaPlain
namespace Go.Proofs.Ytfehmbicolllkaa.C13
set_option linter.unusedVariables false

def tl : List Nat := [8364, 65533, 8218, 402, 8222, 8230, 8224, 8225, 710, 8240, 65533, 8249, 338, 65533, 65533, 65533, 65533, 8216, 8217, 8220, 8221, 8226, 8211, 8212, 732, 8482, 65533, 8250, 339, 65533, 65533, 376, 160, 161, 162, 163, 164, 165, 166, 167, 168, 169, 170, 171, 172, 173, 174, 175, 176, 177, 178, 179, 180, 181, 182, 183, 184, 185, 186, 187, 188, 189, 190, 191, 192, 193, 194, 258, 196, 197, 198, 199, 200, 201, 202, 203, 768, 205, 206, 207, 272, 209, 777, 211, 212, 416, 214, 215, 216, 217, 218, 219, 220, 431, 771, 223, 224, 225, 226, 259, 228, 229, 230, 231, 232, 233, 234, 235, 769, 237, 238, 239, 273, 241, 803, 243, 244, 417, 246, 247, 248, 249, 250, 251, 252, 432, 8363, 255]
def trip : List (Nat × Nat × Nat) := [(65, 768, 192), (69, 768, 200), (73, 768, 204), (79, 768, 210), (85, 768, 217), (89, 768, 7922), (97, 768, 224), (101, 768, 232), (105, 768, 236), (111, 768, 242), (117, 768, 249), (121, 768, 7923), (194, 768, 7846), (202, 768, 7872), (212, 768, 7890), (226, 768, 7847), (234, 768, 7873), (244, 768, 7891), (258, 768, 7856), (259, 768, 7857), (416, 768, 7900), (417, 768, 7901), (431, 768, 7914), (432, 768, 7915), (65, 769, 193), (69, 769, 201), (73, 769, 205), (79, 769, 211), (85, 769, 218), (89, 769, 221), (97, 769, 225), (101, 769, 233), (105, 769, 237), (111, 769, 243), (117, 769, 250), (121, 769, 253), (194, 769, 7844), (202, 769, 7870), (212, 769, 7888), (226, 769, 7845), (234, 769, 7871), (244, 769, 7889), (258, 769, 7854), (259, 769, 7855), (416, 769, 7898), (417, 769, 7899), (431, 769, 7912), (432, 769, 7913), (65, 771, 195), (69, 771, 7868), (73, 771, 296), (79, 771, 213), (85, 771, 360), (89, 771, 7928), (97, 771, 227), (101, 771, 7869), (105, 771, 297), (111, 771, 245), (117, 771, 361), (121, 771, 7929), (194, 771, 7850), (202, 771, 7876), (212, 771, 7894), (226, 771, 7851), (234, 771, 7877), (244, 771, 7895), (258, 771, 7860), (259, 771, 7861), (416, 771, 7904), (417, 771, 7905), (431, 771, 7918), (432, 771, 7919), (65, 777, 7842), (69, 777, 7866), (73, 777, 7880), (79, 777, 7886), (85, 777, 7910), (89, 777, 7926), (97, 777, 7843), (101, 777, 7867), (105, 777, 7881), (111, 777, 7887), (117, 777, 7911), (121, 777, 7927), (194, 777, 7848), (202, 777, 7874), (212, 777, 7892), (226, 777, 7849), (234, 777, 7875), (244, 777, 7893), (258, 777, 7858), (259, 777, 7859), (416, 777, 7902), (417, 777, 7903), (431, 777, 7916), (432, 777, 7917), (65, 803, 7840), (69, 803, 7864), (73, 803, 7882), (79, 803, 7884), (85, 803, 7908), (89, 803, 7924), (97, 803, 7841), (101, 803, 7865), (105, 803, 7883), (111, 803, 7885), (117, 803, 7909), (121, 803, 7925), (194, 803, 7852), (202, 803, 7878), (212, 803, 7896), (226, 803, 7853), (234, 803, 7879), (244, 803, 7897), (258, 803, 7862), (259, 803, 7863), (416, 803, 7906), (417, 803, 7907), (431, 803, 7920), (432, 803, 7921)]
def dg (d : Nat) : UInt8 := if d < 10 then UInt8.ofNat (48 + d) else UInt8.ofNat (55 + d)
def hex4 (n : Nat) : List UInt8 := [dg (n / 4096 % 16), dg (n / 256 % 16), dg (n / 16 % 16), dg (n % 16)]
/-- A list as the document's function has it: four digits a number. -/
def dig4 (l : List Nat) : List UInt8 := l.flatMap hex4
/-- The triples, one number behind the other. -/
def t3 : List Nat := trip.flatMap (fun p => [p.1, p.2.1, p.2.2])
theorem dig4_len (l : List Nat) : (dig4 l).length = 4 * l.length := by
  induction l with
  | nil => rfl
  | cons x l ih => simp only [dig4, List.flatMap_cons, List.length_append, List.length_cons] at ih ⊢; rw [ih]; simp [hex4]; omega
theorem dig4_at : ∀ (l : List Nat) (j : Nat) (hj : j < l.length) (i : Nat), i < 4 → (dig4 l)[4 * j + i]? = (hex4 l[j])[i]?
  | x :: l, 0, hj, i, hi => by
    simp only [dig4, List.flatMap_cons, Nat.mul_zero, Nat.zero_add, List.getElem_cons_zero]
    rw [List.getElem?_append_left (by simp [hex4]; omega)]
  | x :: l, j + 1, hj, i, hi => by
    have ih := dig4_at l j (by simpa using hj) i hi
    simp only [dig4, List.flatMap_cons, List.getElem_cons_succ] at ih ⊢
    rw [List.getElem?_append_right (by simp [hex4]; omega)]
    have : 4 * (j + 1) + i - (hex4 x).length = 4 * j + i := by simp [hex4]; omega
    rw [this]
    exact ih
theorem trip_len : trip.length = 120 := by decide +kernel
theorem t3_len : t3.length = 360 := by decide +kernel
theorem tl_len : tl.length = 128 := by decide +kernel
theorem t3_small : ∀ x ∈ t3, x ≤ 65535 := by decide +kernel
theorem tl_small : ∀ x ∈ tl, x ≤ 65535 := by decide +kernel
theorem flat3 : ∀ (l : List (Nat × Nat × Nat)) (i : Nat) (h : i < l.length), (l.flatMap (fun p => [p.1, p.2.1, p.2.2]))[3 * i]? = some l[i].1 ∧ (l.flatMap (fun p => [p.1, p.2.1, p.2.2]))[3 * i + 1]? = some l[i].2.1 ∧ (l.flatMap (fun p => [p.1, p.2.1, p.2.2]))[3 * i + 2]? = some l[i].2.2
  | p :: l, 0, _ => by simp
  | p :: l, i + 1, h => by
    have ih := flat3 l i (by simpa using h)
    simp only [List.flatMap_cons, List.getElem_cons_succ]
    rw [List.getElem?_append_right (by simp; omega), List.getElem?_append_right (by simp; omega), List.getElem?_append_right (by simp; omega)]
    simp only [List.length_cons, List.length_nil]
    rw [show 3 * (i + 1) - (0 + 1 + 1 + 1) = 3 * i by omega, show 3 * (i + 1) + 1 - (0 + 1 + 1 + 1) = 3 * i + 1 by omega, show 3 * (i + 1) + 2 - (0 + 1 + 1 + 1) = 3 * i + 2 by omega]
    exact ih
end Go.Proofs.Ytfehmbicolllkaa.C13
