/- The document's low, high, marks of layer 22: walks, one for each row. -/
import Derived.Test.YtjhdepbiakekaaaTI22
import Derived.Test.YtjhdepbiakekaaaSt
namespace Go.Proofs.Ytjhdepbiakekaaa.C22
open Go.ChangeShapes Go.WideShapes Go.ChangeAt Go.RowKit Go.Proofs.Ytjhdepbiakekaaa.Mem Go.Proofs.Ytjhdepbiakekaaa.El Go.Proofs.Ytjhdepbiakekaaa.St
set_option linter.unusedVariables false
set_option linter.unusedSimpArgs false

set_option maxRecDepth 100000 in
set_option maxHeartbeats 1000000 in
theorem low_160 (w : World) : Calls Try.prog 20 #[.int .i32 160] w fun e w' => STold w [[32]] e w' := by
  go_enter Try.func20, Try.ntmps20
  go_wp2
  go_ret
  exact told_lit w _ [[32]] _ rfl rfl (by decide)
set_option maxRecDepth 100000 in
set_option maxHeartbeats 1000000 in
theorem low_161 (w : World) : Calls Try.prog 20 #[.int .i32 161] w fun e w' => STold w [[33]] e w' := by
  go_enter Try.func20, Try.ntmps20
  go_wp2
  go_ret
  exact told_lit w _ [[33]] _ rfl rfl (by decide)
set_option maxRecDepth 100000 in
set_option maxHeartbeats 1000000 in
theorem low_162 (w : World) : Calls Try.prog 20 #[.int .i32 162] w fun e w' => STold w [[99]] e w' := by
  go_enter Try.func20, Try.ntmps20
  go_wp2
  go_ret
  exact told_lit w _ [[99]] _ rfl rfl (by decide)
set_option maxRecDepth 100000 in
set_option maxHeartbeats 1000000 in
theorem low_163 (w : World) : Calls Try.prog 20 #[.int .i32 163] w fun e w' => STold w [[71, 66, 80], [76]] e w' := by
  go_enter Try.func20, Try.ntmps20
  go_wp2
  go_ret
  exact told_lit w _ [[71, 66, 80], [76]] _ rfl rfl (by decide)
set_option maxRecDepth 100000 in
set_option maxHeartbeats 1000000 in
theorem low_165 (w : World) : Calls Try.prog 20 #[.int .i32 165] w fun e w' => STold w [[74, 80, 89], [89]] e w' := by
  go_enter Try.func20, Try.ntmps20
  go_wp2
  go_ret
  exact told_lit w _ [[74, 80, 89], [89]] _ rfl rfl (by decide)
set_option maxRecDepth 100000 in
set_option maxHeartbeats 1000000 in
theorem low_166 (w : World) : Calls Try.prog 20 #[.int .i32 166] w fun e w' => STold w [[33]] e w' := by
  go_enter Try.func20, Try.ntmps20
  go_wp2
  go_ret
  exact told_lit w _ [[33]] _ rfl rfl (by decide)
set_option maxRecDepth 100000 in
set_option maxHeartbeats 1000000 in
theorem low_168 (w : World) : Calls Try.prog 20 #[.int .i32 168] w fun e w' => STold w [[34]] e w' := by
  go_enter Try.func20, Try.ntmps20
  go_wp2
  go_ret
  exact told_lit w _ [[34]] _ rfl rfl (by decide)
set_option maxRecDepth 100000 in
set_option maxHeartbeats 1000000 in
theorem low_169 (w : World) : Calls Try.prog 20 #[.int .i32 169] w fun e w' => STold w [[40, 67, 41], [67]] e w' := by
  go_enter Try.func20, Try.ntmps20
  go_wp2
  go_ret
  exact told_lit w _ [[40, 67, 41], [67]] _ rfl rfl (by decide)
set_option maxRecDepth 100000 in
set_option maxHeartbeats 1000000 in
theorem low_171 (w : World) : Calls Try.prog 20 #[.int .i32 171] w fun e w' => STold w [[60, 60], [60], [34]] e w' := by
  go_enter Try.func20, Try.ntmps20
  go_wp2
  go_ret
  exact told_lit w _ [[60, 60], [60], [34]] _ rfl rfl (by decide)
set_option maxRecDepth 100000 in
set_option maxHeartbeats 1000000 in
theorem low_173 (w : World) : Calls Try.prog 20 #[.int .i32 173] w fun e w' => STold w [[45]] e w' := by
  go_enter Try.func20, Try.ntmps20
  go_wp2
  go_ret
  exact told_lit w _ [[45]] _ rfl rfl (by decide)
set_option maxRecDepth 100000 in
set_option maxHeartbeats 1000000 in
theorem low_174 (w : World) : Calls Try.prog 20 #[.int .i32 174] w fun e w' => STold w [[40, 82, 41], [82]] e w' := by
  go_enter Try.func20, Try.ntmps20
  go_wp2
  go_ret
  exact told_lit w _ [[40, 82, 41], [82]] _ rfl rfl (by decide)
set_option maxRecDepth 100000 in
set_option maxHeartbeats 1000000 in
theorem low_177 (w : World) : Calls Try.prog 20 #[.int .i32 177] w fun e w' => STold w [[43, 47, 45], [43]] e w' := by
  go_enter Try.func20, Try.ntmps20
  go_wp2
  go_ret
  exact told_lit w _ [[43, 47, 45], [43]] _ rfl rfl (by decide)
set_option maxRecDepth 100000 in
set_option maxHeartbeats 1000000 in
theorem low_180 (w : World) : Calls Try.prog 20 #[.int .i32 180] w fun e w' => STold w [[39]] e w' := by
  go_enter Try.func20, Try.ntmps20
  go_wp2
  go_ret
  exact told_lit w _ [[39]] _ rfl rfl (by decide)
set_option maxRecDepth 100000 in
set_option maxHeartbeats 1000000 in
theorem low_181 (w : World) : Calls Try.prog 20 #[.int .i32 181] w fun e w' => STold w [[117]] e w' := by
  go_enter Try.func20, Try.ntmps20
  go_wp2
  go_ret
  exact told_lit w _ [[117]] _ rfl rfl (by decide)
set_option maxRecDepth 100000 in
set_option maxHeartbeats 1000000 in
theorem low_183 (w : World) : Calls Try.prog 20 #[.int .i32 183] w fun e w' => STold w [[46]] e w' := by
  go_enter Try.func20, Try.ntmps20
  go_wp2
  go_ret
  exact told_lit w _ [[46]] _ rfl rfl (by decide)
set_option maxRecDepth 100000 in
set_option maxHeartbeats 1000000 in
theorem low_184 (w : World) : Calls Try.prog 20 #[.int .i32 184] w fun e w' => STold w [[44]] e w' := by
  go_enter Try.func20, Try.ntmps20
  go_wp2
  go_ret
  exact told_lit w _ [[44]] _ rfl rfl (by decide)
set_option maxRecDepth 100000 in
set_option maxHeartbeats 1000000 in
theorem low_187 (w : World) : Calls Try.prog 20 #[.int .i32 187] w fun e w' => STold w [[62, 62], [62], [34]] e w' := by
  go_enter Try.func20, Try.ntmps20
  go_wp2
  go_ret
  exact told_lit w _ [[62, 62], [62], [34]] _ rfl rfl (by decide)
set_option maxRecDepth 100000 in
set_option maxHeartbeats 1000000 in
theorem low_188 (w : World) : Calls Try.prog 20 #[.int .i32 188] w fun e w' => STold w [[49, 47, 52]] e w' := by
  go_enter Try.func20, Try.ntmps20
  go_wp2
  go_ret
  exact told_lit w _ [[49, 47, 52]] _ rfl rfl (by decide)
set_option maxRecDepth 100000 in
set_option maxHeartbeats 1000000 in
theorem low_189 (w : World) : Calls Try.prog 20 #[.int .i32 189] w fun e w' => STold w [[49, 47, 50]] e w' := by
  go_enter Try.func20, Try.ntmps20
  go_wp2
  go_ret
  exact told_lit w _ [[49, 47, 50]] _ rfl rfl (by decide)
set_option maxRecDepth 100000 in
set_option maxHeartbeats 1000000 in
theorem low_190 (w : World) : Calls Try.prog 20 #[.int .i32 190] w fun e w' => STold w [[51, 47, 52]] e w' := by
  go_enter Try.func20, Try.ntmps20
  go_wp2
  go_ret
  exact told_lit w _ [[51, 47, 52]] _ rfl rfl (by decide)
set_option maxRecDepth 100000 in
set_option maxHeartbeats 1000000 in
theorem low_191 (w : World) : Calls Try.prog 20 #[.int .i32 191] w fun e w' => STold w [[63]] e w' := by
  go_enter Try.func20, Try.ntmps20
  go_wp2
  go_ret
  exact told_lit w _ [[63]] _ rfl rfl (by decide)
set_option maxRecDepth 100000 in
set_option maxHeartbeats 1000000 in
theorem low_no (u : Int) (h : ∀ p ∈ lowT, ¬ u = (p.1 : Int)) (w : World) : Calls Try.prog 20 #[.int .i32 u] w fun e w' => STold w [] e w' := by
  have b160 : (u == 160) = false := by simpa using h ((160, [[32]]) : Nat × List (List UInt8)) (by unfold lowT; simp)
  have b161 : (u == 161) = false := by simpa using h ((161, [[33]]) : Nat × List (List UInt8)) (by unfold lowT; simp)
  have b162 : (u == 162) = false := by simpa using h ((162, [[99]]) : Nat × List (List UInt8)) (by unfold lowT; simp)
  have b163 : (u == 163) = false := by simpa using h ((163, [[71, 66, 80], [76]]) : Nat × List (List UInt8)) (by unfold lowT; simp)
  have b165 : (u == 165) = false := by simpa using h ((165, [[74, 80, 89], [89]]) : Nat × List (List UInt8)) (by unfold lowT; simp)
  have b166 : (u == 166) = false := by simpa using h ((166, [[33]]) : Nat × List (List UInt8)) (by unfold lowT; simp)
  have b168 : (u == 168) = false := by simpa using h ((168, [[34]]) : Nat × List (List UInt8)) (by unfold lowT; simp)
  have b169 : (u == 169) = false := by simpa using h ((169, [[40, 67, 41], [67]]) : Nat × List (List UInt8)) (by unfold lowT; simp)
  have b171 : (u == 171) = false := by simpa using h ((171, [[60, 60], [60], [34]]) : Nat × List (List UInt8)) (by unfold lowT; simp)
  have b173 : (u == 173) = false := by simpa using h ((173, [[45]]) : Nat × List (List UInt8)) (by unfold lowT; simp)
  have b174 : (u == 174) = false := by simpa using h ((174, [[40, 82, 41], [82]]) : Nat × List (List UInt8)) (by unfold lowT; simp)
  have b177 : (u == 177) = false := by simpa using h ((177, [[43, 47, 45], [43]]) : Nat × List (List UInt8)) (by unfold lowT; simp)
  have b180 : (u == 180) = false := by simpa using h ((180, [[39]]) : Nat × List (List UInt8)) (by unfold lowT; simp)
  have b181 : (u == 181) = false := by simpa using h ((181, [[117]]) : Nat × List (List UInt8)) (by unfold lowT; simp)
  have b183 : (u == 183) = false := by simpa using h ((183, [[46]]) : Nat × List (List UInt8)) (by unfold lowT; simp)
  have b184 : (u == 184) = false := by simpa using h ((184, [[44]]) : Nat × List (List UInt8)) (by unfold lowT; simp)
  have b187 : (u == 187) = false := by simpa using h ((187, [[62, 62], [62], [34]]) : Nat × List (List UInt8)) (by unfold lowT; simp)
  have b188 : (u == 188) = false := by simpa using h ((188, [[49, 47, 52]]) : Nat × List (List UInt8)) (by unfold lowT; simp)
  have b189 : (u == 189) = false := by simpa using h ((189, [[49, 47, 50]]) : Nat × List (List UInt8)) (by unfold lowT; simp)
  have b190 : (u == 190) = false := by simpa using h ((190, [[51, 47, 52]]) : Nat × List (List UInt8)) (by unfold lowT; simp)
  have b191 : (u == 191) = false := by simpa using h ((191, [[63]]) : Nat × List (List UInt8)) (by unfold lowT; simp)
  clear h
  go_enter Try.func20, Try.ntmps20
  go_wp2
  go_ret
  exact told_nil w
theorem low_any (u : Int) (w : World) : Calls Try.prog 20 #[.int .i32 u] w fun e w' => STold w (look lowT u) e w' := by
  by_cases h160 : u = 160
  · subst h160
    exact low_160 w
  by_cases h161 : u = 161
  · subst h161
    exact low_161 w
  by_cases h162 : u = 162
  · subst h162
    exact low_162 w
  by_cases h163 : u = 163
  · subst h163
    exact low_163 w
  by_cases h165 : u = 165
  · subst h165
    exact low_165 w
  by_cases h166 : u = 166
  · subst h166
    exact low_166 w
  by_cases h168 : u = 168
  · subst h168
    exact low_168 w
  by_cases h169 : u = 169
  · subst h169
    exact low_169 w
  by_cases h171 : u = 171
  · subst h171
    exact low_171 w
  by_cases h173 : u = 173
  · subst h173
    exact low_173 w
  by_cases h174 : u = 174
  · subst h174
    exact low_174 w
  by_cases h177 : u = 177
  · subst h177
    exact low_177 w
  by_cases h180 : u = 180
  · subst h180
    exact low_180 w
  by_cases h181 : u = 181
  · subst h181
    exact low_181 w
  by_cases h183 : u = 183
  · subst h183
    exact low_183 w
  by_cases h184 : u = 184
  · subst h184
    exact low_184 w
  by_cases h187 : u = 187
  · subst h187
    exact low_187 w
  by_cases h188 : u = 188
  · subst h188
    exact low_188 w
  by_cases h189 : u = 189
  · subst h189
    exact low_189 w
  by_cases h190 : u = 190
  · subst h190
    exact low_190 w
  by_cases h191 : u = 191
  · subst h191
    exact low_191 w
  have h : ∀ p ∈ lowT, ¬ u = (p.1 : Int) := by
    intro p hp e
    unfold lowT at hp
    simp only [List.mem_cons, List.not_mem_nil, or_false] at hp
    rcases hp with rfl | rfl | rfl | rfl | rfl | rfl | rfl | rfl | rfl | rfl | rfl | rfl | rfl | rfl | rfl | rfl | rfl | rfl | rfl | rfl | rfl
    · exact h160 e
    · exact h161 e
    · exact h162 e
    · exact h163 e
    · exact h165 e
    · exact h166 e
    · exact h168 e
    · exact h169 e
    · exact h171 e
    · exact h173 e
    · exact h174 e
    · exact h177 e
    · exact h180 e
    · exact h181 e
    · exact h183 e
    · exact h184 e
    · exact h187 e
    · exact h188 e
    · exact h189 e
    · exact h190 e
    · exact h191 e
  rw [look_none (fun p hp e => h p hp e.symm)]
  exact low_no u h w
set_option maxRecDepth 100000 in
set_option maxHeartbeats 1000000 in
theorem high_196 (w : World) : Calls Try.prog 21 #[.int .i32 196] w fun e w' => STold w [[65, 101], [65]] e w' := by
  go_enter Try.func21, Try.ntmps21
  go_wp2
  go_ret
  exact told_lit w _ [[65, 101], [65]] _ rfl rfl (by decide)
set_option maxRecDepth 100000 in
set_option maxHeartbeats 1000000 in
theorem high_197 (w : World) : Calls Try.prog 21 #[.int .i32 197] w fun e w' => STold w [[65, 97], [65]] e w' := by
  go_enter Try.func21, Try.ntmps21
  go_wp2
  go_ret
  exact told_lit w _ [[65, 97], [65]] _ rfl rfl (by decide)
set_option maxRecDepth 100000 in
set_option maxHeartbeats 1000000 in
theorem high_198 (w : World) : Calls Try.prog 21 #[.int .i32 198] w fun e w' => STold w [[65, 69]] e w' := by
  go_enter Try.func21, Try.ntmps21
  go_wp2
  go_ret
  exact told_lit w _ [[65, 69]] _ rfl rfl (by decide)
set_option maxRecDepth 100000 in
set_option maxHeartbeats 1000000 in
theorem high_214 (w : World) : Calls Try.prog 21 #[.int .i32 214] w fun e w' => STold w [[79, 101], [79]] e w' := by
  go_enter Try.func21, Try.ntmps21
  go_wp2
  go_ret
  exact told_lit w _ [[79, 101], [79]] _ rfl rfl (by decide)
set_option maxRecDepth 100000 in
set_option maxHeartbeats 1000000 in
theorem high_220 (w : World) : Calls Try.prog 21 #[.int .i32 220] w fun e w' => STold w [[85, 101], [85]] e w' := by
  go_enter Try.func21, Try.ntmps21
  go_wp2
  go_ret
  exact told_lit w _ [[85, 101], [85]] _ rfl rfl (by decide)
set_option maxRecDepth 100000 in
set_option maxHeartbeats 1000000 in
theorem high_222 (w : World) : Calls Try.prog 21 #[.int .i32 222] w fun e w' => STold w [[84, 104]] e w' := by
  go_enter Try.func21, Try.ntmps21
  go_wp2
  go_ret
  exact told_lit w _ [[84, 104]] _ rfl rfl (by decide)
set_option maxRecDepth 100000 in
set_option maxHeartbeats 1000000 in
theorem high_223 (w : World) : Calls Try.prog 21 #[.int .i32 223] w fun e w' => STold w [[115, 115]] e w' := by
  go_enter Try.func21, Try.ntmps21
  go_wp2
  go_ret
  exact told_lit w _ [[115, 115]] _ rfl rfl (by decide)
set_option maxRecDepth 100000 in
set_option maxHeartbeats 1000000 in
theorem high_228 (w : World) : Calls Try.prog 21 #[.int .i32 228] w fun e w' => STold w [[97, 101], [97]] e w' := by
  go_enter Try.func21, Try.ntmps21
  go_wp2
  go_ret
  exact told_lit w _ [[97, 101], [97]] _ rfl rfl (by decide)
set_option maxRecDepth 100000 in
set_option maxHeartbeats 1000000 in
theorem high_229 (w : World) : Calls Try.prog 21 #[.int .i32 229] w fun e w' => STold w [[97, 97], [97]] e w' := by
  go_enter Try.func21, Try.ntmps21
  go_wp2
  go_ret
  exact told_lit w _ [[97, 97], [97]] _ rfl rfl (by decide)
set_option maxRecDepth 100000 in
set_option maxHeartbeats 1000000 in
theorem high_230 (w : World) : Calls Try.prog 21 #[.int .i32 230] w fun e w' => STold w [[97, 101]] e w' := by
  go_enter Try.func21, Try.ntmps21
  go_wp2
  go_ret
  exact told_lit w _ [[97, 101]] _ rfl rfl (by decide)
set_option maxRecDepth 100000 in
set_option maxHeartbeats 1000000 in
theorem high_246 (w : World) : Calls Try.prog 21 #[.int .i32 246] w fun e w' => STold w [[111, 101], [111]] e w' := by
  go_enter Try.func21, Try.ntmps21
  go_wp2
  go_ret
  exact told_lit w _ [[111, 101], [111]] _ rfl rfl (by decide)
set_option maxRecDepth 100000 in
set_option maxHeartbeats 1000000 in
theorem high_252 (w : World) : Calls Try.prog 21 #[.int .i32 252] w fun e w' => STold w [[117, 101], [117]] e w' := by
  go_enter Try.func21, Try.ntmps21
  go_wp2
  go_ret
  exact told_lit w _ [[117, 101], [117]] _ rfl rfl (by decide)
set_option maxRecDepth 100000 in
set_option maxHeartbeats 1000000 in
theorem high_254 (w : World) : Calls Try.prog 21 #[.int .i32 254] w fun e w' => STold w [[116, 104]] e w' := by
  go_enter Try.func21, Try.ntmps21
  go_wp2
  go_ret
  exact told_lit w _ [[116, 104]] _ rfl rfl (by decide)
set_option maxRecDepth 100000 in
set_option maxHeartbeats 1000000 in
theorem high_272 (w : World) : Calls Try.prog 21 #[.int .i32 272] w fun e w' => STold w [[68]] e w' := by
  go_enter Try.func21, Try.ntmps21
  go_wp2
  go_ret
  exact told_lit w _ [[68]] _ rfl rfl (by decide)
set_option maxRecDepth 100000 in
set_option maxHeartbeats 1000000 in
theorem high_273 (w : World) : Calls Try.prog 21 #[.int .i32 273] w fun e w' => STold w [[100]] e w' := by
  go_enter Try.func21, Try.ntmps21
  go_wp2
  go_ret
  exact told_lit w _ [[100]] _ rfl rfl (by decide)
set_option maxRecDepth 100000 in
set_option maxHeartbeats 1000000 in
theorem high_305 (w : World) : Calls Try.prog 21 #[.int .i32 305] w fun e w' => STold w [[105]] e w' := by
  go_enter Try.func21, Try.ntmps21
  go_wp2
  go_ret
  exact told_lit w _ [[105]] _ rfl rfl (by decide)
set_option maxRecDepth 100000 in
set_option maxHeartbeats 1000000 in
theorem high_321 (w : World) : Calls Try.prog 21 #[.int .i32 321] w fun e w' => STold w [[76]] e w' := by
  go_enter Try.func21, Try.ntmps21
  go_wp2
  go_ret
  exact told_lit w _ [[76]] _ rfl rfl (by decide)
set_option maxRecDepth 100000 in
set_option maxHeartbeats 1000000 in
theorem high_322 (w : World) : Calls Try.prog 21 #[.int .i32 322] w fun e w' => STold w [[108]] e w' := by
  go_enter Try.func21, Try.ntmps21
  go_wp2
  go_ret
  exact told_lit w _ [[108]] _ rfl rfl (by decide)
set_option maxRecDepth 100000 in
set_option maxHeartbeats 1000000 in
theorem high_338 (w : World) : Calls Try.prog 21 #[.int .i32 338] w fun e w' => STold w [[79, 69]] e w' := by
  go_enter Try.func21, Try.ntmps21
  go_wp2
  go_ret
  exact told_lit w _ [[79, 69]] _ rfl rfl (by decide)
set_option maxRecDepth 100000 in
set_option maxHeartbeats 1000000 in
theorem high_339 (w : World) : Calls Try.prog 21 #[.int .i32 339] w fun e w' => STold w [[111, 101]] e w' := by
  go_enter Try.func21, Try.ntmps21
  go_wp2
  go_ret
  exact told_lit w _ [[111, 101]] _ rfl rfl (by decide)
set_option maxRecDepth 100000 in
set_option maxHeartbeats 1000000 in
theorem high_402 (w : World) : Calls Try.prog 21 #[.int .i32 402] w fun e w' => STold w [[102]] e w' := by
  go_enter Try.func21, Try.ntmps21
  go_wp2
  go_ret
  exact told_lit w _ [[102]] _ rfl rfl (by decide)
set_option maxRecDepth 100000 in
set_option maxHeartbeats 1000000 in
theorem high_no (u : Int) (h : ∀ p ∈ higT, ¬ u = (p.1 : Int)) (w : World) : Calls Try.prog 21 #[.int .i32 u] w fun e w' => STold w [] e w' := by
  have b196 : (u == 196) = false := by simpa using h ((196, [[65, 101], [65]]) : Nat × List (List UInt8)) (by unfold higT; simp)
  have b197 : (u == 197) = false := by simpa using h ((197, [[65, 97], [65]]) : Nat × List (List UInt8)) (by unfold higT; simp)
  have b198 : (u == 198) = false := by simpa using h ((198, [[65, 69]]) : Nat × List (List UInt8)) (by unfold higT; simp)
  have b214 : (u == 214) = false := by simpa using h ((214, [[79, 101], [79]]) : Nat × List (List UInt8)) (by unfold higT; simp)
  have b220 : (u == 220) = false := by simpa using h ((220, [[85, 101], [85]]) : Nat × List (List UInt8)) (by unfold higT; simp)
  have b222 : (u == 222) = false := by simpa using h ((222, [[84, 104]]) : Nat × List (List UInt8)) (by unfold higT; simp)
  have b223 : (u == 223) = false := by simpa using h ((223, [[115, 115]]) : Nat × List (List UInt8)) (by unfold higT; simp)
  have b228 : (u == 228) = false := by simpa using h ((228, [[97, 101], [97]]) : Nat × List (List UInt8)) (by unfold higT; simp)
  have b229 : (u == 229) = false := by simpa using h ((229, [[97, 97], [97]]) : Nat × List (List UInt8)) (by unfold higT; simp)
  have b230 : (u == 230) = false := by simpa using h ((230, [[97, 101]]) : Nat × List (List UInt8)) (by unfold higT; simp)
  have b246 : (u == 246) = false := by simpa using h ((246, [[111, 101], [111]]) : Nat × List (List UInt8)) (by unfold higT; simp)
  have b252 : (u == 252) = false := by simpa using h ((252, [[117, 101], [117]]) : Nat × List (List UInt8)) (by unfold higT; simp)
  have b254 : (u == 254) = false := by simpa using h ((254, [[116, 104]]) : Nat × List (List UInt8)) (by unfold higT; simp)
  have b272 : (u == 272) = false := by simpa using h ((272, [[68]]) : Nat × List (List UInt8)) (by unfold higT; simp)
  have b273 : (u == 273) = false := by simpa using h ((273, [[100]]) : Nat × List (List UInt8)) (by unfold higT; simp)
  have b305 : (u == 305) = false := by simpa using h ((305, [[105]]) : Nat × List (List UInt8)) (by unfold higT; simp)
  have b321 : (u == 321) = false := by simpa using h ((321, [[76]]) : Nat × List (List UInt8)) (by unfold higT; simp)
  have b322 : (u == 322) = false := by simpa using h ((322, [[108]]) : Nat × List (List UInt8)) (by unfold higT; simp)
  have b338 : (u == 338) = false := by simpa using h ((338, [[79, 69]]) : Nat × List (List UInt8)) (by unfold higT; simp)
  have b339 : (u == 339) = false := by simpa using h ((339, [[111, 101]]) : Nat × List (List UInt8)) (by unfold higT; simp)
  have b402 : (u == 402) = false := by simpa using h ((402, [[102]]) : Nat × List (List UInt8)) (by unfold higT; simp)
  clear h
  go_enter Try.func21, Try.ntmps21
  go_wp2
  go_ret
  exact told_nil w
theorem high_any (u : Int) (w : World) : Calls Try.prog 21 #[.int .i32 u] w fun e w' => STold w (look higT u) e w' := by
  by_cases h196 : u = 196
  · subst h196
    exact high_196 w
  by_cases h197 : u = 197
  · subst h197
    exact high_197 w
  by_cases h198 : u = 198
  · subst h198
    exact high_198 w
  by_cases h214 : u = 214
  · subst h214
    exact high_214 w
  by_cases h220 : u = 220
  · subst h220
    exact high_220 w
  by_cases h222 : u = 222
  · subst h222
    exact high_222 w
  by_cases h223 : u = 223
  · subst h223
    exact high_223 w
  by_cases h228 : u = 228
  · subst h228
    exact high_228 w
  by_cases h229 : u = 229
  · subst h229
    exact high_229 w
  by_cases h230 : u = 230
  · subst h230
    exact high_230 w
  by_cases h246 : u = 246
  · subst h246
    exact high_246 w
  by_cases h252 : u = 252
  · subst h252
    exact high_252 w
  by_cases h254 : u = 254
  · subst h254
    exact high_254 w
  by_cases h272 : u = 272
  · subst h272
    exact high_272 w
  by_cases h273 : u = 273
  · subst h273
    exact high_273 w
  by_cases h305 : u = 305
  · subst h305
    exact high_305 w
  by_cases h321 : u = 321
  · subst h321
    exact high_321 w
  by_cases h322 : u = 322
  · subst h322
    exact high_322 w
  by_cases h338 : u = 338
  · subst h338
    exact high_338 w
  by_cases h339 : u = 339
  · subst h339
    exact high_339 w
  by_cases h402 : u = 402
  · subst h402
    exact high_402 w
  have h : ∀ p ∈ higT, ¬ u = (p.1 : Int) := by
    intro p hp e
    unfold higT at hp
    simp only [List.mem_cons, List.not_mem_nil, or_false] at hp
    rcases hp with rfl | rfl | rfl | rfl | rfl | rfl | rfl | rfl | rfl | rfl | rfl | rfl | rfl | rfl | rfl | rfl | rfl | rfl | rfl | rfl | rfl
    · exact h196 e
    · exact h197 e
    · exact h198 e
    · exact h214 e
    · exact h220 e
    · exact h222 e
    · exact h223 e
    · exact h228 e
    · exact h229 e
    · exact h230 e
    · exact h246 e
    · exact h252 e
    · exact h254 e
    · exact h272 e
    · exact h273 e
    · exact h305 e
    · exact h321 e
    · exact h322 e
    · exact h338 e
    · exact h339 e
    · exact h402 e
  rw [look_none (fun p hp e => h p hp e.symm)]
  exact high_no u h w
set_option maxRecDepth 100000 in
set_option maxHeartbeats 1000000 in
theorem marks_8211 (w : World) : Calls Try.prog 22 #[.int .i32 8211] w fun e w' => STold w [[45]] e w' := by
  go_enter Try.func22, Try.ntmps22
  go_wp2
  go_ret
  exact told_lit w _ [[45]] _ rfl rfl (by decide)
set_option maxRecDepth 100000 in
set_option maxHeartbeats 1000000 in
theorem marks_8212 (w : World) : Calls Try.prog 22 #[.int .i32 8212] w fun e w' => STold w [[45, 45], [45]] e w' := by
  go_enter Try.func22, Try.ntmps22
  go_wp2
  go_ret
  exact told_lit w _ [[45, 45], [45]] _ rfl rfl (by decide)
set_option maxRecDepth 100000 in
set_option maxHeartbeats 1000000 in
theorem marks_8213 (w : World) : Calls Try.prog 22 #[.int .i32 8213] w fun e w' => STold w [[45, 45], [45]] e w' := by
  go_enter Try.func22, Try.ntmps22
  go_wp2
  go_ret
  exact told_lit w _ [[45, 45], [45]] _ rfl rfl (by decide)
set_option maxRecDepth 100000 in
set_option maxHeartbeats 1000000 in
theorem marks_8216 (w : World) : Calls Try.prog 22 #[.int .i32 8216] w fun e w' => STold w [[96], [39]] e w' := by
  go_enter Try.func22, Try.ntmps22
  go_wp2
  go_ret
  exact told_lit w _ [[96], [39]] _ rfl rfl (by decide)
set_option maxRecDepth 100000 in
set_option maxHeartbeats 1000000 in
theorem marks_8217 (w : World) : Calls Try.prog 22 #[.int .i32 8217] w fun e w' => STold w [[194, 180], [39]] e w' := by
  go_enter Try.func22, Try.ntmps22
  go_wp2
  go_ret
  exact told_lit w _ [[194, 180], [39]] _ rfl rfl (by decide)
set_option maxRecDepth 100000 in
set_option maxHeartbeats 1000000 in
theorem marks_8218 (w : World) : Calls Try.prog 22 #[.int .i32 8218] w fun e w' => STold w [[44]] e w' := by
  go_enter Try.func22, Try.ntmps22
  go_wp2
  go_ret
  exact told_lit w _ [[44]] _ rfl rfl (by decide)
set_option maxRecDepth 100000 in
set_option maxHeartbeats 1000000 in
theorem marks_8220 (w : World) : Calls Try.prog 22 #[.int .i32 8220] w fun e w' => STold w [[194, 171], [34]] e w' := by
  go_enter Try.func22, Try.ntmps22
  go_wp2
  go_ret
  exact told_lit w _ [[194, 171], [34]] _ rfl rfl (by decide)
set_option maxRecDepth 100000 in
set_option maxHeartbeats 1000000 in
theorem marks_8221 (w : World) : Calls Try.prog 22 #[.int .i32 8221] w fun e w' => STold w [[194, 187], [34]] e w' := by
  go_enter Try.func22, Try.ntmps22
  go_wp2
  go_ret
  exact told_lit w _ [[194, 187], [34]] _ rfl rfl (by decide)
set_option maxRecDepth 100000 in
set_option maxHeartbeats 1000000 in
theorem marks_8222 (w : World) : Calls Try.prog 22 #[.int .i32 8222] w fun e w' => STold w [[44, 44], [34]] e w' := by
  go_enter Try.func22, Try.ntmps22
  go_wp2
  go_ret
  exact told_lit w _ [[44, 44], [34]] _ rfl rfl (by decide)
set_option maxRecDepth 100000 in
set_option maxHeartbeats 1000000 in
theorem marks_8224 (w : World) : Calls Try.prog 22 #[.int .i32 8224] w fun e w' => STold w [[43]] e w' := by
  go_enter Try.func22, Try.ntmps22
  go_wp2
  go_ret
  exact told_lit w _ [[43]] _ rfl rfl (by decide)
set_option maxRecDepth 100000 in
set_option maxHeartbeats 1000000 in
theorem marks_8226 (w : World) : Calls Try.prog 22 #[.int .i32 8226] w fun e w' => STold w [[194, 183], [111], [42]] e w' := by
  go_enter Try.func22, Try.ntmps22
  go_wp2
  go_ret
  exact told_lit w _ [[194, 183], [111], [42]] _ rfl rfl (by decide)
set_option maxRecDepth 100000 in
set_option maxHeartbeats 1000000 in
theorem marks_8230 (w : World) : Calls Try.prog 22 #[.int .i32 8230] w fun e w' => STold w [[46, 46, 46], [46]] e w' := by
  go_enter Try.func22, Try.ntmps22
  go_wp2
  go_ret
  exact told_lit w _ [[46, 46, 46], [46]] _ rfl rfl (by decide)
set_option maxRecDepth 100000 in
set_option maxHeartbeats 1000000 in
theorem marks_8240 (w : World) : Calls Try.prog 22 #[.int .i32 8240] w fun e w' => STold w [[111, 47, 111, 111]] e w' := by
  go_enter Try.func22, Try.ntmps22
  go_wp2
  go_ret
  exact told_lit w _ [[111, 47, 111, 111]] _ rfl rfl (by decide)
set_option maxRecDepth 100000 in
set_option maxHeartbeats 1000000 in
theorem marks_8249 (w : World) : Calls Try.prog 22 #[.int .i32 8249] w fun e w' => STold w [[60]] e w' := by
  go_enter Try.func22, Try.ntmps22
  go_wp2
  go_ret
  exact told_lit w _ [[60]] _ rfl rfl (by decide)
set_option maxRecDepth 100000 in
set_option maxHeartbeats 1000000 in
theorem marks_8250 (w : World) : Calls Try.prog 22 #[.int .i32 8250] w fun e w' => STold w [[62]] e w' := by
  go_enter Try.func22, Try.ntmps22
  go_wp2
  go_ret
  exact told_lit w _ [[62]] _ rfl rfl (by decide)
set_option maxRecDepth 100000 in
set_option maxHeartbeats 1000000 in
theorem marks_8361 (w : World) : Calls Try.prog 22 #[.int .i32 8361] w fun e w' => STold w [[87]] e w' := by
  go_enter Try.func22, Try.ntmps22
  go_wp2
  go_ret
  exact told_lit w _ [[87]] _ rfl rfl (by decide)
set_option maxRecDepth 100000 in
set_option maxHeartbeats 1000000 in
theorem marks_8364 (w : World) : Calls Try.prog 22 #[.int .i32 8364] w fun e w' => STold w [[69, 85, 82], [69]] e w' := by
  go_enter Try.func22, Try.ntmps22
  go_wp2
  go_ret
  exact told_lit w _ [[69, 85, 82], [69]] _ rfl rfl (by decide)
set_option maxRecDepth 100000 in
set_option maxHeartbeats 1000000 in
theorem marks_8482 (w : World) : Calls Try.prog 22 #[.int .i32 8482] w fun e w' => STold w [[84, 77], [84]] e w' := by
  go_enter Try.func22, Try.ntmps22
  go_wp2
  go_ret
  exact told_lit w _ [[84, 77], [84]] _ rfl rfl (by decide)
set_option maxRecDepth 100000 in
set_option maxHeartbeats 1000000 in
theorem marks_8722 (w : World) : Calls Try.prog 22 #[.int .i32 8722] w fun e w' => STold w [[45]] e w' := by
  go_enter Try.func22, Try.ntmps22
  go_wp2
  go_ret
  exact told_lit w _ [[45]] _ rfl rfl (by decide)
set_option maxRecDepth 100000 in
set_option maxHeartbeats 1000000 in
theorem marks_8800 (w : World) : Calls Try.prog 22 #[.int .i32 8800] w fun e w' => STold w [[47, 61], [33, 61]] e w' := by
  go_enter Try.func22, Try.ntmps22
  go_wp2
  go_ret
  exact told_lit w _ [[47, 61], [33, 61]] _ rfl rfl (by decide)
set_option maxRecDepth 100000 in
set_option maxHeartbeats 1000000 in
theorem marks_8804 (w : World) : Calls Try.prog 22 #[.int .i32 8804] w fun e w' => STold w [[60, 61], [60]] e w' := by
  go_enter Try.func22, Try.ntmps22
  go_wp2
  go_ret
  exact told_lit w _ [[60, 61], [60]] _ rfl rfl (by decide)
set_option maxRecDepth 100000 in
set_option maxHeartbeats 1000000 in
theorem marks_8805 (w : World) : Calls Try.prog 22 #[.int .i32 8805] w fun e w' => STold w [[62, 61], [62]] e w' := by
  go_enter Try.func22, Try.ntmps22
  go_wp2
  go_ret
  exact told_lit w _ [[62, 61], [62]] _ rfl rfl (by decide)
set_option maxRecDepth 100000 in
set_option maxHeartbeats 1000000 in
theorem marks_12288 (w : World) : Calls Try.prog 22 #[.int .i32 12288] w fun e w' => STold w [[32, 32], [32]] e w' := by
  go_enter Try.func22, Try.ntmps22
  go_wp2
  go_ret
  exact told_lit w _ [[32, 32], [32]] _ rfl rfl (by decide)
set_option maxRecDepth 100000 in
set_option maxHeartbeats 1000000 in
theorem marks_64257 (w : World) : Calls Try.prog 22 #[.int .i32 64257] w fun e w' => STold w [[102, 105]] e w' := by
  go_enter Try.func22, Try.ntmps22
  go_wp2
  go_ret
  exact told_lit w _ [[102, 105]] _ rfl rfl (by decide)
set_option maxRecDepth 100000 in
set_option maxHeartbeats 1000000 in
theorem marks_64258 (w : World) : Calls Try.prog 22 #[.int .i32 64258] w fun e w' => STold w [[102, 108]] e w' := by
  go_enter Try.func22, Try.ntmps22
  go_wp2
  go_ret
  exact told_lit w _ [[102, 108]] _ rfl rfl (by decide)
set_option maxRecDepth 100000 in
set_option maxHeartbeats 1000000 in
theorem marks_no (u : Int) (h : ∀ p ∈ mrkT, ¬ u = (p.1 : Int)) (w : World) : Calls Try.prog 22 #[.int .i32 u] w fun e w' => STold w [] e w' := by
  have b8211 : (u == 8211) = false := by simpa using h ((8211, [[45]]) : Nat × List (List UInt8)) (by unfold mrkT; simp)
  have b8212 : (u == 8212) = false := by simpa using h ((8212, [[45, 45], [45]]) : Nat × List (List UInt8)) (by unfold mrkT; simp)
  have b8213 : (u == 8213) = false := by simpa using h ((8213, [[45, 45], [45]]) : Nat × List (List UInt8)) (by unfold mrkT; simp)
  have b8216 : (u == 8216) = false := by simpa using h ((8216, [[96], [39]]) : Nat × List (List UInt8)) (by unfold mrkT; simp)
  have b8217 : (u == 8217) = false := by simpa using h ((8217, [[194, 180], [39]]) : Nat × List (List UInt8)) (by unfold mrkT; simp)
  have b8218 : (u == 8218) = false := by simpa using h ((8218, [[44]]) : Nat × List (List UInt8)) (by unfold mrkT; simp)
  have b8220 : (u == 8220) = false := by simpa using h ((8220, [[194, 171], [34]]) : Nat × List (List UInt8)) (by unfold mrkT; simp)
  have b8221 : (u == 8221) = false := by simpa using h ((8221, [[194, 187], [34]]) : Nat × List (List UInt8)) (by unfold mrkT; simp)
  have b8222 : (u == 8222) = false := by simpa using h ((8222, [[44, 44], [34]]) : Nat × List (List UInt8)) (by unfold mrkT; simp)
  have b8224 : (u == 8224) = false := by simpa using h ((8224, [[43]]) : Nat × List (List UInt8)) (by unfold mrkT; simp)
  have b8226 : (u == 8226) = false := by simpa using h ((8226, [[194, 183], [111], [42]]) : Nat × List (List UInt8)) (by unfold mrkT; simp)
  have b8230 : (u == 8230) = false := by simpa using h ((8230, [[46, 46, 46], [46]]) : Nat × List (List UInt8)) (by unfold mrkT; simp)
  have b8240 : (u == 8240) = false := by simpa using h ((8240, [[111, 47, 111, 111]]) : Nat × List (List UInt8)) (by unfold mrkT; simp)
  have b8249 : (u == 8249) = false := by simpa using h ((8249, [[60]]) : Nat × List (List UInt8)) (by unfold mrkT; simp)
  have b8250 : (u == 8250) = false := by simpa using h ((8250, [[62]]) : Nat × List (List UInt8)) (by unfold mrkT; simp)
  have b8361 : (u == 8361) = false := by simpa using h ((8361, [[87]]) : Nat × List (List UInt8)) (by unfold mrkT; simp)
  have b8364 : (u == 8364) = false := by simpa using h ((8364, [[69, 85, 82], [69]]) : Nat × List (List UInt8)) (by unfold mrkT; simp)
  have b8482 : (u == 8482) = false := by simpa using h ((8482, [[84, 77], [84]]) : Nat × List (List UInt8)) (by unfold mrkT; simp)
  have b8722 : (u == 8722) = false := by simpa using h ((8722, [[45]]) : Nat × List (List UInt8)) (by unfold mrkT; simp)
  have b8800 : (u == 8800) = false := by simpa using h ((8800, [[47, 61], [33, 61]]) : Nat × List (List UInt8)) (by unfold mrkT; simp)
  have b8804 : (u == 8804) = false := by simpa using h ((8804, [[60, 61], [60]]) : Nat × List (List UInt8)) (by unfold mrkT; simp)
  have b8805 : (u == 8805) = false := by simpa using h ((8805, [[62, 61], [62]]) : Nat × List (List UInt8)) (by unfold mrkT; simp)
  have b12288 : (u == 12288) = false := by simpa using h ((12288, [[32, 32], [32]]) : Nat × List (List UInt8)) (by unfold mrkT; simp)
  have b64257 : (u == 64257) = false := by simpa using h ((64257, [[102, 105]]) : Nat × List (List UInt8)) (by unfold mrkT; simp)
  have b64258 : (u == 64258) = false := by simpa using h ((64258, [[102, 108]]) : Nat × List (List UInt8)) (by unfold mrkT; simp)
  clear h
  go_enter Try.func22, Try.ntmps22
  go_wp2
  go_ret
  exact told_nil w
theorem marks_any (u : Int) (w : World) : Calls Try.prog 22 #[.int .i32 u] w fun e w' => STold w (look mrkT u) e w' := by
  by_cases h8211 : u = 8211
  · subst h8211
    exact marks_8211 w
  by_cases h8212 : u = 8212
  · subst h8212
    exact marks_8212 w
  by_cases h8213 : u = 8213
  · subst h8213
    exact marks_8213 w
  by_cases h8216 : u = 8216
  · subst h8216
    exact marks_8216 w
  by_cases h8217 : u = 8217
  · subst h8217
    exact marks_8217 w
  by_cases h8218 : u = 8218
  · subst h8218
    exact marks_8218 w
  by_cases h8220 : u = 8220
  · subst h8220
    exact marks_8220 w
  by_cases h8221 : u = 8221
  · subst h8221
    exact marks_8221 w
  by_cases h8222 : u = 8222
  · subst h8222
    exact marks_8222 w
  by_cases h8224 : u = 8224
  · subst h8224
    exact marks_8224 w
  by_cases h8226 : u = 8226
  · subst h8226
    exact marks_8226 w
  by_cases h8230 : u = 8230
  · subst h8230
    exact marks_8230 w
  by_cases h8240 : u = 8240
  · subst h8240
    exact marks_8240 w
  by_cases h8249 : u = 8249
  · subst h8249
    exact marks_8249 w
  by_cases h8250 : u = 8250
  · subst h8250
    exact marks_8250 w
  by_cases h8361 : u = 8361
  · subst h8361
    exact marks_8361 w
  by_cases h8364 : u = 8364
  · subst h8364
    exact marks_8364 w
  by_cases h8482 : u = 8482
  · subst h8482
    exact marks_8482 w
  by_cases h8722 : u = 8722
  · subst h8722
    exact marks_8722 w
  by_cases h8800 : u = 8800
  · subst h8800
    exact marks_8800 w
  by_cases h8804 : u = 8804
  · subst h8804
    exact marks_8804 w
  by_cases h8805 : u = 8805
  · subst h8805
    exact marks_8805 w
  by_cases h12288 : u = 12288
  · subst h12288
    exact marks_12288 w
  by_cases h64257 : u = 64257
  · subst h64257
    exact marks_64257 w
  by_cases h64258 : u = 64258
  · subst h64258
    exact marks_64258 w
  have h : ∀ p ∈ mrkT, ¬ u = (p.1 : Int) := by
    intro p hp e
    unfold mrkT at hp
    simp only [List.mem_cons, List.not_mem_nil, or_false] at hp
    rcases hp with rfl | rfl | rfl | rfl | rfl | rfl | rfl | rfl | rfl | rfl | rfl | rfl | rfl | rfl | rfl | rfl | rfl | rfl | rfl | rfl | rfl | rfl | rfl | rfl | rfl
    · exact h8211 e
    · exact h8212 e
    · exact h8213 e
    · exact h8216 e
    · exact h8217 e
    · exact h8218 e
    · exact h8220 e
    · exact h8221 e
    · exact h8222 e
    · exact h8224 e
    · exact h8226 e
    · exact h8230 e
    · exact h8240 e
    · exact h8249 e
    · exact h8250 e
    · exact h8361 e
    · exact h8364 e
    · exact h8482 e
    · exact h8722 e
    · exact h8800 e
    · exact h8804 e
    · exact h8805 e
    · exact h12288 e
    · exact h64257 e
    · exact h64258 e
  rw [look_none (fun p hp e => h p hp e.symm)]
  exact marks_no u h w
end Go.Proofs.Ytjhdepbiakekaaa.C22
