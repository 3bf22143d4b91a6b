/- The program's table of the lengths, an array by value; the zero values of its arrays. -/
import Derived.Test.YtcicboolbeognalTiny
import Derived.Test.YtcicboolbeognalHimLit
import Derived.Test.YtcicboolbeognalHimTab
namespace Go.Proofs.Ytcicboolbeognal
open Go.RowKit
set_option linter.unusedVariables false

theorem Try.infoA : (Try.prog.info? 99).map (fun i => (i.zero, i.size)) = some (some (.agg (Array.replicate 257 (.int .i64 0))), 257) := by kernel_rfl
theorem Try.infoR : (Try.prog.info? 113).map (fun i => (i.zero, i.size)) = some (some (.agg (Array.replicate 93 (.int .i64 0))), 93) := by kernel_rfl

theorem zeroA (w : World) : (zeroValue 99).run Try.prog w = .ok (.agg (tabV (List.replicate 257 0))) w := by rw [tabV_rep]; exact (zero_of_info Try.infoA).1 w
theorem zeroR (w : World) : (zeroValue 113).run Try.prog w = .ok (.agg (tabV (List.replicate 93 0))) w := by rw [tabV_rep]; exact (zero_of_info Try.infoR).1 w
theorem sizeA {L : List Int} (h : L.length = 257) : (Try.prog.info? 99).map (·.size) = some (tabV L).size := by rw [tabV_size, h]; exact (zero_of_info Try.infoA).2
theorem sizeR {L : List Int} (h : L.length = 93) : (Try.prog.info? 113).map (·.size) = some (tabV L).size := by rw [tabV_size, h]; exact (zero_of_info Try.infoR).2

set_option maxRecDepth 100000 in
theorem lens_built : Try.prog.built 99 (litVals lensI) = some (tabV lensI) := by kernel_rfl

theorem implLens_any (w : World) : Calls Try.prog 70 #[] w fun e w' => e = .returned (.agg (tabV lensI)) ∧ w' = w.alloc (.cells (tabV lensI) 99) :=
  arr_calls Try.func70 99 3 257 lensI "l03_huff.go:145" "l03_huff.go:146" (tabV lensI) (tabV (List.replicate 257 0)) (by kernel_rfl) rfl rfl Try.underlying99 zeroA (by rw [tabV_size, tabV_size, lens_len, List.length_replicate]) (sizeA lens_len) (tabV_one _) lens_built w

theorem index_arr (A : Array Value) (j : Nat) (hj : j < 257) (v : Int) (h : A[j]? = some (.int .i64 v)) (w : World) : (Instr.index 99 (.agg A) (.int .i64 (j : Int))).run Try.prog w = .ok (.int .i64 v) w := by
  have h0 : (0 : Int) ≤ (j : Int) ∧ (j : Int) < ((257 : Nat) : Int) := by omega
  have hs : (sizeOf 3).run Try.prog w = .ok 1 w := by simp [go_sem]
  have ha : (isAgg 3).run Try.prog w = .ok false w := by simp [go_sem]
  simp only [Instr.index, asIntOf, Sem.run_bind, Sem.run_pure, Result.andThen_ok, run_underlying Try.underlying99, h0, and_self, if_true, hs, part, ha, Int.toNat_natCast, Nat.mul_one, h]
  rfl

end Go.Proofs.Ytcicboolbeognal
