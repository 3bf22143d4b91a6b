/- The program's table of the lengths, an array by value; the zero values of its arrays. The program's rows of the lengths. -/
import Derived.Test.YtghakpcagacdaalM07
import Derived.Test.YtghakpcagacdaalM08
import Derived.Test.YtghakpcagacdaalM09
namespace Go.Proofs.Ytghakpcagacdaal
open Go.RowKit
set_option linter.unusedVariables false

theorem Try.infoA : (Try.prog.info? 99).map (fun i => (i.zero, i.size)) = some (some (.agg (Array.replicate 257 (.int .i64 0))), 257) := by kernel_rfl
theorem Try.infoR : (Try.prog.info? 113).map (fun i => (i.zero, i.size)) = some (some (.agg (Array.replicate 93 (.int .i64 0))), 93) := by kernel_rfl

theorem zeroA (w : World) : (zeroValue 99).run Try.prog w = .ok (.agg (tabV (List.replicate 257 0))) w := by rw [tabV_rep]; exact (zero_of_info Try.infoA).1 w
theorem zeroR (w : World) : (zeroValue 113).run Try.prog w = .ok (.agg (tabV (List.replicate 93 0))) w := by rw [tabV_rep]; exact (zero_of_info Try.infoR).1 w
theorem sizeA {L : List Int} (h : L.length = 257) : (Try.prog.info? 99).map (·.size) = some (tabV L).size := by rw [tabV_size, h]; exact (zero_of_info Try.infoA).2
theorem sizeR {L : List Int} (h : L.length = 93) : (Try.prog.info? 113).map (·.size) = some (tabV L).size := by rw [tabV_size, h]; exact (zero_of_info Try.infoR).2

set_option maxRecDepth 100000 in
theorem lens_built : Try.prog.built 99 (litVals lensI) = some (tabV lensI) := by kernel_rfl

theorem implLens_any (w : World) : Calls Try.prog 70 #[] w fun e w' => e = .returned (.agg (tabV lensI)) ∧ w' = w.alloc (.cells (tabV lensI) 99) :=
  arr_calls Try.func70 99 3 257 lensI "l03_huff.go:145" "l03_huff.go:146" (tabV lensI) (tabV (List.replicate 257 0)) (by kernel_rfl) rfl rfl Try.underlying99 zeroA (by rw [tabV_size, tabV_size, lens_len, List.length_replicate]) (sizeA lens_len) (tabV_one _) lens_built w

theorem index_arr (A : Array Value) (j : Nat) (hj : j < 257) (v : Int) (h : A[j]? = some (.int .i64 v)) (w : World) : (Instr.index 99 (.agg A) (.int .i64 (j : Int))).run Try.prog w = .ok (.int .i64 v) w := by
  have h0 : (0 : Int) ≤ (j : Int) ∧ (j : Int) < ((257 : Nat) : Int) := by omega
  have hs : (sizeOf 3).run Try.prog w = .ok 1 w := by simp [go_sem]
  have ha : (isAgg 3).run Try.prog w = .ok false w := by simp [go_sem]
  simp only [Instr.index, asIntOf, Sem.run_bind, Sem.run_pure, Result.andThen_ok, run_underlying Try.underlying99, h0, and_self, if_true, hs, part, ha, Int.toNat_natCast, Nat.mul_one, h]
  rfl

end Go.Proofs.Ytghakpcagacdaal

namespace Go.Proofs.Ytghakpcagacdaal
open Go.RowKit
set_option linter.unusedVariables false

theorem len_nat (j : Nat) (hj : j < 257) : ∃ l : Nat, lensI.getD j 0 = (l : Int) ∧ 5 ≤ l ∧ l ≤ 30 := by
  have h := lens_range j hj
  exact ⟨(lensI.getD j 0).toNat, by omega, by omega, by omega⟩

set_option maxRecDepth 10000 in
set_option maxHeartbeats 1600000 in
theorem implRows_any (w : World) : Calls Try.prog 80 #[.agg (tabV lensI)] w fun e w' => e = .returned (.agg (tabV rowsI)) ∧ Below w.heap.size w w' := by
  obtain ⟨LV, hLV⟩ : ∃ LV, LV = tabV lensI := ⟨_, rfl⟩
  have HL : Hid (∀ k, k < 257 → LV[k]? = some (.int .i64 (lensI.getD k 0))) := by
    intro k hk
    rw [hLV, tabV_at lensI k (by rw [lens_len]; exact hk)]
  have hLs : (Try.prog.info? 99).map (·.size) = some LV.size := by rw [hLV]; exact sizeA lens_len
  obtain ⟨Z, hZ⟩ : ∃ Z : List Int, List.replicate 93 0 = Z := ⟨_, rfl⟩
  have hz : ∀ w, (zeroValue 113).run Try.prog w = .ok (.agg (tabV Z)) w := by rw [← hZ]; exact zeroR
  have HZ : Hid (List.replicate 93 0 = Z) := hZ
  have HZl : Hid (Z.length = 93) := by show _ = _; rw [← hZ, List.length_replicate]
  rw [← hLV]
  clear hLV hZ
  obtain ⟨w3, hw3⟩ : ∃ w3, w3 = ((w.alloc (.cells LV 99)).alloc (.cells (tabV Z) 113)).alloc (.cells (tabV Z) 113) := ⟨_, rfl⟩
  obtain ⟨hg3, ha1, ha2, hb3⟩ := three_new w w3 LV _ _ _ Z Z hw3
  have HA1 : Hid (Arr w3 (w.heap.size + 1) 113 Z) := ha1
  have HA2 : Hid (Arr w3 (w.heap.size + 2) 113 (rcnt (lensI.take 0) Z)) := ha2
  have HB3 : Hid (Below w.heap.size w w3) := hb3
  clear ha1 ha2 hb3
  rw [hw3] at hg3
  go_enter Try.func80, Try.ntmps80
  go_wp2_with (refine wpList_load_row rfl 99 _ rfl _ rfl 99 LV (0, 0) _ hg3 Try.underlying99 rfl hLs ?_; refine Hid.out ?_)
  refine hidden ?_
  rw [← hw3]
  clear hw3 hg3 hz
  obtain ⟨h, hh⟩ : ∃ h, w.heap.size = h := ⟨_, rfl⟩
  rw [hh] at HA1 HA2 HB3 ⊢
  go_wp2_with fail
  go_loopw [9] (fun i wr => ∃ j : Nat, j ≤ 257 ∧ i = .int .i64 j ∧ Hid (Arr wr (h + 2) 113 (rcnt (lensI.take j) Z)) ∧ Hid (Below (h + 2) w3 wr)) (fun i _ => 257 - (intOf i).toNat)
  case atStart => exact ⟨0, Nat.zero_le _, rfl, HA2, Below.refl _ _⟩
  case round =>
    clear HA2
    obtain ⟨j, hj, rfl, HA, HB⟩ := hrel
    by_cases hj7 : j < 257
    · have hji : (j : Int) ≤ 256 := by omega
      obtain ⟨l, el, hl5, hl30⟩ := len_nat j hj7
      have HN : Hid (rcnt (lensI.take (j + 1)) Z = rone (l : Int) (rcnt (lensI.take j) Z)) := by
        show _ = _
        rw [take_next j (by rw [lens_len]; exact hj7), rcnt_snoc, el]
      have hidx : ∀ w, (Instr.index 99 (.agg LV) (.int .i64 (j : Int))).run Try.prog w = .ok (.int .i64 (l : Int)) w := index_arr LV j hj7 l (by rw [HL.out j hj7, el])
      have HRl : Hid ((rcnt (lensI.take j) Z).length = 93) := by show _ = _; rw [rcnt_len, HZl.out]
      generalize rcnt (lensI.take j) Z = R at HA HN HRl
      have hcell := HA.out.cell (l * 3) (by rw [HRl.out]; omega)
      have hf := HA.out.frozen (l * 3)
      obtain ⟨r, hr⟩ : ∃ r, R.getD (l * 3) 0 = r := ⟨_, rfl⟩
      rw [hr] at hcell
      have HR : Hid (R.getD (l * 3) 0 = r) := hr
      clear hr el
      have hli : (l : Int) ≤ 30 := by omega
      go_wp2_with fail
      go_roundw
      case rel =>
        refine ⟨j + 1, by omega, by go_num, ?_, ?_⟩
        · show Arr _ _ _ _
          rw [HN.out, rone, Int.toNat_natCast, HR.out]
          exact HA.out.set _ _
        · exact HB.out.setCell (p := ⟨h + 2, l * 3, none⟩) (Nat.le_refl _) _
      case measure => simp [intOf]; omega
    · have hj5 : j = 257 := by omega
      subst hj5
      have HM0 : Hid (Arr wr (h + 2) 113 (rmade 0)) := by
        show Arr _ _ _ _
        have := HA.out
        rw [List.take_of_length_le (by rw [lens_len]; exact Nat.le_refl _), ← HZ.out] at this
        exact this
      clear HA
      obtain ⟨w4, hw4⟩ : ∃ w4, wr = w4 := ⟨_, rfl⟩
      rw [hw4] at HM0 HB ⊢
      clear hw4
      go_wp2_with fail
      go_loopw [6] (fun n wr => ∃ m : Nat, m ≤ 30 ∧ n = .int .i64 ((m : Int) + 1) ∧ Hid (Arr wr (h + 2) 113 (rmade m)) ∧ Hid (Below (h + 2) w3 wr)) (fun n _ => 31 - (intOf n).toNat)
      case atStart => exact ⟨0, Nat.zero_le _, rfl, HM0, HB⟩
      case round =>
        clear HM0 HB
        obtain ⟨m, hm, rfl, HA, HB⟩ := hrel
        by_cases hm30 : m < 30
        · have hmi : (m : Int) ≤ 29 := by omega
          have HRl : Hid ((rmade m).length = 93) := rmade_len m
          have HN : Hid (rmade (m + 1) = rstep m (rmade m)) := rfl
          generalize rmade m = R at HA HN HRl
          have c0 := HA.out.cell (m * 3) (by rw [HRl.out]; omega)
          have c1 := HA.out.cell (m * 3 + 1) (by rw [HRl.out]; omega)
          have c2 := HA.out.cell (m * 3 + 2) (by rw [HRl.out]; omega)
          obtain ⟨r0, hr0⟩ : ∃ r, R.getD (m * 3) 0 = r := ⟨_, rfl⟩
          obtain ⟨r1, hr1⟩ : ∃ r, R.getD (m * 3 + 1) 0 = r := ⟨_, rfl⟩
          obtain ⟨r2, hr2⟩ : ∃ r, R.getD (m * 3 + 2) 0 = r := ⟨_, rfl⟩
          have HR : Hid (R.getD (m * 3) 0 = r0 ∧ R.getD (m * 3 + 1) 0 = r1 ∧ R.getD (m * 3 + 2) 0 = r2) := ⟨hr0, hr1, hr2⟩
          rw [hr0] at c0
          rw [hr1] at c1
          rw [hr2] at c2
          clear hr0 hr1 hr2
          have hlt := HA.out.lt
          obtain ⟨W1, hW1⟩ : ∃ W1, wr.alloc (.cells #[.int .i64 r0, .int .i64 r1, .int .i64 r2] 112) = W1 := ⟨_, rfl⟩
          have HA1' : Hid (Arr W1 (h + 2) 113 R) := by show Arr _ _ _ _; rw [← hW1]; exact HA.out.alloc _
          have hx : W1.heap[wr.heap.size]? = some (.cells #[.int .i64 r0, .int .i64 r1, .int .i64 r2] 112 (0, 0)) := by rw [← hW1]; exact heap_alloc_last wr _
          have HB1 : Hid (Below (h + 2) w3 W1) := by show Below _ _ _; rw [← hW1]; exact HB.out.alloc (by omega) _
          have x0 : W1.cell? ⟨wr.heap.size, 0, none⟩ = some (.int .i64 r0) := by rw [cell_of_row _ _ _ _ _ _ hx]; rfl
          have x1 : W1.cell? ⟨wr.heap.size, 1, none⟩ = some (.int .i64 r1) := by rw [cell_of_row _ _ _ _ _ _ hx]; rfl
          have x2 : W1.cell? ⟨wr.heap.size, 2, none⟩ = some (.int .i64 r2) := by rw [cell_of_row _ _ _ _ _ _ hx]; rfl
          have y0 : ∀ k v, (W1.setCell ⟨h + 2, k, none⟩ v).cell? ⟨wr.heap.size, 0, none⟩ = some (.int .i64 r0) := fun k v => (World.cell?_setCell_other _ _ _ _ (fun e => by simp at e <;> omega)).trans x0
          have y2 : ∀ k v, (W1.setCell ⟨h + 2, k, none⟩ v).cell? ⟨wr.heap.size, 2, none⟩ = some (.int .i64 r2) := fun k v => (World.cell?_setCell_other _ _ _ _ (fun e => by simp at e <;> omega)).trans x2
          have f1 := HA1'.out.frozen ((m + 1) * 3 + 1)
          have d1 := HA1'.out.cell ((m + 1) * 3 + 1) (by rw [HRl.out]; omega)
          have f2 : ∀ v, (W1.setCell ⟨h + 2, (m + 1) * 3 + 1, none⟩ (.int .i64 v)).frozen? ⟨h + 2, (m + 1) * 3 + 2, none⟩ = false := fun v => (HA1'.out.set _ _).frozen _
          have d2 : ∀ v, (W1.setCell ⟨h + 2, (m + 1) * 3 + 1, none⟩ (.int .i64 v)).cell? ⟨h + 2, (m + 1) * 3 + 2, none⟩ = some (.int .i64 ((R.set ((m + 1) * 3 + 1) v).getD ((m + 1) * 3 + 2) 0)) := fun v => (HA1'.out.set _ _).cell _ (by rw [List.length_set, HRl.out]; omega)
          go_wp2_with fail
          go_roundw
          case rel =>
            refine ⟨m + 1, by omega, by go_num, ?_, ?_⟩
            · show Arr _ _ _ _
              rw [HN.out, rstep, HR.out.1, HR.out.2.1, HR.out.2.2]
              exact (HA1'.out.set _ _).set _ _
            · exact (HB1.out.setCell (p := ⟨h + 2, (m + 1) * 3 + 1, none⟩) (Nat.le_refl _) _).setCell (p := ⟨h + 2, (m + 1) * 3 + 2, none⟩) (Nat.le_refl _) _
          case measure => simp [intOf]; omega
        · have hm3 : m = 30 := by omega
          subst hm3
          have hr30 : Arr wr (h + 2) 113 rowsI := by
            have := HA.out
            rw [rows_all] at this
            exact this
          have hz1 : Arr wr (h + 1) 113 Z := HA1.out.below HB.out (by omega)
          have hzs : (tabV Z).size = (tabV rowsI).size := by rw [tabV_size, tabV_size, HZl.out, rowsI_len]
          have HBw : Hid (Below h w wr) := HB3.out.trans (HB.out.mono (by omega))
          clear HA HB HA1
          go_wp2_with (first
            | (refine wpList_load_row rfl 113 _ rfl (h + 2) rfl 113 (tabV rowsI) (0, 0) _ hr30 Try.underlying113 rfl (sizeR rowsI_len) ?_)
            | (refine wpList_store_row rfl 113 _ _ rfl (h + 1) (tabV rowsI) rfl rfl 113 (tabV Z) hz1 (sizeR rowsI_len) hzs (tabV_one _) ?_))
          refine bodyPost_ret (results_cell_row rfl _ _ (h + 1) 113 (tabV rowsI) (0, 0) _ rfl (setRow_heap _ _ _ _ _ _ hz1) Try.underlying113 rfl (sizeR rowsI_len)) rfl ⟨rfl, ?_⟩
          first | exact below_setRow HBw.out (by omega) _ | (rw [hh]; exact below_setRow HBw.out (by omega) _)

end Go.Proofs.Ytghakpcagacdaal
