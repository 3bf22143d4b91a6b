/- What the program's Unpad answers: what is between the padding, without a priority, in memory of its own, or nothing; nothing that was there is written. -/
import Derived.Test.YtpjldfpipchmjadDoorUnpA
import Derived.Test.YtpjldfpipchmjadDoorPadNum
namespace Go.Proofs.YtpjldfpipchmjadDoor
open Go.RowKit
set_option linter.unusedVariables false

set_option maxRecDepth 10000 in
set_option maxHeartbeats 800000 in
theorem implUnp_a (k f s : Int) (a : Option Addr) (len cap : Nat) (zs : List Int) (w : World) (hs : Seg w a len zs) (hcap : len ≤ cap) (hl : len ≤ 1048576) (hp : (bits .and .i64 f 8 != 0) = true) (hpc : padCut zs = none) :
    Calls Tryd.prog 59 #[.agg #[.int .i64 k, .int .i64 f, .int .i64 s, .slice a len cap]] w fun e w' => ∃ a' cap', e = .returned (.tuple #[.slice a' 0 cap', .bool false]) ∧ Owns w' w.heap.size a' 0 cap' [] ∧ Below w.heap.size w w' := by
  obtain ⟨i0, hi, hz0, hz1, hz2⟩ := info_parts Tryd.info5
  have HS : Hid (Seg w a len zs) := hs
  have HC : Hid (len ≤ cap) := hcap
  clear hs hcap
  obtain ⟨W0, hW0⟩ : ∃ W0, w.alloc (.cells #[.int .i64 k, .int .i64 f, .int .i64 s, .slice a len cap] 33) = W0 := ⟨_, rfl⟩
  have HB0 : Hid (Below w.heap.size w W0) := by show Below _ _ _; rw [← hW0]; exact (Below.refl _ _).alloc (Nat.le_refl _) _
  have HS0 : Hid (Seg W0 a len zs) := HS.out.below HB0.out
  obtain ⟨c0, q1, q2, c3⟩ : W0.cell? ⟨w.heap.size, 0, none⟩ = some (.int .i64 k) ∧ W0.cell? ⟨w.heap.size, 1, none⟩ = some (.int .i64 f) ∧ W0.cell? ⟨w.heap.size, 2, none⟩ = some (.int .i64 s) ∧ W0.cell? ⟨w.heap.size, 3, none⟩ = some (.slice a len cap) := by rw [← hW0]; exact (Box4.new w 33 (.int .i64 k) (.int .i64 f) (.int .i64 s) (.slice a len cap)).cells
  have HP : Hid (padCut zs = none) := hpc
  clear hpc
  go_enter Tryd.func59, Tryd.ntmps59
  go_wp2_with fail
  refine (between_no a len cap zs _ HS0.out HC.out (by omega) HP.out).mono ?_
  rintro e w1 ⟨rfl, hw1⟩
  subst w1
  go_wp2_with fail
  go_ret2
  exact ⟨_, _, rfl, ⟨World.ownsRow_lit _ #[] 0 HB0.out.size (Nat.zero_le _) rfl, by simp⟩, HB0.out.alloc HB0.out.size _⟩

set_option maxRecDepth 10000 in
set_option maxHeartbeats 800000 in
theorem implUnp_b1 (k f s : Int) (a : Option Addr) (len cap : Nat) (zs : List Int) (w : World) (hs : Seg w a len zs) (hcap : len ≤ cap) (hl : len ≤ 1048576) (hp : (bits .and .i64 f 8 != 0) = false) (hk : (k == 1) = false) :
    Calls Tryd.prog 59 #[.agg #[.int .i64 k, .int .i64 f, .int .i64 s, .slice a len cap]] w fun e w' => ∃ a' cap', e = .returned (.tuple #[.slice a' len cap', .bool true]) ∧ Owns w' w.heap.size a' len cap' zs ∧ Below w.heap.size w w' := by
  obtain ⟨i0, hi, hz0, hz1, hz2⟩ := info_parts Tryd.info5
  have HS : Hid (Seg w a len zs) := hs
  have HC : Hid (len ≤ cap) := hcap
  clear hs hcap
  obtain ⟨W0, hW0⟩ : ∃ W0, w.alloc (.cells #[.int .i64 k, .int .i64 f, .int .i64 s, .slice a len cap] 33) = W0 := ⟨_, rfl⟩
  have HB0 : Hid (Below w.heap.size w W0) := by show Below _ _ _; rw [← hW0]; exact (Below.refl _ _).alloc (Nat.le_refl _) _
  have HS0 : Hid (Seg W0 a len zs) := HS.out.below HB0.out
  obtain ⟨c0, q1, q2, c3⟩ : W0.cell? ⟨w.heap.size, 0, none⟩ = some (.int .i64 k) ∧ W0.cell? ⟨w.heap.size, 1, none⟩ = some (.int .i64 f) ∧ W0.cell? ⟨w.heap.size, 2, none⟩ = some (.int .i64 s) ∧ W0.cell? ⟨w.heap.size, 3, none⟩ = some (.slice a len cap) := by rw [← hW0]; exact (Box4.new w 33 (.int .i64 k) (.int .i64 f) (.int .i64 s) (.slice a len cap)).cells
  go_enter Tryd.func59, Tryd.ntmps59
  go_wp2_with (at_make; go_loud (refine wpList_make_full _ rfl _ _ 22 rfl w.heap.size 5 i0 (.int .u8 0) 1 Tryd.underlying22 hi hz0 hz1 _ _ _ _ len rfl rfl rfl rfl (by rw [hz2]; omega) (by unfold maxLen; omega) (by first | exact HB0.out.size | simp) ?_; intro w2 hown hgrow; refine Hid.out ?_))
  refine hidden ?_
  have hb2 : Below W0.heap.size W0 w2 := (Below.refl _ _).grown hgrow (Nat.le_refl _) (by simp)
  have hg2 : w2.heap[W0.heap.size]? = some (.cells ((List.replicate len (0 : Int)).map (Value.int .u8)).toArray 5 (0, 0)) := by
    refine row_block (base := w.heap.size) (n := len) ?_
    simpa [toList_madeCells_one, Value.cells] using hown
  have hzl : (zs).length = len := HS0.out.1
  obtain ⟨w3, hrun, hg3, hb3, _⟩ := copy_at w2 W0.heap.size 0 len len len a cap zs (List.replicate len (0 : Int)) (HS0.out.below hb2) hg2 (Nat.le_refl _) (by simp)
  have HB3 : Hid (Below w.heap.size w w3) := HB0.out.trans ((hb2.trans (hb3.mono (Nat.le_refl _))).mono HB0.out.size)
  have HO3 : Hid (w3.ownsRow w.heap.size 5 1 (.slice (some ⟨W0.heap.size, 0, none⟩) len len) len ((zs).map (Value.int .u8))) := by
    show World.ownsRow _ _ _ _ _ _ _
    have h := row_own hg3 (base := w.heap.size) HB0.out.size (n := len) (c := len) (by simp [hzl]) (Nat.le_refl _) (by unfold maxLen; omega)
    simpa [hzl, List.take_of_length_le] using h
  clear hown hgrow hb2 hg2 hg3 hb3 hzl
  go_wp2_with fail
  go_ret2
  exact ⟨_, _, rfl, ⟨HO3.out, HS0.out.2.1⟩, HB3.out⟩

set_option maxRecDepth 10000 in
set_option maxHeartbeats 800000 in
theorem implUnp_b2 (k f s : Int) (a : Option Addr) (len cap : Nat) (zs : List Int) (w : World) (hs : Seg w a len zs) (hcap : len ≤ cap) (hl : len ≤ 1048576) (hp : (bits .and .i64 f 8 != 0) = false) (hk : (k == 1) = true) (hq : (bits .and .i64 f 32 != 0) = false) :
    Calls Tryd.prog 59 #[.agg #[.int .i64 k, .int .i64 f, .int .i64 s, .slice a len cap]] w fun e w' => ∃ a' cap', e = .returned (.tuple #[.slice a' len cap', .bool true]) ∧ Owns w' w.heap.size a' len cap' zs ∧ Below w.heap.size w w' := by
  obtain ⟨i0, hi, hz0, hz1, hz2⟩ := info_parts Tryd.info5
  have HS : Hid (Seg w a len zs) := hs
  have HC : Hid (len ≤ cap) := hcap
  clear hs hcap
  obtain ⟨W0, hW0⟩ : ∃ W0, w.alloc (.cells #[.int .i64 k, .int .i64 f, .int .i64 s, .slice a len cap] 33) = W0 := ⟨_, rfl⟩
  have HB0 : Hid (Below w.heap.size w W0) := by show Below _ _ _; rw [← hW0]; exact (Below.refl _ _).alloc (Nat.le_refl _) _
  have HS0 : Hid (Seg W0 a len zs) := HS.out.below HB0.out
  obtain ⟨c0, q1, q2, c3⟩ : W0.cell? ⟨w.heap.size, 0, none⟩ = some (.int .i64 k) ∧ W0.cell? ⟨w.heap.size, 1, none⟩ = some (.int .i64 f) ∧ W0.cell? ⟨w.heap.size, 2, none⟩ = some (.int .i64 s) ∧ W0.cell? ⟨w.heap.size, 3, none⟩ = some (.slice a len cap) := by rw [← hW0]; exact (Box4.new w 33 (.int .i64 k) (.int .i64 f) (.int .i64 s) (.slice a len cap)).cells
  go_enter Tryd.func59, Tryd.ntmps59
  go_wp2_with (at_make; go_loud (refine wpList_make_full _ rfl _ _ 22 rfl w.heap.size 5 i0 (.int .u8 0) 1 Tryd.underlying22 hi hz0 hz1 _ _ _ _ len rfl rfl rfl rfl (by rw [hz2]; omega) (by unfold maxLen; omega) (by first | exact HB0.out.size | simp) ?_; intro w2 hown hgrow; refine Hid.out ?_))
  refine hidden ?_
  have hb2 : Below W0.heap.size W0 w2 := (Below.refl _ _).grown hgrow (Nat.le_refl _) (by simp)
  have hg2 : w2.heap[W0.heap.size]? = some (.cells ((List.replicate len (0 : Int)).map (Value.int .u8)).toArray 5 (0, 0)) := by
    refine row_block (base := w.heap.size) (n := len) ?_
    simpa [toList_madeCells_one, Value.cells] using hown
  have hzl : (zs).length = len := HS0.out.1
  obtain ⟨w3, hrun, hg3, hb3, _⟩ := copy_at w2 W0.heap.size 0 len len len a cap zs (List.replicate len (0 : Int)) (HS0.out.below hb2) hg2 (Nat.le_refl _) (by simp)
  have HB3 : Hid (Below w.heap.size w w3) := HB0.out.trans ((hb2.trans (hb3.mono (Nat.le_refl _))).mono HB0.out.size)
  have HO3 : Hid (w3.ownsRow w.heap.size 5 1 (.slice (some ⟨W0.heap.size, 0, none⟩) len len) len ((zs).map (Value.int .u8))) := by
    show World.ownsRow _ _ _ _ _ _ _
    have h := row_own hg3 (base := w.heap.size) HB0.out.size (n := len) (c := len) (by simp [hzl]) (Nat.le_refl _) (by unfold maxLen; omega)
    simpa [hzl, List.take_of_length_le] using h
  clear hown hgrow hb2 hg2 hg3 hb3 hzl
  go_wp2_with fail
  go_ret2
  exact ⟨_, _, rfl, ⟨HO3.out, HS0.out.2.1⟩, HB3.out⟩

set_option maxRecDepth 10000 in
set_option maxHeartbeats 800000 in
theorem implUnp_b3 (k f s : Int) (a : Option Addr) (len cap : Nat) (zs : List Int) (w : World) (hs : Seg w a len zs) (hcap : len ≤ cap) (hl : len ≤ 1048576) (hp : (bits .and .i64 f 8 != 0) = false) (hk : (k == 1) = true) (hq : (bits .and .i64 f 32 != 0) = true) (hqc : prioCut zs = none) :
    Calls Tryd.prog 59 #[.agg #[.int .i64 k, .int .i64 f, .int .i64 s, .slice a len cap]] w fun e w' => ∃ a' cap', e = .returned (.tuple #[.slice a' 0 cap', .bool false]) ∧ Owns w' w.heap.size a' 0 cap' [] ∧ Below w.heap.size w w' := by
  obtain ⟨i0, hi, hz0, hz1, hz2⟩ := info_parts Tryd.info5
  have HS : Hid (Seg w a len zs) := hs
  have HC : Hid (len ≤ cap) := hcap
  clear hs hcap
  obtain ⟨W0, hW0⟩ : ∃ W0, w.alloc (.cells #[.int .i64 k, .int .i64 f, .int .i64 s, .slice a len cap] 33) = W0 := ⟨_, rfl⟩
  have HB0 : Hid (Below w.heap.size w W0) := by show Below _ _ _; rw [← hW0]; exact (Below.refl _ _).alloc (Nat.le_refl _) _
  have HS0 : Hid (Seg W0 a len zs) := HS.out.below HB0.out
  obtain ⟨c0, q1, q2, c3⟩ : W0.cell? ⟨w.heap.size, 0, none⟩ = some (.int .i64 k) ∧ W0.cell? ⟨w.heap.size, 1, none⟩ = some (.int .i64 f) ∧ W0.cell? ⟨w.heap.size, 2, none⟩ = some (.int .i64 s) ∧ W0.cell? ⟨w.heap.size, 3, none⟩ = some (.slice a len cap) := by rw [← hW0]; exact (Box4.new w 33 (.int .i64 k) (.int .i64 f) (.int .i64 s) (.slice a len cap)).cells
  have HQ : Hid (prioCut zs = none) := hqc
  clear hqc
  go_enter Tryd.func59, Tryd.ntmps59
  go_wp2_with fail
  refine (behind_no a len cap zs _ HS0.out HQ.out).mono ?_
  rintro e w1 ⟨rfl, hw1⟩
  subst w1
  go_wp2_with fail
  go_ret2
  exact ⟨_, _, rfl, ⟨World.ownsRow_lit _ #[] 0 HB0.out.size (Nat.zero_le _) rfl, by simp⟩, HB0.out.alloc HB0.out.size _⟩

set_option maxRecDepth 10000 in
set_option maxHeartbeats 800000 in
theorem implUnp_b4 (k f s : Int) (a : Option Addr) (len cap : Nat) (zs : List Int) (w : World) (hs : Seg w a len zs) (hcap : len ≤ cap) (hl : len ≤ 1048576) (ys : List Int) (yl : Nat) (hyl : ys.length = yl) (hyb : yl ≤ 1048576) (hp : (bits .and .i64 f 8 != 0) = false) (hk : (k == 1) = true) (hq : (bits .and .i64 f 32 != 0) = true) (hqc : prioCut zs = some ys) :
    Calls Tryd.prog 59 #[.agg #[.int .i64 k, .int .i64 f, .int .i64 s, .slice a len cap]] w fun e w' => ∃ a' cap', e = .returned (.tuple #[.slice a' yl cap', .bool true]) ∧ Owns w' w.heap.size a' yl cap' ys ∧ Below w.heap.size w w' := by
  obtain ⟨i0, hi, hz0, hz1, hz2⟩ := info_parts Tryd.info5
  have HS : Hid (Seg w a len zs) := hs
  have HC : Hid (len ≤ cap) := hcap
  clear hs hcap
  obtain ⟨W0, hW0⟩ : ∃ W0, w.alloc (.cells #[.int .i64 k, .int .i64 f, .int .i64 s, .slice a len cap] 33) = W0 := ⟨_, rfl⟩
  have HB0 : Hid (Below w.heap.size w W0) := by show Below _ _ _; rw [← hW0]; exact (Below.refl _ _).alloc (Nat.le_refl _) _
  have HS0 : Hid (Seg W0 a len zs) := HS.out.below HB0.out
  obtain ⟨c0, q1, q2, c3⟩ : W0.cell? ⟨w.heap.size, 0, none⟩ = some (.int .i64 k) ∧ W0.cell? ⟨w.heap.size, 1, none⟩ = some (.int .i64 f) ∧ W0.cell? ⟨w.heap.size, 2, none⟩ = some (.int .i64 s) ∧ W0.cell? ⟨w.heap.size, 3, none⟩ = some (.slice a len cap) := by rw [← hW0]; exact (Box4.new w 33 (.int .i64 k) (.int .i64 f) (.int .i64 s) (.slice a len cap)).cells
  have HQ : Hid (prioCut zs = some ys) := hqc
  have HYL : Hid (ys.length = yl) := hyl
  clear hqc hyl
  go_enter Tryd.func59, Tryd.ntmps59
  go_wp2_with fail
  refine (behind_yes a len cap zs ys _ HS0.out HC.out (by omega) HQ.out).mono ?_
  rintro e w1 ⟨a2, c2, rfl, hs2, _, hw1⟩
  subst w1
  have HS2 : Hid (Seg W0 a2 yl ys) := by show Seg _ _ _ _; rw [← HYL.out]; exact hs2
  rw [HYL.out]
  clear hs2
  go_wp2_with (at_make; go_loud (refine wpList_make_full _ rfl _ _ 22 rfl w.heap.size 5 i0 (.int .u8 0) 1 Tryd.underlying22 hi hz0 hz1 _ _ _ _ yl rfl rfl rfl rfl (by rw [hz2]; omega) (by unfold maxLen; omega) (by first | exact HB0.out.size | simp) ?_; intro w2 hown hgrow; refine Hid.out ?_))
  refine hidden ?_
  have hb2 : Below W0.heap.size W0 w2 := (Below.refl _ _).grown hgrow (Nat.le_refl _) (by simp)
  have hg2 : w2.heap[W0.heap.size]? = some (.cells ((List.replicate yl (0 : Int)).map (Value.int .u8)).toArray 5 (0, 0)) := by
    refine row_block (base := w.heap.size) (n := yl) ?_
    simpa [toList_madeCells_one, Value.cells] using hown
  have hzl : (ys).length = yl := HS2.out.1
  obtain ⟨w3, hrun, hg3, hb3, _⟩ := copy_at w2 W0.heap.size 0 yl yl yl a2 c2 ys (List.replicate yl (0 : Int)) (HS2.out.below hb2) hg2 (Nat.le_refl _) (by simp)
  have HB3 : Hid (Below w.heap.size w w3) := HB0.out.trans ((hb2.trans (hb3.mono (Nat.le_refl _))).mono HB0.out.size)
  have HO3 : Hid (w3.ownsRow w.heap.size 5 1 (.slice (some ⟨W0.heap.size, 0, none⟩) yl yl) yl ((ys).map (Value.int .u8))) := by
    show World.ownsRow _ _ _ _ _ _ _
    have h := row_own hg3 (base := w.heap.size) HB0.out.size (n := yl) (c := yl) (by simp [hzl]) (Nat.le_refl _) (by unfold maxLen; omega)
    simpa [hzl, List.take_of_length_le] using h
  clear hown hgrow hb2 hg2 hg3 hb3 hzl
  go_wp2_with fail
  go_ret2
  exact ⟨_, _, rfl, ⟨HO3.out, HS2.out.2.1⟩, HB3.out⟩

set_option maxRecDepth 10000 in
set_option maxHeartbeats 800000 in
theorem implUnp_c1 (k f s : Int) (a : Option Addr) (len cap : Nat) (zs : List Int) (w : World) (hs : Seg w a len zs) (hcap : len ≤ cap) (hl : len ≤ 1048576) (xs : List Int) (xl : Nat) (hxl : xs.length = xl) (hxb : xl ≤ 1048576) (hp : (bits .and .i64 f 8 != 0) = true) (hpc : padCut zs = some xs) (hk : (k == 1) = false) :
    Calls Tryd.prog 59 #[.agg #[.int .i64 k, .int .i64 f, .int .i64 s, .slice a len cap]] w fun e w' => ∃ a' cap', e = .returned (.tuple #[.slice a' xl cap', .bool true]) ∧ Owns w' w.heap.size a' xl cap' xs ∧ Below w.heap.size w w' := by
  obtain ⟨i0, hi, hz0, hz1, hz2⟩ := info_parts Tryd.info5
  have HS : Hid (Seg w a len zs) := hs
  have HC : Hid (len ≤ cap) := hcap
  clear hs hcap
  obtain ⟨W0, hW0⟩ : ∃ W0, w.alloc (.cells #[.int .i64 k, .int .i64 f, .int .i64 s, .slice a len cap] 33) = W0 := ⟨_, rfl⟩
  have HB0 : Hid (Below w.heap.size w W0) := by show Below _ _ _; rw [← hW0]; exact (Below.refl _ _).alloc (Nat.le_refl _) _
  have HS0 : Hid (Seg W0 a len zs) := HS.out.below HB0.out
  obtain ⟨c0, q1, q2, c3⟩ : W0.cell? ⟨w.heap.size, 0, none⟩ = some (.int .i64 k) ∧ W0.cell? ⟨w.heap.size, 1, none⟩ = some (.int .i64 f) ∧ W0.cell? ⟨w.heap.size, 2, none⟩ = some (.int .i64 s) ∧ W0.cell? ⟨w.heap.size, 3, none⟩ = some (.slice a len cap) := by rw [← hW0]; exact (Box4.new w 33 (.int .i64 k) (.int .i64 f) (.int .i64 s) (.slice a len cap)).cells
  have HP : Hid (padCut zs = some xs) := hpc
  have HXL : Hid (xs.length = xl) := hxl
  clear hpc hxl
  go_enter Tryd.func59, Tryd.ntmps59
  go_wp2_with fail
  refine (between_yes a len cap zs xs _ HS0.out HC.out (by omega) HP.out).mono ?_
  rintro e w1 ⟨a1, c1, rfl, hs1, hc1, hw1⟩
  subst w1
  have HS1 : Hid (Seg W0 a1 xl xs) := by show Seg _ _ _ _; rw [← HXL.out]; exact hs1
  have HC1 : Hid (xl ≤ c1) := by show _ ≤ _; rw [← HXL.out]; exact hc1
  rw [HXL.out]
  clear hs1 hc1
  go_wp2_with (at_make; go_loud (refine wpList_make_full _ rfl _ _ 22 rfl w.heap.size 5 i0 (.int .u8 0) 1 Tryd.underlying22 hi hz0 hz1 _ _ _ _ xl rfl rfl rfl rfl (by rw [hz2]; omega) (by unfold maxLen; omega) (by first | exact HB0.out.size | simp) ?_; intro w2 hown hgrow; refine Hid.out ?_))
  refine hidden ?_
  have hb2 : Below W0.heap.size W0 w2 := (Below.refl _ _).grown hgrow (Nat.le_refl _) (by simp)
  have hg2 : w2.heap[W0.heap.size]? = some (.cells ((List.replicate xl (0 : Int)).map (Value.int .u8)).toArray 5 (0, 0)) := by
    refine row_block (base := w.heap.size) (n := xl) ?_
    simpa [toList_madeCells_one, Value.cells] using hown
  have hzl : (xs).length = xl := HS1.out.1
  obtain ⟨w3, hrun, hg3, hb3, _⟩ := copy_at w2 W0.heap.size 0 xl xl xl a1 c1 xs (List.replicate xl (0 : Int)) (HS1.out.below hb2) hg2 (Nat.le_refl _) (by simp)
  have HB3 : Hid (Below w.heap.size w w3) := HB0.out.trans ((hb2.trans (hb3.mono (Nat.le_refl _))).mono HB0.out.size)
  have HO3 : Hid (w3.ownsRow w.heap.size 5 1 (.slice (some ⟨W0.heap.size, 0, none⟩) xl xl) xl ((xs).map (Value.int .u8))) := by
    show World.ownsRow _ _ _ _ _ _ _
    have h := row_own hg3 (base := w.heap.size) HB0.out.size (n := xl) (c := xl) (by simp [hzl]) (Nat.le_refl _) (by unfold maxLen; omega)
    simpa [hzl, List.take_of_length_le] using h
  clear hown hgrow hb2 hg2 hg3 hb3 hzl
  go_wp2_with fail
  go_ret2
  exact ⟨_, _, rfl, ⟨HO3.out, HS1.out.2.1⟩, HB3.out⟩

set_option maxRecDepth 10000 in
set_option maxHeartbeats 800000 in
theorem implUnp_c2 (k f s : Int) (a : Option Addr) (len cap : Nat) (zs : List Int) (w : World) (hs : Seg w a len zs) (hcap : len ≤ cap) (hl : len ≤ 1048576) (xs : List Int) (xl : Nat) (hxl : xs.length = xl) (hxb : xl ≤ 1048576) (hp : (bits .and .i64 f 8 != 0) = true) (hpc : padCut zs = some xs) (hk : (k == 1) = true) (hq : (bits .and .i64 f 32 != 0) = false) :
    Calls Tryd.prog 59 #[.agg #[.int .i64 k, .int .i64 f, .int .i64 s, .slice a len cap]] w fun e w' => ∃ a' cap', e = .returned (.tuple #[.slice a' xl cap', .bool true]) ∧ Owns w' w.heap.size a' xl cap' xs ∧ Below w.heap.size w w' := by
  obtain ⟨i0, hi, hz0, hz1, hz2⟩ := info_parts Tryd.info5
  have HS : Hid (Seg w a len zs) := hs
  have HC : Hid (len ≤ cap) := hcap
  clear hs hcap
  obtain ⟨W0, hW0⟩ : ∃ W0, w.alloc (.cells #[.int .i64 k, .int .i64 f, .int .i64 s, .slice a len cap] 33) = W0 := ⟨_, rfl⟩
  have HB0 : Hid (Below w.heap.size w W0) := by show Below _ _ _; rw [← hW0]; exact (Below.refl _ _).alloc (Nat.le_refl _) _
  have HS0 : Hid (Seg W0 a len zs) := HS.out.below HB0.out
  obtain ⟨c0, q1, q2, c3⟩ : W0.cell? ⟨w.heap.size, 0, none⟩ = some (.int .i64 k) ∧ W0.cell? ⟨w.heap.size, 1, none⟩ = some (.int .i64 f) ∧ W0.cell? ⟨w.heap.size, 2, none⟩ = some (.int .i64 s) ∧ W0.cell? ⟨w.heap.size, 3, none⟩ = some (.slice a len cap) := by rw [← hW0]; exact (Box4.new w 33 (.int .i64 k) (.int .i64 f) (.int .i64 s) (.slice a len cap)).cells
  have HP : Hid (padCut zs = some xs) := hpc
  have HXL : Hid (xs.length = xl) := hxl
  clear hpc hxl
  go_enter Tryd.func59, Tryd.ntmps59
  go_wp2_with fail
  refine (between_yes a len cap zs xs _ HS0.out HC.out (by omega) HP.out).mono ?_
  rintro e w1 ⟨a1, c1, rfl, hs1, hc1, hw1⟩
  subst w1
  have HS1 : Hid (Seg W0 a1 xl xs) := by show Seg _ _ _ _; rw [← HXL.out]; exact hs1
  have HC1 : Hid (xl ≤ c1) := by show _ ≤ _; rw [← HXL.out]; exact hc1
  rw [HXL.out]
  clear hs1 hc1
  go_wp2_with (at_make; go_loud (refine wpList_make_full _ rfl _ _ 22 rfl w.heap.size 5 i0 (.int .u8 0) 1 Tryd.underlying22 hi hz0 hz1 _ _ _ _ xl rfl rfl rfl rfl (by rw [hz2]; omega) (by unfold maxLen; omega) (by first | exact HB0.out.size | simp) ?_; intro w2 hown hgrow; refine Hid.out ?_))
  refine hidden ?_
  have hb2 : Below W0.heap.size W0 w2 := (Below.refl _ _).grown hgrow (Nat.le_refl _) (by simp)
  have hg2 : w2.heap[W0.heap.size]? = some (.cells ((List.replicate xl (0 : Int)).map (Value.int .u8)).toArray 5 (0, 0)) := by
    refine row_block (base := w.heap.size) (n := xl) ?_
    simpa [toList_madeCells_one, Value.cells] using hown
  have hzl : (xs).length = xl := HS1.out.1
  obtain ⟨w3, hrun, hg3, hb3, _⟩ := copy_at w2 W0.heap.size 0 xl xl xl a1 c1 xs (List.replicate xl (0 : Int)) (HS1.out.below hb2) hg2 (Nat.le_refl _) (by simp)
  have HB3 : Hid (Below w.heap.size w w3) := HB0.out.trans ((hb2.trans (hb3.mono (Nat.le_refl _))).mono HB0.out.size)
  have HO3 : Hid (w3.ownsRow w.heap.size 5 1 (.slice (some ⟨W0.heap.size, 0, none⟩) xl xl) xl ((xs).map (Value.int .u8))) := by
    show World.ownsRow _ _ _ _ _ _ _
    have h := row_own hg3 (base := w.heap.size) HB0.out.size (n := xl) (c := xl) (by simp [hzl]) (Nat.le_refl _) (by unfold maxLen; omega)
    simpa [hzl, List.take_of_length_le] using h
  clear hown hgrow hb2 hg2 hg3 hb3 hzl
  go_wp2_with fail
  go_ret2
  exact ⟨_, _, rfl, ⟨HO3.out, HS1.out.2.1⟩, HB3.out⟩

set_option maxRecDepth 10000 in
set_option maxHeartbeats 800000 in
theorem implUnp_c3 (k f s : Int) (a : Option Addr) (len cap : Nat) (zs : List Int) (w : World) (hs : Seg w a len zs) (hcap : len ≤ cap) (hl : len ≤ 1048576) (xs : List Int) (xl : Nat) (hxl : xs.length = xl) (hxb : xl ≤ 1048576) (hp : (bits .and .i64 f 8 != 0) = true) (hpc : padCut zs = some xs) (hk : (k == 1) = true) (hq : (bits .and .i64 f 32 != 0) = true) (hqc : prioCut xs = none) :
    Calls Tryd.prog 59 #[.agg #[.int .i64 k, .int .i64 f, .int .i64 s, .slice a len cap]] w fun e w' => ∃ a' cap', e = .returned (.tuple #[.slice a' 0 cap', .bool false]) ∧ Owns w' w.heap.size a' 0 cap' [] ∧ Below w.heap.size w w' := by
  obtain ⟨i0, hi, hz0, hz1, hz2⟩ := info_parts Tryd.info5
  have HS : Hid (Seg w a len zs) := hs
  have HC : Hid (len ≤ cap) := hcap
  clear hs hcap
  obtain ⟨W0, hW0⟩ : ∃ W0, w.alloc (.cells #[.int .i64 k, .int .i64 f, .int .i64 s, .slice a len cap] 33) = W0 := ⟨_, rfl⟩
  have HB0 : Hid (Below w.heap.size w W0) := by show Below _ _ _; rw [← hW0]; exact (Below.refl _ _).alloc (Nat.le_refl _) _
  have HS0 : Hid (Seg W0 a len zs) := HS.out.below HB0.out
  obtain ⟨c0, q1, q2, c3⟩ : W0.cell? ⟨w.heap.size, 0, none⟩ = some (.int .i64 k) ∧ W0.cell? ⟨w.heap.size, 1, none⟩ = some (.int .i64 f) ∧ W0.cell? ⟨w.heap.size, 2, none⟩ = some (.int .i64 s) ∧ W0.cell? ⟨w.heap.size, 3, none⟩ = some (.slice a len cap) := by rw [← hW0]; exact (Box4.new w 33 (.int .i64 k) (.int .i64 f) (.int .i64 s) (.slice a len cap)).cells
  have HP : Hid (padCut zs = some xs) := hpc
  have HXL : Hid (xs.length = xl) := hxl
  clear hpc hxl
  have HQ : Hid (prioCut xs = none) := hqc
  clear hqc
  go_enter Tryd.func59, Tryd.ntmps59
  go_wp2_with fail
  refine (between_yes a len cap zs xs _ HS0.out HC.out (by omega) HP.out).mono ?_
  rintro e w1 ⟨a1, c1, rfl, hs1, hc1, hw1⟩
  subst w1
  have HS1 : Hid (Seg W0 a1 xl xs) := by show Seg _ _ _ _; rw [← HXL.out]; exact hs1
  have HC1 : Hid (xl ≤ c1) := by show _ ≤ _; rw [← HXL.out]; exact hc1
  rw [HXL.out]
  clear hs1 hc1
  go_wp2_with fail
  refine (behind_no a1 xl c1 xs _ HS1.out HQ.out).mono ?_
  rintro e w1 ⟨rfl, hw1⟩
  subst w1
  go_wp2_with fail
  go_ret2
  exact ⟨_, _, rfl, ⟨World.ownsRow_lit _ #[] 0 HB0.out.size (Nat.zero_le _) rfl, by simp⟩, HB0.out.alloc HB0.out.size _⟩

set_option maxRecDepth 10000 in
set_option maxHeartbeats 800000 in
theorem implUnp_c4 (k f s : Int) (a : Option Addr) (len cap : Nat) (zs : List Int) (w : World) (hs : Seg w a len zs) (hcap : len ≤ cap) (hl : len ≤ 1048576) (xs : List Int) (xl : Nat) (hxl : xs.length = xl) (hxb : xl ≤ 1048576) (ys : List Int) (yl : Nat) (hyl : ys.length = yl) (hyb : yl ≤ 1048576) (hp : (bits .and .i64 f 8 != 0) = true) (hpc : padCut zs = some xs) (hk : (k == 1) = true) (hq : (bits .and .i64 f 32 != 0) = true) (hqc : prioCut xs = some ys) :
    Calls Tryd.prog 59 #[.agg #[.int .i64 k, .int .i64 f, .int .i64 s, .slice a len cap]] w fun e w' => ∃ a' cap', e = .returned (.tuple #[.slice a' yl cap', .bool true]) ∧ Owns w' w.heap.size a' yl cap' ys ∧ Below w.heap.size w w' := by
  obtain ⟨i0, hi, hz0, hz1, hz2⟩ := info_parts Tryd.info5
  have HS : Hid (Seg w a len zs) := hs
  have HC : Hid (len ≤ cap) := hcap
  clear hs hcap
  obtain ⟨W0, hW0⟩ : ∃ W0, w.alloc (.cells #[.int .i64 k, .int .i64 f, .int .i64 s, .slice a len cap] 33) = W0 := ⟨_, rfl⟩
  have HB0 : Hid (Below w.heap.size w W0) := by show Below _ _ _; rw [← hW0]; exact (Below.refl _ _).alloc (Nat.le_refl _) _
  have HS0 : Hid (Seg W0 a len zs) := HS.out.below HB0.out
  obtain ⟨c0, q1, q2, c3⟩ : W0.cell? ⟨w.heap.size, 0, none⟩ = some (.int .i64 k) ∧ W0.cell? ⟨w.heap.size, 1, none⟩ = some (.int .i64 f) ∧ W0.cell? ⟨w.heap.size, 2, none⟩ = some (.int .i64 s) ∧ W0.cell? ⟨w.heap.size, 3, none⟩ = some (.slice a len cap) := by rw [← hW0]; exact (Box4.new w 33 (.int .i64 k) (.int .i64 f) (.int .i64 s) (.slice a len cap)).cells
  have HP : Hid (padCut zs = some xs) := hpc
  have HXL : Hid (xs.length = xl) := hxl
  clear hpc hxl
  have HQ : Hid (prioCut xs = some ys) := hqc
  have HYL : Hid (ys.length = yl) := hyl
  clear hqc hyl
  go_enter Tryd.func59, Tryd.ntmps59
  go_wp2_with fail
  refine (between_yes a len cap zs xs _ HS0.out HC.out (by omega) HP.out).mono ?_
  rintro e w1 ⟨a1, c1, rfl, hs1, hc1, hw1⟩
  subst w1
  have HS1 : Hid (Seg W0 a1 xl xs) := by show Seg _ _ _ _; rw [← HXL.out]; exact hs1
  have HC1 : Hid (xl ≤ c1) := by show _ ≤ _; rw [← HXL.out]; exact hc1
  rw [HXL.out]
  clear hs1 hc1
  go_wp2_with fail
  refine (behind_yes a1 xl c1 xs ys _ HS1.out HC1.out (by omega) HQ.out).mono ?_
  rintro e w1 ⟨a2, c2, rfl, hs2, _, hw1⟩
  subst w1
  have HS2 : Hid (Seg W0 a2 yl ys) := by show Seg _ _ _ _; rw [← HYL.out]; exact hs2
  rw [HYL.out]
  clear hs2
  go_wp2_with (at_make; go_loud (refine wpList_make_full _ rfl _ _ 22 rfl w.heap.size 5 i0 (.int .u8 0) 1 Tryd.underlying22 hi hz0 hz1 _ _ _ _ yl rfl rfl rfl rfl (by rw [hz2]; omega) (by unfold maxLen; omega) (by first | exact HB0.out.size | simp) ?_; intro w2 hown hgrow; refine Hid.out ?_))
  refine hidden ?_
  have hb2 : Below W0.heap.size W0 w2 := (Below.refl _ _).grown hgrow (Nat.le_refl _) (by simp)
  have hg2 : w2.heap[W0.heap.size]? = some (.cells ((List.replicate yl (0 : Int)).map (Value.int .u8)).toArray 5 (0, 0)) := by
    refine row_block (base := w.heap.size) (n := yl) ?_
    simpa [toList_madeCells_one, Value.cells] using hown
  have hzl : (ys).length = yl := HS2.out.1
  obtain ⟨w3, hrun, hg3, hb3, _⟩ := copy_at w2 W0.heap.size 0 yl yl yl a2 c2 ys (List.replicate yl (0 : Int)) (HS2.out.below hb2) hg2 (Nat.le_refl _) (by simp)
  have HB3 : Hid (Below w.heap.size w w3) := HB0.out.trans ((hb2.trans (hb3.mono (Nat.le_refl _))).mono HB0.out.size)
  have HO3 : Hid (w3.ownsRow w.heap.size 5 1 (.slice (some ⟨W0.heap.size, 0, none⟩) yl yl) yl ((ys).map (Value.int .u8))) := by
    show World.ownsRow _ _ _ _ _ _ _
    have h := row_own hg3 (base := w.heap.size) HB0.out.size (n := yl) (c := yl) (by simp [hzl]) (Nat.le_refl _) (by unfold maxLen; omega)
    simpa [hzl, List.take_of_length_le] using h
  clear hown hgrow hb2 hg2 hg3 hb3 hzl
  go_wp2_with fail
  go_ret2
  exact ⟨_, _, rfl, ⟨HO3.out, HS2.out.2.1⟩, HB3.out⟩

theorem implUnp_any (k f s : Int) (a : Option Addr) (len cap : Nat) (zs : List Int) (w : World) (hs : Seg w (a) len zs) (hcap : len ≤ cap) (hl : len ≤ 1048576) (r : Option (List Int)) (n : Nat) (hr : unpadR (bits .and .i64 f 8 != 0) ((k == 1) && (bits .and .i64 f 32 != 0)) zs = r) (hn : (r.getD []).length = n) :
    Calls Tryd.prog 59 #[.agg #[.int .i64 k, .int .i64 f, .int .i64 s, .slice (a) len cap]] w fun e w' => ∃ a' cap', e = .returned (.tuple #[.slice a' n cap', .bool r.isSome]) ∧ Owns w' w.heap.size a' n cap' (r.getD []) ∧ Below w.heap.size w w' := by
  subst hn hr
  have hz := hs.1
  cases hp : (bits .and .i64 f 8 != 0) with
  | true =>
    cases hpc : padCut zs with
    | none =>
      have e : unpadR true ((k == 1) && (bits .and .i64 f 32 != 0)) zs = none := by simp [unpadR, hpc]
      rw [e]
      exact implUnp_a k f s a len cap zs w hs hcap hl hp hpc
    | some xs =>
      obtain ⟨_, _, hxl⟩ := padCut_some hpc
      cases hk : (k == 1) with
      | false =>
        have e : unpadR true (false && (bits .and .i64 f 32 != 0)) zs = some xs := by simp [unpadR, hpc]
        rw [e]
        exact implUnp_c1 k f s a len cap zs w hs hcap hl xs _ rfl (by first | omega | (simp only [Option.getD_some]; omega)) hp hpc hk
      | true =>
        cases hq : (bits .and .i64 f 32 != 0) with
        | false =>
          have e : unpadR true (true && false) zs = some xs := by simp [unpadR, hpc]
          rw [e]
          exact implUnp_c2 k f s a len cap zs w hs hcap hl xs _ rfl (by first | omega | (simp only [Option.getD_some]; omega)) hp hpc hk hq
        | true =>
          cases hqc : prioCut xs with
          | none =>
            have e : unpadR true (true && true) zs = none := by simp [unpadR, hpc, hqc]
            rw [e]
            exact implUnp_c3 k f s a len cap zs w hs hcap hl xs _ rfl (by first | omega | (simp only [Option.getD_some]; omega)) hp hpc hk hq hqc
          | some ys =>
            obtain ⟨_, _, hyl, _⟩ := prioCut_some hqc
            have e : unpadR true (true && true) zs = some ys := by simp [unpadR, hpc, hqc]
            rw [e]
            exact implUnp_c4 k f s a len cap zs w hs hcap hl xs _ rfl (by omega) ys _ rfl (by first | omega | (simp only [Option.getD_some]; omega)) hp hpc hk hq hqc
  | false =>
    cases hk : (k == 1) with
    | false =>
      have e : unpadR false (false && (bits .and .i64 f 32 != 0)) zs = some zs := by simp [unpadR]
      rw [e]
      simp only [Option.getD_some, hz]
      exact implUnp_b1 k f s a len cap zs w hs hcap hl hp hk
    | true =>
      cases hq : (bits .and .i64 f 32 != 0) with
      | false =>
        have e : unpadR false (true && false) zs = some zs := by simp [unpadR]
        rw [e]
        simp only [Option.getD_some, hz]
        exact implUnp_b2 k f s a len cap zs w hs hcap hl hp hk hq
      | true =>
        cases hqc : prioCut zs with
        | none =>
          have e : unpadR false (true && true) zs = none := by simp [unpadR, hqc]
          rw [e]
          exact implUnp_b3 k f s a len cap zs w hs hcap hl hp hk hq hqc
        | some ys =>
          obtain ⟨_, _, hyl, _⟩ := prioCut_some hqc
          have e : unpadR false (true && true) zs = some ys := by simp [unpadR, hqc]
          rw [e]
          exact implUnp_b4 k f s a len cap zs w hs hcap hl ys _ rfl (by simp only [Option.getD_some]; omega) hp hk hq hqc

end Go.Proofs.YtpjldfpipchmjadDoor
