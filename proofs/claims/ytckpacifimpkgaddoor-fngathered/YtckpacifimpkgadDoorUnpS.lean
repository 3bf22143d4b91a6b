/- What the specification's Unpad answers: what is between the padding, without a priority, in memory of its own, or nothing; nothing that was there is written. For a body that is not nil. -/
import Derived.Test.YtckpacifimpkgadDoorUnp
namespace Go.Proofs.YtckpacifimpkgadDoor
open Go.RowKit
set_option linter.unusedVariables false

set_option maxRecDepth 10000 in
set_option maxHeartbeats 800000 in
theorem specUnp_a (k f s : Int) (b off len cap : Nat) (zs : List Int) (w : World) (hs : Seg w (some ⟨b, off, none⟩) len zs) (hcap : len ≤ cap) (hl : len ≤ 1048576) (hp : (bits .and .i64 f 8 != 0) = true) (hpc : padCut zs = none) :
    Calls Tryd.prog 37 #[.agg #[.int .i64 k, .int .i64 f, .int .i64 s, .slice (some ⟨b, off, none⟩) len cap]] w fun e w' => ∃ a' cap', e = .returned (.tuple #[.slice a' 0 cap', .bool false]) ∧ Owns w' w.heap.size a' 0 cap' [] ∧ Below w.heap.size w w' := by
  obtain ⟨i0, hi, hz0, hz1, hz2⟩ := info_parts Tryd.info5
  obtain ⟨W0, hW0⟩ : ∃ W0, w.alloc (.cells #[.int .i64 k, .int .i64 f, .int .i64 s, .slice (some ⟨b, off, none⟩) len cap] 33) = W0 := ⟨_, rfl⟩
  have HB0 : Hid (Below w.heap.size w W0) := by show Below _ _ _; rw [← hW0]; exact (Below.refl _ _).alloc (Nat.le_refl _) _
  have hs0 : Seg W0 (some ⟨b, off, none⟩) len zs := hs.below HB0.out
  have hsA : Seg (W0.alloc (.cells #[] 5)) (some ⟨b, off, none⟩) len zs := hs0.below ((Below.refl _ _).alloc (Nat.le_refl _) _)
  have HO1 : Hid ((W0.alloc (.cells #[] 5)).ownsRow w.heap.size 5 1 (.slice (some ⟨W0.heap.size, 0, none⟩) 0 0) 0 []) := World.ownsRow_lit W0 #[] 0 HB0.out.size (Nat.zero_le _) rfl
  obtain ⟨c0, q1, q2, c3⟩ : W0.cell? ⟨w.heap.size, 0, none⟩ = some (.int .i64 k) ∧ W0.cell? ⟨w.heap.size, 1, none⟩ = some (.int .i64 f) ∧ W0.cell? ⟨w.heap.size, 2, none⟩ = some (.int .i64 s) ∧ W0.cell? ⟨w.heap.size, 3, none⟩ = some (.slice (some ⟨b, off, none⟩) len cap) := by rw [← hW0]; exact (Box4.new w 33 (.int .i64 k) (.int .i64 f) (.int .i64 s) (.slice (some ⟨b, off, none⟩) len cap)).cells
  have hc := padCut_none hpc
  have hz := hs.1
  have hr := hs.range 0
  by_cases h0 : len = 0
  · clear hc hr hz hpc hs hs0 hsA
    subst h0
    go_enter Tryd.func37, Tryd.ntmps37
    go_wp2_with fail
    go_ret2
    exact ⟨_, _, rfl, ⟨HO1.out, by simp⟩, HB0.out.alloc HB0.out.size _⟩
  · obtain ⟨_, _, hab, hcell⟩ := seg_some hs0 (by omega)
    injection hab with hab
    injection hab with h1 h2
    subst h1 h2
    generalize zs.getD 0 0 = z at *
    have hgt : (len : Int) - 1 < z := by omega
    have hz0 : 0 ≤ z := hr.1
    have hz1 : z ≤ 255 := hr.2
    have hlp : (0 : Int) < (len : Int) := by omega
    have hln : ((len : Int) == 0) = false := by simp; omega
    clear hc hr hz hpc hs hs0 hsA
    go_enter Tryd.func37, Tryd.ntmps37
    go_wp2_with fail
    go_ret2
    exact ⟨_, _, rfl, ⟨HO1.out, by simp⟩, HB0.out.alloc HB0.out.size _⟩

set_option maxRecDepth 10000 in
set_option maxHeartbeats 800000 in
theorem specUnp_b1 (k f s : Int) (b off len cap : Nat) (zs : List Int) (w : World) (hs : Seg w (some ⟨b, off, none⟩) len zs) (hcap : len ≤ cap) (hl : len ≤ 1048576) (hp : (bits .and .i64 f 8 != 0) = false) (hk : (k == 1) = false) :
    Calls Tryd.prog 37 #[.agg #[.int .i64 k, .int .i64 f, .int .i64 s, .slice (some ⟨b, off, none⟩) len cap]] w fun e w' => ∃ a' cap', e = .returned (.tuple #[.slice a' len cap', .bool true]) ∧ Owns w' w.heap.size a' len cap' zs ∧ Below w.heap.size w w' := by
  obtain ⟨i0, hi, hz0, hz1, hz2⟩ := info_parts Tryd.info5
  obtain ⟨W0, hW0⟩ : ∃ W0, w.alloc (.cells #[.int .i64 k, .int .i64 f, .int .i64 s, .slice (some ⟨b, off, none⟩) len cap] 33) = W0 := ⟨_, rfl⟩
  have HB0 : Hid (Below w.heap.size w W0) := by show Below _ _ _; rw [← hW0]; exact (Below.refl _ _).alloc (Nat.le_refl _) _
  have hs0 : Seg W0 (some ⟨b, off, none⟩) len zs := hs.below HB0.out
  have hsA : Seg (W0.alloc (.cells #[] 5)) (some ⟨b, off, none⟩) len zs := hs0.below ((Below.refl _ _).alloc (Nat.le_refl _) _)
  have HO1 : Hid ((W0.alloc (.cells #[] 5)).ownsRow w.heap.size 5 1 (.slice (some ⟨W0.heap.size, 0, none⟩) 0 0) 0 []) := World.ownsRow_lit W0 #[] 0 HB0.out.size (Nat.zero_le _) rfl
  obtain ⟨c0, q1, q2, c3⟩ : W0.cell? ⟨w.heap.size, 0, none⟩ = some (.int .i64 k) ∧ W0.cell? ⟨w.heap.size, 1, none⟩ = some (.int .i64 f) ∧ W0.cell? ⟨w.heap.size, 2, none⟩ = some (.int .i64 s) ∧ W0.cell? ⟨w.heap.size, 3, none⟩ = some (.slice (some ⟨b, off, none⟩) len cap) := by rw [← hW0]; exact (Box4.new w 33 (.int .i64 k) (.int .i64 f) (.int .i64 s) (.slice (some ⟨b, off, none⟩) len cap)).cells
  have HZL : Hid (zs.length = len) := hs.1
  have HSG : Hid (∀ o : Nat, o = off → Seg (W0.alloc (.cells #[] 5)) (some ⟨b, o, none⟩) len zs) := fun o ho => by subst ho; exact hsA
  clear hs hs0 hsA
  go_enter Tryd.func37, Tryd.ntmps37
  go_wp2_with (at_builtin; refine wpList_append_own _ rfl _ _ 22 rfl w.heap.size 5 i0 (.int .u8 0) 1 1 Tryd.underlying22 hi hz0 hz1 hz2 rfl (by decide) (.slice (some ⟨W0.heap.size, 0, none⟩) 0 0) 0 [] rfl HO1.out ⟨b, _, none⟩ len _ ((zs).map (Value.int .u8)) rfl (by simp [HZL.out]) (cells_ints (HSG.out _ rfl)) (ints_one _) (by unfold maxLen; omega) (by omega) (by have := HB0.out.size; simp; omega) ?_; intro v1 w1 hown1 hgrow1 _; refine Hid.out ?_)
  refine hidden ?_
  have HB1 : Hid (Below w.heap.size w w1) := (HB0.out.alloc HB0.out.size _).grown hgrow1 (by have := HB0.out.size; simp; omega) (by simp [Value.ownBlock]; exact HB0.out.size)
  obtain ⟨a1, c1, rfl⟩ := shape_of_owns hown1
  have HO2 : Hid (w1.ownsRow w.heap.size 5 1 (.slice a1 len c1) len ((zs).map (Value.int .u8))) := by
    show World.ownsRow _ _ _ _ _ _ _
    have h := hown1
    rw [Nat.zero_add] at h
    simpa using h
  have hll : 0 + len = len := Nat.zero_add _
  rw [hll]
  clear hown1 hgrow1
  go_wp2_with fail
  go_ret2
  exact ⟨_, _, rfl, ⟨HO2.out, (HSG.out _ rfl).2.1⟩, HB1.out⟩

set_option maxRecDepth 10000 in
set_option maxHeartbeats 800000 in
theorem specUnp_b2 (k f s : Int) (b off len cap : Nat) (zs : List Int) (w : World) (hs : Seg w (some ⟨b, off, none⟩) len zs) (hcap : len ≤ cap) (hl : len ≤ 1048576) (hp : (bits .and .i64 f 8 != 0) = false) (hk : (k == 1) = true) (hq : (bits .and .i64 f 32 != 0) = false) :
    Calls Tryd.prog 37 #[.agg #[.int .i64 k, .int .i64 f, .int .i64 s, .slice (some ⟨b, off, none⟩) len cap]] w fun e w' => ∃ a' cap', e = .returned (.tuple #[.slice a' len cap', .bool true]) ∧ Owns w' w.heap.size a' len cap' zs ∧ Below w.heap.size w w' := by
  obtain ⟨i0, hi, hz0, hz1, hz2⟩ := info_parts Tryd.info5
  obtain ⟨W0, hW0⟩ : ∃ W0, w.alloc (.cells #[.int .i64 k, .int .i64 f, .int .i64 s, .slice (some ⟨b, off, none⟩) len cap] 33) = W0 := ⟨_, rfl⟩
  have HB0 : Hid (Below w.heap.size w W0) := by show Below _ _ _; rw [← hW0]; exact (Below.refl _ _).alloc (Nat.le_refl _) _
  have hs0 : Seg W0 (some ⟨b, off, none⟩) len zs := hs.below HB0.out
  have hsA : Seg (W0.alloc (.cells #[] 5)) (some ⟨b, off, none⟩) len zs := hs0.below ((Below.refl _ _).alloc (Nat.le_refl _) _)
  have HO1 : Hid ((W0.alloc (.cells #[] 5)).ownsRow w.heap.size 5 1 (.slice (some ⟨W0.heap.size, 0, none⟩) 0 0) 0 []) := World.ownsRow_lit W0 #[] 0 HB0.out.size (Nat.zero_le _) rfl
  obtain ⟨c0, q1, q2, c3⟩ : W0.cell? ⟨w.heap.size, 0, none⟩ = some (.int .i64 k) ∧ W0.cell? ⟨w.heap.size, 1, none⟩ = some (.int .i64 f) ∧ W0.cell? ⟨w.heap.size, 2, none⟩ = some (.int .i64 s) ∧ W0.cell? ⟨w.heap.size, 3, none⟩ = some (.slice (some ⟨b, off, none⟩) len cap) := by rw [← hW0]; exact (Box4.new w 33 (.int .i64 k) (.int .i64 f) (.int .i64 s) (.slice (some ⟨b, off, none⟩) len cap)).cells
  have HZL : Hid (zs.length = len) := hs.1
  have HSG : Hid (∀ o : Nat, o = off → Seg (W0.alloc (.cells #[] 5)) (some ⟨b, o, none⟩) len zs) := fun o ho => by subst ho; exact hsA
  clear hs hs0 hsA
  go_enter Tryd.func37, Tryd.ntmps37
  go_wp2_with (at_builtin; refine wpList_append_own _ rfl _ _ 22 rfl w.heap.size 5 i0 (.int .u8 0) 1 1 Tryd.underlying22 hi hz0 hz1 hz2 rfl (by decide) (.slice (some ⟨W0.heap.size, 0, none⟩) 0 0) 0 [] rfl HO1.out ⟨b, _, none⟩ len _ ((zs).map (Value.int .u8)) rfl (by simp [HZL.out]) (cells_ints (HSG.out _ rfl)) (ints_one _) (by unfold maxLen; omega) (by omega) (by have := HB0.out.size; simp; omega) ?_; intro v1 w1 hown1 hgrow1 _; refine Hid.out ?_)
  refine hidden ?_
  have HB1 : Hid (Below w.heap.size w w1) := (HB0.out.alloc HB0.out.size _).grown hgrow1 (by have := HB0.out.size; simp; omega) (by simp [Value.ownBlock]; exact HB0.out.size)
  obtain ⟨a1, c1, rfl⟩ := shape_of_owns hown1
  have HO2 : Hid (w1.ownsRow w.heap.size 5 1 (.slice a1 len c1) len ((zs).map (Value.int .u8))) := by
    show World.ownsRow _ _ _ _ _ _ _
    have h := hown1
    rw [Nat.zero_add] at h
    simpa using h
  have hll : 0 + len = len := Nat.zero_add _
  rw [hll]
  clear hown1 hgrow1
  go_wp2_with fail
  go_ret2
  exact ⟨_, _, rfl, ⟨HO2.out, (HSG.out _ rfl).2.1⟩, HB1.out⟩

set_option maxRecDepth 10000 in
set_option maxHeartbeats 800000 in
theorem specUnp_b3 (k f s : Int) (b off len cap : Nat) (zs : List Int) (w : World) (hs : Seg w (some ⟨b, off, none⟩) len zs) (hcap : len ≤ cap) (hl : len ≤ 1048576) (hp : (bits .and .i64 f 8 != 0) = false) (hk : (k == 1) = true) (hq : (bits .and .i64 f 32 != 0) = true) (hqc : prioCut zs = none) :
    Calls Tryd.prog 37 #[.agg #[.int .i64 k, .int .i64 f, .int .i64 s, .slice (some ⟨b, off, none⟩) len cap]] w fun e w' => ∃ a' cap', e = .returned (.tuple #[.slice a' 0 cap', .bool false]) ∧ Owns w' w.heap.size a' 0 cap' [] ∧ Below w.heap.size w w' := by
  obtain ⟨i0, hi, hz0, hz1, hz2⟩ := info_parts Tryd.info5
  obtain ⟨W0, hW0⟩ : ∃ W0, w.alloc (.cells #[.int .i64 k, .int .i64 f, .int .i64 s, .slice (some ⟨b, off, none⟩) len cap] 33) = W0 := ⟨_, rfl⟩
  have HB0 : Hid (Below w.heap.size w W0) := by show Below _ _ _; rw [← hW0]; exact (Below.refl _ _).alloc (Nat.le_refl _) _
  have hs0 : Seg W0 (some ⟨b, off, none⟩) len zs := hs.below HB0.out
  have hsA : Seg (W0.alloc (.cells #[] 5)) (some ⟨b, off, none⟩) len zs := hs0.below ((Below.refl _ _).alloc (Nat.le_refl _) _)
  have HO1 : Hid ((W0.alloc (.cells #[] 5)).ownsRow w.heap.size 5 1 (.slice (some ⟨W0.heap.size, 0, none⟩) 0 0) 0 []) := World.ownsRow_lit W0 #[] 0 HB0.out.size (Nat.zero_le _) rfl
  obtain ⟨c0, q1, q2, c3⟩ : W0.cell? ⟨w.heap.size, 0, none⟩ = some (.int .i64 k) ∧ W0.cell? ⟨w.heap.size, 1, none⟩ = some (.int .i64 f) ∧ W0.cell? ⟨w.heap.size, 2, none⟩ = some (.int .i64 s) ∧ W0.cell? ⟨w.heap.size, 3, none⟩ = some (.slice (some ⟨b, off, none⟩) len cap) := by rw [← hW0]; exact (Box4.new w 33 (.int .i64 k) (.int .i64 f) (.int .i64 s) (.slice (some ⟨b, off, none⟩) len cap)).cells
  have h5 : (len : Int) < 5 := by
    unfold prioCut at hqc
    split at hqc
    · cases hqc
    · have := hs.1; omega
  clear hs hs0 hsA hqc
  go_enter Tryd.func37, Tryd.ntmps37
  go_wp2_with fail
  go_ret2
  exact ⟨_, _, rfl, ⟨HO1.out, by simp⟩, HB0.out.alloc HB0.out.size _⟩

set_option maxRecDepth 10000 in
set_option maxHeartbeats 800000 in
theorem specUnp_b4 (k f s : Int) (b off len cap : Nat) (zs : List Int) (w : World) (hs : Seg w (some ⟨b, off, none⟩) len zs) (hcap : len ≤ cap) (hl : len ≤ 1048576) (ys : List Int) (yl : Nat) (hyl : ys.length = yl) (hyb : yl ≤ 1048576) (hp : (bits .and .i64 f 8 != 0) = false) (hk : (k == 1) = true) (hq : (bits .and .i64 f 32 != 0) = true) (hqc : prioCut zs = some ys) :
    Calls Tryd.prog 37 #[.agg #[.int .i64 k, .int .i64 f, .int .i64 s, .slice (some ⟨b, off, none⟩) len cap]] w fun e w' => ∃ a' cap', e = .returned (.tuple #[.slice a' yl cap', .bool true]) ∧ Owns w' w.heap.size a' yl cap' ys ∧ Below w.heap.size w w' := by
  obtain ⟨i0, hi, hz0, hz1, hz2⟩ := info_parts Tryd.info5
  obtain ⟨W0, hW0⟩ : ∃ W0, w.alloc (.cells #[.int .i64 k, .int .i64 f, .int .i64 s, .slice (some ⟨b, off, none⟩) len cap] 33) = W0 := ⟨_, rfl⟩
  have HB0 : Hid (Below w.heap.size w W0) := by show Below _ _ _; rw [← hW0]; exact (Below.refl _ _).alloc (Nat.le_refl _) _
  have hs0 : Seg W0 (some ⟨b, off, none⟩) len zs := hs.below HB0.out
  have hsA : Seg (W0.alloc (.cells #[] 5)) (some ⟨b, off, none⟩) len zs := hs0.below ((Below.refl _ _).alloc (Nat.le_refl _) _)
  have HO1 : Hid ((W0.alloc (.cells #[] 5)).ownsRow w.heap.size 5 1 (.slice (some ⟨W0.heap.size, 0, none⟩) 0 0) 0 []) := World.ownsRow_lit W0 #[] 0 HB0.out.size (Nat.zero_le _) rfl
  obtain ⟨c0, q1, q2, c3⟩ : W0.cell? ⟨w.heap.size, 0, none⟩ = some (.int .i64 k) ∧ W0.cell? ⟨w.heap.size, 1, none⟩ = some (.int .i64 f) ∧ W0.cell? ⟨w.heap.size, 2, none⟩ = some (.int .i64 s) ∧ W0.cell? ⟨w.heap.size, 3, none⟩ = some (.slice (some ⟨b, off, none⟩) len cap) := by rw [← hW0]; exact (Box4.new w 33 (.int .i64 k) (.int .i64 f) (.int .i64 s) (.slice (some ⟨b, off, none⟩) len cap)).cells
  obtain ⟨hc5, hy0, hyl2, hy⟩ := prioCut_some hqc
  have hz := hs.1
  have HZL : Hid (ys.length = yl) := hyl
  have HSG : Hid (∀ o : Nat, o = off + 5 ∨ yl = 0 → Seg (W0.alloc (.cells #[] 5)) (some ⟨b, o, none⟩) yl ys) := fun o ho => by
    have h1 := seg_cut hsA 5 yl o (by omega) ho
    rw [show yl = zs.length - 5 by omega, ← hy] at h1
    rw [show yl = zs.length - 5 by omega]
    exact h1
  have hge : (5 : Int) ≤ (len : Int) := by omega
  have hnl : ¬ (len : Int) < 5 := by omega
  have hDy : len - 5 = yl := by omega
  have hlc : (len : Int) ≤ (cap : Int) := by omega
  have HF : Hid (cap = 5 → yl = 0) := by show _ → _; omega
  clear hy0 hyl2 hy hyl hc5 hz hqc hs hs0 hsA
  by_cases hc1 : cap = 5
  · have HC1 : Hid (yl = 0) := HF.out hc1
    clear HF
    subst hc1
    go_enter Tryd.func37, Tryd.ntmps37
    go_wp2_with (at_builtin; refine wpList_append_own _ rfl _ _ 22 rfl w.heap.size 5 i0 (.int .u8 0) 1 1 Tryd.underlying22 hi hz0 hz1 hz2 rfl (by decide) (.slice (some ⟨W0.heap.size, 0, none⟩) 0 0) 0 [] rfl HO1.out ⟨b, _, none⟩ yl _ ((ys).map (Value.int .u8)) rfl (by simp [HZL.out]) (cells_ints (HSG.out _ (.inr HC1.out))) (ints_one _) (by unfold maxLen; omega) (by omega) (by have := HB0.out.size; simp; omega) ?_; intro v1 w1 hown1 hgrow1 _; refine Hid.out ?_)
    refine hidden ?_
    have HB1 : Hid (Below w.heap.size w w1) := (HB0.out.alloc HB0.out.size _).grown hgrow1 (by have := HB0.out.size; simp; omega) (by simp [Value.ownBlock]; exact HB0.out.size)
    obtain ⟨a1, c1, rfl⟩ := shape_of_owns hown1
    have HO2 : Hid (w1.ownsRow w.heap.size 5 1 (.slice a1 yl c1) yl ((ys).map (Value.int .u8))) := by
      show World.ownsRow _ _ _ _ _ _ _
      have h := hown1
      rw [Nat.zero_add] at h
      simpa using h
    have hll : 0 + yl = yl := Nat.zero_add _
    rw [hll]
    clear hown1 hgrow1
    go_wp2_with fail
    go_ret2
    exact ⟨_, _, rfl, ⟨HO2.out, (HSG.out 0 (.inr HC1.out)).2.1⟩, HB1.out⟩
  · clear HF
    go_enter Tryd.func37, Tryd.ntmps37
    go_wp2_with (at_builtin; refine wpList_append_own _ rfl _ _ 22 rfl w.heap.size 5 i0 (.int .u8 0) 1 1 Tryd.underlying22 hi hz0 hz1 hz2 rfl (by decide) (.slice (some ⟨W0.heap.size, 0, none⟩) 0 0) 0 [] rfl HO1.out ⟨b, _, none⟩ yl _ ((ys).map (Value.int .u8)) rfl (by simp [HZL.out]) (cells_ints (HSG.out _ (.inl rfl))) (ints_one _) (by unfold maxLen; omega) (by omega) (by have := HB0.out.size; simp; omega) ?_; intro v1 w1 hown1 hgrow1 _; refine Hid.out ?_)
    refine hidden ?_
    have HB1 : Hid (Below w.heap.size w w1) := (HB0.out.alloc HB0.out.size _).grown hgrow1 (by have := HB0.out.size; simp; omega) (by simp [Value.ownBlock]; exact HB0.out.size)
    obtain ⟨a1, c1, rfl⟩ := shape_of_owns hown1
    have HO2 : Hid (w1.ownsRow w.heap.size 5 1 (.slice a1 yl c1) yl ((ys).map (Value.int .u8))) := by
      show World.ownsRow _ _ _ _ _ _ _
      have h := hown1
      rw [Nat.zero_add] at h
      simpa using h
    have hll : 0 + yl = yl := Nat.zero_add _
    rw [hll]
    clear hown1 hgrow1
    go_wp2_with fail
    go_ret2
    exact ⟨_, _, rfl, ⟨HO2.out, (HSG.out _ (.inl rfl)).2.1⟩, HB1.out⟩

set_option maxRecDepth 10000 in
set_option maxHeartbeats 800000 in
theorem specUnp_c1 (k f s : Int) (b off len cap : Nat) (zs : List Int) (w : World) (hs : Seg w (some ⟨b, off, none⟩) len zs) (hcap : len ≤ cap) (hl : len ≤ 1048576) (xs : List Int) (xl : Nat) (hxl : xs.length = xl) (hxb : xl ≤ 1048576) (hp : (bits .and .i64 f 8 != 0) = true) (hpc : padCut zs = some xs) (hk : (k == 1) = false) :
    Calls Tryd.prog 37 #[.agg #[.int .i64 k, .int .i64 f, .int .i64 s, .slice (some ⟨b, off, none⟩) len cap]] w fun e w' => ∃ a' cap', e = .returned (.tuple #[.slice a' xl cap', .bool true]) ∧ Owns w' w.heap.size a' xl cap' xs ∧ Below w.heap.size w w' := by
  obtain ⟨i0, hi, hz0, hz1, hz2⟩ := info_parts Tryd.info5
  obtain ⟨W0, hW0⟩ : ∃ W0, w.alloc (.cells #[.int .i64 k, .int .i64 f, .int .i64 s, .slice (some ⟨b, off, none⟩) len cap] 33) = W0 := ⟨_, rfl⟩
  have HB0 : Hid (Below w.heap.size w W0) := by show Below _ _ _; rw [← hW0]; exact (Below.refl _ _).alloc (Nat.le_refl _) _
  have hs0 : Seg W0 (some ⟨b, off, none⟩) len zs := hs.below HB0.out
  have hsA : Seg (W0.alloc (.cells #[] 5)) (some ⟨b, off, none⟩) len zs := hs0.below ((Below.refl _ _).alloc (Nat.le_refl _) _)
  have HO1 : Hid ((W0.alloc (.cells #[] 5)).ownsRow w.heap.size 5 1 (.slice (some ⟨W0.heap.size, 0, none⟩) 0 0) 0 []) := World.ownsRow_lit W0 #[] 0 HB0.out.size (Nat.zero_le _) rfl
  obtain ⟨c0, q1, q2, c3⟩ : W0.cell? ⟨w.heap.size, 0, none⟩ = some (.int .i64 k) ∧ W0.cell? ⟨w.heap.size, 1, none⟩ = some (.int .i64 f) ∧ W0.cell? ⟨w.heap.size, 2, none⟩ = some (.int .i64 s) ∧ W0.cell? ⟨w.heap.size, 3, none⟩ = some (.slice (some ⟨b, off, none⟩) len cap) := by rw [← hW0]; exact (Box4.new w 33 (.int .i64 k) (.int .i64 f) (.int .i64 s) (.slice (some ⟨b, off, none⟩) len cap)).cells
  have hz := hs.1
  have hr := hs.range 0
  obtain ⟨hc, hy, hyl9⟩ := padCut_some hpc
  obtain ⟨_, _, hab, hcell⟩ := seg_some hs0 (by omega)
  injection hab with hab
  injection hab with h1 h2
  subst h1 h2
  obtain ⟨z, hzz⟩ : ∃ z : Nat, zs.getD 0 0 = (z : Int) := ⟨(zs.getD 0 0).toNat, by omega⟩
  rw [hzz] at hcell hr
  rw [hzz, Int.toNat_natCast] at hc hy hyl9
  obtain ⟨D, hD⟩ : ∃ D : Nat, D = len - z := ⟨_, rfl⟩
  have HSX : Hid (∀ o : Nat, o = off + 1 ∨ xl = 0 → Seg (W0.alloc (.cells #[] 5)) (some ⟨b, o, none⟩) xl xs) := fun o ho => by
    have h1 := seg_cut hsA 1 xl o (by omega) ho
    rw [show xl = zs.length - z - 1 by omega, ← hy] at h1
    rw [show xl = zs.length - z - 1 by omega]
    exact h1
  have hlz : (len : Int) - (z : Int) = (D : Int) := by omega
  have hD1 : (1 : Int) ≤ (D : Int) := by omega
  have hDc : (D : Int) ≤ (cap : Int) := by omega
  have hgt : ¬ (len : Int) - 1 < (z : Int) := by omega
  have hgt2 : decide ((len : Int) - 1 < (z : Int)) = false := by simp; omega
  have hDy : D - 1 = xl := by omega
  have hz255 : (z : Int) ≤ 255 := by omega
  have hlp : (0 : Int) < (len : Int) := by omega
  have hln : ((len : Int) == 0) = false := by simp; omega
  have HF : Hid (cap = 1 → xl = 0) := by show _ → _; omega
  have HZL : Hid (xs.length = xl) := hxl
  have HSG : Hid (∀ o : Nat, o = off + 1 ∨ xl = 0 → Seg (W0.alloc (.cells #[] 5)) (some ⟨b, o, none⟩) xl xs) := HSX.out
  clear HSX hxl
  clear hc hr hz hpc hs hs0 hsA hy hyl9 hzz hD hcap
  by_cases hc1 : cap = 1
  · have HC1 : Hid (xl = 0) := HF.out hc1
    clear HF
    subst hc1
    go_enter Tryd.func37, Tryd.ntmps37
    go_wp2_with (at_builtin; refine wpList_append_own _ rfl _ _ 22 rfl w.heap.size 5 i0 (.int .u8 0) 1 1 Tryd.underlying22 hi hz0 hz1 hz2 rfl (by decide) (.slice (some ⟨W0.heap.size, 0, none⟩) 0 0) 0 [] rfl HO1.out ⟨b, _, none⟩ xl _ ((xs).map (Value.int .u8)) rfl (by simp [HZL.out]) (cells_ints (HSG.out _ (.inr HC1.out))) (ints_one _) (by unfold maxLen; omega) (by omega) (by have := HB0.out.size; simp; omega) ?_; intro v1 w1 hown1 hgrow1 _; refine Hid.out ?_)
    refine hidden ?_
    have HB1 : Hid (Below w.heap.size w w1) := (HB0.out.alloc HB0.out.size _).grown hgrow1 (by have := HB0.out.size; simp; omega) (by simp [Value.ownBlock]; exact HB0.out.size)
    obtain ⟨a1, c1, rfl⟩ := shape_of_owns hown1
    have HO2 : Hid (w1.ownsRow w.heap.size 5 1 (.slice a1 xl c1) xl ((xs).map (Value.int .u8))) := by
      show World.ownsRow _ _ _ _ _ _ _
      have h := hown1
      rw [Nat.zero_add] at h
      simpa using h
    have hll : 0 + xl = xl := Nat.zero_add _
    rw [hll]
    clear hown1 hgrow1
    go_wp2_with fail
    go_ret2
    exact ⟨_, _, rfl, ⟨HO2.out, (HSG.out 0 (.inr HC1.out)).2.1⟩, HB1.out⟩
  · clear HF
    go_enter Tryd.func37, Tryd.ntmps37
    go_wp2_with (at_builtin; refine wpList_append_own _ rfl _ _ 22 rfl w.heap.size 5 i0 (.int .u8 0) 1 1 Tryd.underlying22 hi hz0 hz1 hz2 rfl (by decide) (.slice (some ⟨W0.heap.size, 0, none⟩) 0 0) 0 [] rfl HO1.out ⟨b, _, none⟩ xl _ ((xs).map (Value.int .u8)) rfl (by simp [HZL.out]) (cells_ints (HSG.out _ (.inl rfl))) (ints_one _) (by unfold maxLen; omega) (by omega) (by have := HB0.out.size; simp; omega) ?_; intro v1 w1 hown1 hgrow1 _; refine Hid.out ?_)
    refine hidden ?_
    have HB1 : Hid (Below w.heap.size w w1) := (HB0.out.alloc HB0.out.size _).grown hgrow1 (by have := HB0.out.size; simp; omega) (by simp [Value.ownBlock]; exact HB0.out.size)
    obtain ⟨a1, c1, rfl⟩ := shape_of_owns hown1
    have HO2 : Hid (w1.ownsRow w.heap.size 5 1 (.slice a1 xl c1) xl ((xs).map (Value.int .u8))) := by
      show World.ownsRow _ _ _ _ _ _ _
      have h := hown1
      rw [Nat.zero_add] at h
      simpa using h
    have hll : 0 + xl = xl := Nat.zero_add _
    rw [hll]
    clear hown1 hgrow1
    go_wp2_with fail
    go_ret2
    exact ⟨_, _, rfl, ⟨HO2.out, (HSG.out _ (.inl rfl)).2.1⟩, HB1.out⟩

set_option maxRecDepth 10000 in
set_option maxHeartbeats 800000 in
theorem specUnp_c2 (k f s : Int) (b off len cap : Nat) (zs : List Int) (w : World) (hs : Seg w (some ⟨b, off, none⟩) len zs) (hcap : len ≤ cap) (hl : len ≤ 1048576) (xs : List Int) (xl : Nat) (hxl : xs.length = xl) (hxb : xl ≤ 1048576) (hp : (bits .and .i64 f 8 != 0) = true) (hpc : padCut zs = some xs) (hk : (k == 1) = true) (hq : (bits .and .i64 f 32 != 0) = false) :
    Calls Tryd.prog 37 #[.agg #[.int .i64 k, .int .i64 f, .int .i64 s, .slice (some ⟨b, off, none⟩) len cap]] w fun e w' => ∃ a' cap', e = .returned (.tuple #[.slice a' xl cap', .bool true]) ∧ Owns w' w.heap.size a' xl cap' xs ∧ Below w.heap.size w w' := by
  obtain ⟨i0, hi, hz0, hz1, hz2⟩ := info_parts Tryd.info5
  obtain ⟨W0, hW0⟩ : ∃ W0, w.alloc (.cells #[.int .i64 k, .int .i64 f, .int .i64 s, .slice (some ⟨b, off, none⟩) len cap] 33) = W0 := ⟨_, rfl⟩
  have HB0 : Hid (Below w.heap.size w W0) := by show Below _ _ _; rw [← hW0]; exact (Below.refl _ _).alloc (Nat.le_refl _) _
  have hs0 : Seg W0 (some ⟨b, off, none⟩) len zs := hs.below HB0.out
  have hsA : Seg (W0.alloc (.cells #[] 5)) (some ⟨b, off, none⟩) len zs := hs0.below ((Below.refl _ _).alloc (Nat.le_refl _) _)
  have HO1 : Hid ((W0.alloc (.cells #[] 5)).ownsRow w.heap.size 5 1 (.slice (some ⟨W0.heap.size, 0, none⟩) 0 0) 0 []) := World.ownsRow_lit W0 #[] 0 HB0.out.size (Nat.zero_le _) rfl
  obtain ⟨c0, q1, q2, c3⟩ : W0.cell? ⟨w.heap.size, 0, none⟩ = some (.int .i64 k) ∧ W0.cell? ⟨w.heap.size, 1, none⟩ = some (.int .i64 f) ∧ W0.cell? ⟨w.heap.size, 2, none⟩ = some (.int .i64 s) ∧ W0.cell? ⟨w.heap.size, 3, none⟩ = some (.slice (some ⟨b, off, none⟩) len cap) := by rw [← hW0]; exact (Box4.new w 33 (.int .i64 k) (.int .i64 f) (.int .i64 s) (.slice (some ⟨b, off, none⟩) len cap)).cells
  have hz := hs.1
  have hr := hs.range 0
  obtain ⟨hc, hy, hyl9⟩ := padCut_some hpc
  obtain ⟨_, _, hab, hcell⟩ := seg_some hs0 (by omega)
  injection hab with hab
  injection hab with h1 h2
  subst h1 h2
  obtain ⟨z, hzz⟩ : ∃ z : Nat, zs.getD 0 0 = (z : Int) := ⟨(zs.getD 0 0).toNat, by omega⟩
  rw [hzz] at hcell hr
  rw [hzz, Int.toNat_natCast] at hc hy hyl9
  obtain ⟨D, hD⟩ : ∃ D : Nat, D = len - z := ⟨_, rfl⟩
  have HSX : Hid (∀ o : Nat, o = off + 1 ∨ xl = 0 → Seg (W0.alloc (.cells #[] 5)) (some ⟨b, o, none⟩) xl xs) := fun o ho => by
    have h1 := seg_cut hsA 1 xl o (by omega) ho
    rw [show xl = zs.length - z - 1 by omega, ← hy] at h1
    rw [show xl = zs.length - z - 1 by omega]
    exact h1
  have hlz : (len : Int) - (z : Int) = (D : Int) := by omega
  have hD1 : (1 : Int) ≤ (D : Int) := by omega
  have hDc : (D : Int) ≤ (cap : Int) := by omega
  have hgt : ¬ (len : Int) - 1 < (z : Int) := by omega
  have hgt2 : decide ((len : Int) - 1 < (z : Int)) = false := by simp; omega
  have hDy : D - 1 = xl := by omega
  have hz255 : (z : Int) ≤ 255 := by omega
  have hlp : (0 : Int) < (len : Int) := by omega
  have hln : ((len : Int) == 0) = false := by simp; omega
  have HF : Hid (cap = 1 → xl = 0) := by show _ → _; omega
  have HZL : Hid (xs.length = xl) := hxl
  have HSG : Hid (∀ o : Nat, o = off + 1 ∨ xl = 0 → Seg (W0.alloc (.cells #[] 5)) (some ⟨b, o, none⟩) xl xs) := HSX.out
  clear HSX hxl
  clear hc hr hz hpc hs hs0 hsA hy hyl9 hzz hD hcap
  by_cases hc1 : cap = 1
  · have HC1 : Hid (xl = 0) := HF.out hc1
    clear HF
    subst hc1
    go_enter Tryd.func37, Tryd.ntmps37
    go_wp2_with (at_builtin; refine wpList_append_own _ rfl _ _ 22 rfl w.heap.size 5 i0 (.int .u8 0) 1 1 Tryd.underlying22 hi hz0 hz1 hz2 rfl (by decide) (.slice (some ⟨W0.heap.size, 0, none⟩) 0 0) 0 [] rfl HO1.out ⟨b, _, none⟩ xl _ ((xs).map (Value.int .u8)) rfl (by simp [HZL.out]) (cells_ints (HSG.out _ (.inr HC1.out))) (ints_one _) (by unfold maxLen; omega) (by omega) (by have := HB0.out.size; simp; omega) ?_; intro v1 w1 hown1 hgrow1 _; refine Hid.out ?_)
    refine hidden ?_
    have HB1 : Hid (Below w.heap.size w w1) := (HB0.out.alloc HB0.out.size _).grown hgrow1 (by have := HB0.out.size; simp; omega) (by simp [Value.ownBlock]; exact HB0.out.size)
    obtain ⟨a1, c1, rfl⟩ := shape_of_owns hown1
    have HO2 : Hid (w1.ownsRow w.heap.size 5 1 (.slice a1 xl c1) xl ((xs).map (Value.int .u8))) := by
      show World.ownsRow _ _ _ _ _ _ _
      have h := hown1
      rw [Nat.zero_add] at h
      simpa using h
    have hll : 0 + xl = xl := Nat.zero_add _
    rw [hll]
    clear hown1 hgrow1
    go_wp2_with fail
    go_ret2
    exact ⟨_, _, rfl, ⟨HO2.out, (HSG.out 0 (.inr HC1.out)).2.1⟩, HB1.out⟩
  · clear HF
    go_enter Tryd.func37, Tryd.ntmps37
    go_wp2_with (at_builtin; refine wpList_append_own _ rfl _ _ 22 rfl w.heap.size 5 i0 (.int .u8 0) 1 1 Tryd.underlying22 hi hz0 hz1 hz2 rfl (by decide) (.slice (some ⟨W0.heap.size, 0, none⟩) 0 0) 0 [] rfl HO1.out ⟨b, _, none⟩ xl _ ((xs).map (Value.int .u8)) rfl (by simp [HZL.out]) (cells_ints (HSG.out _ (.inl rfl))) (ints_one _) (by unfold maxLen; omega) (by omega) (by have := HB0.out.size; simp; omega) ?_; intro v1 w1 hown1 hgrow1 _; refine Hid.out ?_)
    refine hidden ?_
    have HB1 : Hid (Below w.heap.size w w1) := (HB0.out.alloc HB0.out.size _).grown hgrow1 (by have := HB0.out.size; simp; omega) (by simp [Value.ownBlock]; exact HB0.out.size)
    obtain ⟨a1, c1, rfl⟩ := shape_of_owns hown1
    have HO2 : Hid (w1.ownsRow w.heap.size 5 1 (.slice a1 xl c1) xl ((xs).map (Value.int .u8))) := by
      show World.ownsRow _ _ _ _ _ _ _
      have h := hown1
      rw [Nat.zero_add] at h
      simpa using h
    have hll : 0 + xl = xl := Nat.zero_add _
    rw [hll]
    clear hown1 hgrow1
    go_wp2_with fail
    go_ret2
    exact ⟨_, _, rfl, ⟨HO2.out, (HSG.out _ (.inl rfl)).2.1⟩, HB1.out⟩

set_option maxRecDepth 10000 in
set_option maxHeartbeats 800000 in
theorem specUnp_c3 (k f s : Int) (b off len cap : Nat) (zs : List Int) (w : World) (hs : Seg w (some ⟨b, off, none⟩) len zs) (hcap : len ≤ cap) (hl : len ≤ 1048576) (xs : List Int) (xl : Nat) (hxl : xs.length = xl) (hxb : xl ≤ 1048576) (hp : (bits .and .i64 f 8 != 0) = true) (hpc : padCut zs = some xs) (hk : (k == 1) = true) (hq : (bits .and .i64 f 32 != 0) = true) (hqc : prioCut xs = none) :
    Calls Tryd.prog 37 #[.agg #[.int .i64 k, .int .i64 f, .int .i64 s, .slice (some ⟨b, off, none⟩) len cap]] w fun e w' => ∃ a' cap', e = .returned (.tuple #[.slice a' 0 cap', .bool false]) ∧ Owns w' w.heap.size a' 0 cap' [] ∧ Below w.heap.size w w' := by
  obtain ⟨i0, hi, hz0, hz1, hz2⟩ := info_parts Tryd.info5
  obtain ⟨W0, hW0⟩ : ∃ W0, w.alloc (.cells #[.int .i64 k, .int .i64 f, .int .i64 s, .slice (some ⟨b, off, none⟩) len cap] 33) = W0 := ⟨_, rfl⟩
  have HB0 : Hid (Below w.heap.size w W0) := by show Below _ _ _; rw [← hW0]; exact (Below.refl _ _).alloc (Nat.le_refl _) _
  have hs0 : Seg W0 (some ⟨b, off, none⟩) len zs := hs.below HB0.out
  have hsA : Seg (W0.alloc (.cells #[] 5)) (some ⟨b, off, none⟩) len zs := hs0.below ((Below.refl _ _).alloc (Nat.le_refl _) _)
  have HO1 : Hid ((W0.alloc (.cells #[] 5)).ownsRow w.heap.size 5 1 (.slice (some ⟨W0.heap.size, 0, none⟩) 0 0) 0 []) := World.ownsRow_lit W0 #[] 0 HB0.out.size (Nat.zero_le _) rfl
  obtain ⟨c0, q1, q2, c3⟩ : W0.cell? ⟨w.heap.size, 0, none⟩ = some (.int .i64 k) ∧ W0.cell? ⟨w.heap.size, 1, none⟩ = some (.int .i64 f) ∧ W0.cell? ⟨w.heap.size, 2, none⟩ = some (.int .i64 s) ∧ W0.cell? ⟨w.heap.size, 3, none⟩ = some (.slice (some ⟨b, off, none⟩) len cap) := by rw [← hW0]; exact (Box4.new w 33 (.int .i64 k) (.int .i64 f) (.int .i64 s) (.slice (some ⟨b, off, none⟩) len cap)).cells
  have hz := hs.1
  have hr := hs.range 0
  obtain ⟨hc, hy, hyl9⟩ := padCut_some hpc
  obtain ⟨_, _, hab, hcell⟩ := seg_some hs0 (by omega)
  injection hab with hab
  injection hab with h1 h2
  subst h1 h2
  obtain ⟨z, hzz⟩ : ∃ z : Nat, zs.getD 0 0 = (z : Int) := ⟨(zs.getD 0 0).toNat, by omega⟩
  rw [hzz] at hcell hr
  rw [hzz, Int.toNat_natCast] at hc hy hyl9
  obtain ⟨D, hD⟩ : ∃ D : Nat, D = len - z := ⟨_, rfl⟩
  have HSX : Hid (∀ o : Nat, o = off + 1 ∨ xl = 0 → Seg (W0.alloc (.cells #[] 5)) (some ⟨b, o, none⟩) xl xs) := fun o ho => by
    have h1 := seg_cut hsA 1 xl o (by omega) ho
    rw [show xl = zs.length - z - 1 by omega, ← hy] at h1
    rw [show xl = zs.length - z - 1 by omega]
    exact h1
  have hlz : (len : Int) - (z : Int) = (D : Int) := by omega
  have hD1 : (1 : Int) ≤ (D : Int) := by omega
  have hDc : (D : Int) ≤ (cap : Int) := by omega
  have hgt : ¬ (len : Int) - 1 < (z : Int) := by omega
  have hgt2 : decide ((len : Int) - 1 < (z : Int)) = false := by simp; omega
  have hDy : D - 1 = xl := by omega
  have hz255 : (z : Int) ≤ 255 := by omega
  have hlp : (0 : Int) < (len : Int) := by omega
  have hln : ((len : Int) == 0) = false := by simp; omega
  have h5 : (xl : Int) < 5 := by
    unfold prioCut at hqc
    split at hqc
    · cases hqc
    · omega
  clear hxl hqc HSX
  clear hc hr hz hpc hs hs0 hsA hy hyl9 hzz hD hcap
  by_cases hc1 : cap = 1
  · subst hc1
    go_enter Tryd.func37, Tryd.ntmps37
    go_wp2_with fail
    go_ret2
    exact ⟨_, _, rfl, ⟨HO1.out, by simp⟩, HB0.out.alloc HB0.out.size _⟩
  · go_enter Tryd.func37, Tryd.ntmps37
    go_wp2_with fail
    go_ret2
    exact ⟨_, _, rfl, ⟨HO1.out, by simp⟩, HB0.out.alloc HB0.out.size _⟩

set_option maxRecDepth 10000 in
set_option maxHeartbeats 800000 in
theorem specUnp_c4 (k f s : Int) (b off len cap : Nat) (zs : List Int) (w : World) (hs : Seg w (some ⟨b, off, none⟩) len zs) (hcap : len ≤ cap) (hl : len ≤ 1048576) (xs : List Int) (xl : Nat) (hxl : xs.length = xl) (hxb : xl ≤ 1048576) (ys : List Int) (yl : Nat) (hyl : ys.length = yl) (hyb : yl ≤ 1048576) (hp : (bits .and .i64 f 8 != 0) = true) (hpc : padCut zs = some xs) (hk : (k == 1) = true) (hq : (bits .and .i64 f 32 != 0) = true) (hqc : prioCut xs = some ys) :
    Calls Tryd.prog 37 #[.agg #[.int .i64 k, .int .i64 f, .int .i64 s, .slice (some ⟨b, off, none⟩) len cap]] w fun e w' => ∃ a' cap', e = .returned (.tuple #[.slice a' yl cap', .bool true]) ∧ Owns w' w.heap.size a' yl cap' ys ∧ Below w.heap.size w w' := by
  obtain ⟨i0, hi, hz0, hz1, hz2⟩ := info_parts Tryd.info5
  obtain ⟨W0, hW0⟩ : ∃ W0, w.alloc (.cells #[.int .i64 k, .int .i64 f, .int .i64 s, .slice (some ⟨b, off, none⟩) len cap] 33) = W0 := ⟨_, rfl⟩
  have HB0 : Hid (Below w.heap.size w W0) := by show Below _ _ _; rw [← hW0]; exact (Below.refl _ _).alloc (Nat.le_refl _) _
  have hs0 : Seg W0 (some ⟨b, off, none⟩) len zs := hs.below HB0.out
  have hsA : Seg (W0.alloc (.cells #[] 5)) (some ⟨b, off, none⟩) len zs := hs0.below ((Below.refl _ _).alloc (Nat.le_refl _) _)
  have HO1 : Hid ((W0.alloc (.cells #[] 5)).ownsRow w.heap.size 5 1 (.slice (some ⟨W0.heap.size, 0, none⟩) 0 0) 0 []) := World.ownsRow_lit W0 #[] 0 HB0.out.size (Nat.zero_le _) rfl
  obtain ⟨c0, q1, q2, c3⟩ : W0.cell? ⟨w.heap.size, 0, none⟩ = some (.int .i64 k) ∧ W0.cell? ⟨w.heap.size, 1, none⟩ = some (.int .i64 f) ∧ W0.cell? ⟨w.heap.size, 2, none⟩ = some (.int .i64 s) ∧ W0.cell? ⟨w.heap.size, 3, none⟩ = some (.slice (some ⟨b, off, none⟩) len cap) := by rw [← hW0]; exact (Box4.new w 33 (.int .i64 k) (.int .i64 f) (.int .i64 s) (.slice (some ⟨b, off, none⟩) len cap)).cells
  have hz := hs.1
  have hr := hs.range 0
  obtain ⟨hc, hy, hyl9⟩ := padCut_some hpc
  obtain ⟨_, _, hab, hcell⟩ := seg_some hs0 (by omega)
  injection hab with hab
  injection hab with h1 h2
  subst h1 h2
  obtain ⟨z, hzz⟩ : ∃ z : Nat, zs.getD 0 0 = (z : Int) := ⟨(zs.getD 0 0).toNat, by omega⟩
  rw [hzz] at hcell hr
  rw [hzz, Int.toNat_natCast] at hc hy hyl9
  obtain ⟨D, hD⟩ : ∃ D : Nat, D = len - z := ⟨_, rfl⟩
  have HSX : Hid (∀ o : Nat, o = off + 1 ∨ xl = 0 → Seg (W0.alloc (.cells #[] 5)) (some ⟨b, o, none⟩) xl xs) := fun o ho => by
    have h1 := seg_cut hsA 1 xl o (by omega) ho
    rw [show xl = zs.length - z - 1 by omega, ← hy] at h1
    rw [show xl = zs.length - z - 1 by omega]
    exact h1
  have hlz : (len : Int) - (z : Int) = (D : Int) := by omega
  have hD1 : (1 : Int) ≤ (D : Int) := by omega
  have hDc : (D : Int) ≤ (cap : Int) := by omega
  have hgt : ¬ (len : Int) - 1 < (z : Int) := by omega
  have hgt2 : decide ((len : Int) - 1 < (z : Int)) = false := by simp; omega
  have hDy : D - 1 = xl := by omega
  have hz255 : (z : Int) ≤ 255 := by omega
  have hlp : (0 : Int) < (len : Int) := by omega
  have hln : ((len : Int) == 0) = false := by simp; omega
  obtain ⟨hc5, hy0, hyl2, hy5⟩ := prioCut_some hqc
  have HZL : Hid (ys.length = yl) := hyl
  have HSG : Hid (∀ o : Nat, o = off + 1 + 5 ∨ yl = 0 → Seg (W0.alloc (.cells #[] 5)) (some ⟨b, o, none⟩) yl ys) := fun o ho => by
    have h1 := seg_cut (HSX.out _ (.inl rfl)) 5 yl o (by omega) ho
    rw [show yl = xs.length - 5 by omega, ← hy5] at h1
    rw [show yl = xs.length - 5 by omega]
    exact h1
  have hge : (5 : Int) ≤ (xl : Int) := by omega
  have hnl : ¬ (xl : Int) < 5 := by omega
  have hXy : xl - 5 = yl := by omega
  obtain ⟨c1, hcc⟩ : ∃ c1, cap - 1 = c1 := ⟨_, rfl⟩
  have hlc : (xl : Int) ≤ (c1 : Int) := by omega
  have hc1 : ¬ cap = 1 := by omega
  have HF : Hid (c1 = 5 → yl = 0) := by show _ → _; omega
  clear hy0 hyl2 hy5 hyl hc5 hqc hxl HSX
  clear hc hr hz hpc hs hs0 hsA hy hyl9 hzz hD hcap
  by_cases hc2 : c1 = 5
  · have HC1 : Hid (yl = 0) := HF.out hc2
    clear HF
    subst hc2
    go_enter Tryd.func37, Tryd.ntmps37
    go_wp2_with (at_builtin; refine wpList_append_own _ rfl _ _ 22 rfl w.heap.size 5 i0 (.int .u8 0) 1 1 Tryd.underlying22 hi hz0 hz1 hz2 rfl (by decide) (.slice (some ⟨W0.heap.size, 0, none⟩) 0 0) 0 [] rfl HO1.out ⟨b, _, none⟩ yl _ ((ys).map (Value.int .u8)) rfl (by simp [HZL.out]) (cells_ints (HSG.out _ (.inr HC1.out))) (ints_one _) (by unfold maxLen; omega) (by omega) (by have := HB0.out.size; simp; omega) ?_; intro v1 w1 hown1 hgrow1 _; refine Hid.out ?_)
    refine hidden ?_
    have HB1 : Hid (Below w.heap.size w w1) := (HB0.out.alloc HB0.out.size _).grown hgrow1 (by have := HB0.out.size; simp; omega) (by simp [Value.ownBlock]; exact HB0.out.size)
    obtain ⟨a1, c1, rfl⟩ := shape_of_owns hown1
    have HO2 : Hid (w1.ownsRow w.heap.size 5 1 (.slice a1 yl c1) yl ((ys).map (Value.int .u8))) := by
      show World.ownsRow _ _ _ _ _ _ _
      have h := hown1
      rw [Nat.zero_add] at h
      simpa using h
    have hll : 0 + yl = yl := Nat.zero_add _
    rw [hll]
    clear hown1 hgrow1
    go_wp2_with fail
    go_ret2
    exact ⟨_, _, rfl, ⟨HO2.out, (HSG.out 0 (.inr HC1.out)).2.1⟩, HB1.out⟩
  · clear HF
    go_enter Tryd.func37, Tryd.ntmps37
    go_wp2_with (at_builtin; refine wpList_append_own _ rfl _ _ 22 rfl w.heap.size 5 i0 (.int .u8 0) 1 1 Tryd.underlying22 hi hz0 hz1 hz2 rfl (by decide) (.slice (some ⟨W0.heap.size, 0, none⟩) 0 0) 0 [] rfl HO1.out ⟨b, _, none⟩ yl _ ((ys).map (Value.int .u8)) rfl (by simp [HZL.out]) (cells_ints (HSG.out _ (.inl rfl))) (ints_one _) (by unfold maxLen; omega) (by omega) (by have := HB0.out.size; simp; omega) ?_; intro v1 w1 hown1 hgrow1 _; refine Hid.out ?_)
    refine hidden ?_
    have HB1 : Hid (Below w.heap.size w w1) := (HB0.out.alloc HB0.out.size _).grown hgrow1 (by have := HB0.out.size; simp; omega) (by simp [Value.ownBlock]; exact HB0.out.size)
    obtain ⟨a1, c1, rfl⟩ := shape_of_owns hown1
    have HO2 : Hid (w1.ownsRow w.heap.size 5 1 (.slice a1 yl c1) yl ((ys).map (Value.int .u8))) := by
      show World.ownsRow _ _ _ _ _ _ _
      have h := hown1
      rw [Nat.zero_add] at h
      simpa using h
    have hll : 0 + yl = yl := Nat.zero_add _
    rw [hll]
    clear hown1 hgrow1
    go_wp2_with fail
    go_ret2
    exact ⟨_, _, rfl, ⟨HO2.out, (HSG.out _ (.inl rfl)).2.1⟩, HB1.out⟩

theorem specUnp_any (k f s : Int) (b off : Nat) (len cap : Nat) (zs : List Int) (w : World) (hs : Seg w (some ⟨b, off, none⟩) len zs) (hcap : len ≤ cap) (hl : len ≤ 1048576) (r : Option (List Int)) (n : Nat) (hr : unpadR (bits .and .i64 f 8 != 0) ((k == 1) && (bits .and .i64 f 32 != 0)) zs = r) (hn : (r.getD []).length = n) :
    Calls Tryd.prog 37 #[.agg #[.int .i64 k, .int .i64 f, .int .i64 s, .slice (some ⟨b, off, none⟩) len cap]] w fun e w' => ∃ a' cap', e = .returned (.tuple #[.slice a' n cap', .bool r.isSome]) ∧ Owns w' w.heap.size a' n cap' (r.getD []) ∧ Below w.heap.size w w' := by
  subst hn hr
  have hz := hs.1
  cases hp : (bits .and .i64 f 8 != 0) with
  | true =>
    cases hpc : padCut zs with
    | none =>
      have e : unpadR true ((k == 1) && (bits .and .i64 f 32 != 0)) zs = none := by simp [unpadR, hpc]
      rw [e]
      exact specUnp_a k f s b off len cap zs w hs hcap hl hp hpc
    | some xs =>
      obtain ⟨_, _, hxl⟩ := padCut_some hpc
      cases hk : (k == 1) with
      | false =>
        have e : unpadR true (false && (bits .and .i64 f 32 != 0)) zs = some xs := by simp [unpadR, hpc]
        rw [e]
        exact specUnp_c1 k f s b off len cap zs w hs hcap hl xs _ rfl (by first | omega | (simp only [Option.getD_some]; omega)) hp hpc hk
      | true =>
        cases hq : (bits .and .i64 f 32 != 0) with
        | false =>
          have e : unpadR true (true && false) zs = some xs := by simp [unpadR, hpc]
          rw [e]
          exact specUnp_c2 k f s b off len cap zs w hs hcap hl xs _ rfl (by first | omega | (simp only [Option.getD_some]; omega)) hp hpc hk hq
        | true =>
          cases hqc : prioCut xs with
          | none =>
            have e : unpadR true (true && true) zs = none := by simp [unpadR, hpc, hqc]
            rw [e]
            exact specUnp_c3 k f s b off len cap zs w hs hcap hl xs _ rfl (by first | omega | (simp only [Option.getD_some]; omega)) hp hpc hk hq hqc
          | some ys =>
            obtain ⟨_, _, hyl, _⟩ := prioCut_some hqc
            have e : unpadR true (true && true) zs = some ys := by simp [unpadR, hpc, hqc]
            rw [e]
            exact specUnp_c4 k f s b off len cap zs w hs hcap hl xs _ rfl (by omega) ys _ rfl (by first | omega | (simp only [Option.getD_some]; omega)) hp hpc hk hq hqc
  | false =>
    cases hk : (k == 1) with
    | false =>
      have e : unpadR false (false && (bits .and .i64 f 32 != 0)) zs = some zs := by simp [unpadR]
      rw [e]
      simp only [Option.getD_some, hz]
      exact specUnp_b1 k f s b off len cap zs w hs hcap hl hp hk
    | true =>
      cases hq : (bits .and .i64 f 32 != 0) with
      | false =>
        have e : unpadR false (true && false) zs = some zs := by simp [unpadR]
        rw [e]
        simp only [Option.getD_some, hz]
        exact specUnp_b2 k f s b off len cap zs w hs hcap hl hp hk hq
      | true =>
        cases hqc : prioCut zs with
        | none =>
          have e : unpadR false (true && true) zs = none := by simp [unpadR, hqc]
          rw [e]
          exact specUnp_b3 k f s b off len cap zs w hs hcap hl hp hk hq hqc
        | some ys =>
          obtain ⟨_, _, hyl, _⟩ := prioCut_some hqc
          have e : unpadR false (true && true) zs = some ys := by simp [unpadR, hqc]
          rw [e]
          exact specUnp_b4 k f s b off len cap zs w hs hcap hl ys _ rfl (by simp only [Option.getD_some]; omega) hp hk hq hqc

end Go.Proofs.YtckpacifimpkgadDoor
