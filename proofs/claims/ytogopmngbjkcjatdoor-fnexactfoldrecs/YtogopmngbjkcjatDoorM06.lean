/- What the laws' own functions do with records: the size, the copy, the comparison. The small facts of Own, under the name that the other texts import. -/
import Derived.Test.YtogopmngbjkcjatDoorM05
import Derived.Test.YtogopmngbjkcjatDoorM04
import Derived.Test.YtogopmngbjkcjatDoorM01
namespace Go.Proofs.YtogopmngbjkcjatDoor
open Go.RowKit
set_option linter.unusedVariables false

theorem owns_lowR {w : World} {base lo n cap : Nat} {a : Option Addr} {zs : List Int} (h : Owns w base a n cap zs) (hl : lo ≤ base) : Owns w lo a n cap zs := ⟨own_low h.1 hl, h.2⟩

set_option maxHeartbeats 800000 in
theorem szRec_any (e q k : Int) (id : ByteArray) (n : Int) (a : Option Addr) (d ca : Nat) (m : Int) (w : World) (hn : 0 ≤ m) (hn2 : m ≤ 1048576) (hi : id.size ≤ maxLen) (hl : d ≤ maxLen) :
    Calls Tryd.prog 30 #[.agg #[.int .i64 e, .int .i64 q, .int .i64 k, .string id, .int .i64 n, .slice a d ca], .int .i64 m] w fun r w' => (∃ L : Int, r = .returned (.int .i64 L) ∧ (L < 0 ∨ (id.size ≤ 1048576 ∧ d ≤ 1048576 ∧ 0 ≤ L))) ∧ Below w.heap.size w w' := by
  have hm : maxLen < 9223372036854775808 := by decide
  have HB : Hid (Below w.heap.size w (w.alloc (.cells #[.int .i64 e, .int .i64 q, .int .i64 k, .string id, .int .i64 n, .slice a d ca] 62))) := (Below.refl _ _).alloc (Nat.le_refl _) _
  by_cases h1 : m - (id.size : Int) < 0
  · go_enter Tryd.func30, Tryd.ntmps30
    go_wp2_with fail
    go_ret
    exact ⟨⟨-1, rfl, .inl (by omega)⟩, HB.out⟩
  by_cases h2 : m - (id.size : Int) - (d : Int) < 0
  · go_enter Tryd.func30, Tryd.ntmps30
    go_wp2
    go_ret
    exact ⟨⟨-1, rfl, .inl (by omega)⟩, HB.out⟩
  · go_enter Tryd.func30, Tryd.ntmps30
    go_wp2
    go_ret
    exact ⟨⟨m - (id.size : Int) - (d : Int), rfl, .inr ⟨by omega, by omega, by omega⟩⟩, HB.out⟩

set_option maxHeartbeats 1600000 in
theorem toRec_any (e q k : Int) (id : ByteArray) (n : Int) (a : Option Addr) (d ca : Nat) (zs : List Int) (w : World) (hs : Seg w a d zs) (hl : d ≤ 1048576) :
    Calls Tryd.prog 32 #[.agg #[.int .i64 e, .int .i64 q, .int .i64 k, .string id, .int .i64 n, .slice a d ca]] w fun r w' => (∃ g, r = .returned (.agg #[.int .i64 e, .int .i64 q, .int .i64 k, .string id, .int .i64 n, .slice (some ⟨g, 0, none⟩) d d]) ∧ Owns w' w.heap.size (some ⟨g, 0, none⟩) d d zs) ∧ Below w.heap.size w w' := by
  have HS : Hid (Seg w a d zs) := hs
  clear hs
  obtain ⟨W0, hW0⟩ : ∃ W0, (((w.alloc (.cells #[.int .i64 e, .int .i64 q, .int .i64 k, .string id, .int .i64 n, .slice a d ca] 62)).alloc (.cells #[.int .i64 0, .int .i64 0, .int .i64 0, .string ⟨#[]⟩, .int .i64 0, .slice none 0 0] 56)).alloc (.cells #[.int .i64 e, .int .i64 q, .int .i64 k, .string id, .int .i64 n, .slice none 0 0] 56)) = W0 := ⟨_, rfl⟩
  have HE : Hid ((((w.alloc (.cells #[.int .i64 e, .int .i64 q, .int .i64 k, .string id, .int .i64 n, .slice a d ca] 62)).alloc (.cells #[.int .i64 0, .int .i64 0, .int .i64 0, .string ⟨#[]⟩, .int .i64 0, .slice none 0 0] 56)).alloc (.cells #[.int .i64 e, .int .i64 q, .int .i64 k, .string id, .int .i64 n, .slice none 0 0] 56)) = W0) := hW0
  have HB : Hid (Below w.heap.size w W0) := by show Below _ _ _; rw [← hW0]; exact (((Below.refl _ _).alloc (Nat.le_refl _) _).alloc (by simp) _).alloc (by simp; omega) _
  have HZ : Hid (W0.heap.size = w.heap.size + 3) := by show _ = _; rw [← hW0]; simp
  have HR : Hid (BoxN W0 (w.heap.size + 1) 56 [.int .i64 0, .int .i64 0, .int .i64 0, .string ⟨#[]⟩, .int .i64 0, .slice none 0 0]) := by
    show BoxN _ _ _ _
    rw [← hW0]
    have := (BoxN.new (w.alloc (.cells #[.int .i64 e, .int .i64 q, .int .i64 k, .string id, .int .i64 n, .slice a d ca] 62)) 56 [.int .i64 0, .int .i64 0, .int .i64 0, .string ⟨#[]⟩, .int .i64 0, .slice none 0 0]).alloc (.cells #[.int .i64 e, .int .i64 q, .int .i64 k, .string id, .int .i64 n, .slice none 0 0] 56)
    rw [World.size_alloc] at this
    exact this
  have HO : Hid (BoxN W0 (w.heap.size + 1 + 1) 56 [.int .i64 e, .int .i64 q, .int .i64 k, .string id, .int .i64 n, .slice none 0 0]) := by
    show BoxN _ _ _ _
    rw [← hW0]
    have := BoxN.new ((w.alloc (.cells #[.int .i64 e, .int .i64 q, .int .i64 k, .string id, .int .i64 n, .slice a d ca] 62)).alloc (.cells #[.int .i64 0, .int .i64 0, .int .i64 0, .string ⟨#[]⟩, .int .i64 0, .slice none 0 0] 56)) 56 [.int .i64 e, .int .i64 q, .int .i64 k, .string id, .int .i64 n, .slice none 0 0]
    rw [World.size_alloc, World.size_alloc] at this
    exact this
  clear hW0
  go_enter Tryd.func32, Tryd.ntmps32
  go_wp2_with fail
  rw [HE.out]
  clear HE
  refine (toByteS_any a d ca zs _ (HS.out.below HB.out) (by omega)).mono ?_
  rintro r x3 ⟨rfl, ho3, hb3⟩
  have r3 := HR.out.stays hb3
  have o3 := HO.out.stays hb3
  have HO3 : Hid (Owns x3 W0.heap.size (some ⟨W0.heap.size, 0, none⟩) d d zs) := ⟨ho3, HS.out.2.1⟩
  have HB3 : Hid (Below w.heap.size w x3) := HB.out.trans (hb3.mono HB.out.size)
  have a0 := r3.cell 0 rfl
  have a1 := r3.cell 1 rfl
  have a2 := r3.cell 2 rfl
  have a3 := r3.cell 3 rfl
  have a4 := r3.cell 4 rfl
  have a5 := r3.cell 5 rfl
  have fa0 := r3.frozen 0
  have fa1 := r3.frozen 1
  have fa2 := r3.frozen 2
  have fa3 := r3.frozen 3
  have fa4 := r3.frozen 4
  have fa5 := r3.frozen 5
  have b0 := o3.cell 0 rfl
  have b1 := o3.cell 1 rfl
  have b2 := o3.cell 2 rfl
  have b3 := o3.cell 3 rfl
  have b4 := o3.cell 4 rfl
  have b5 := o3.cell 5 rfl
  have fb5 := o3.frozen 5
  clear hb3 ho3 r3 o3 HR HO
  go_wp2
  refine bodyPost_ret (v := .agg #[.int .i64 e, .int .i64 q, .int .i64 k, .string id, .int .i64 n, .slice (some ⟨W0.heap.size, 0, none⟩) d d]) (by simp [results, Tryd.f32, go_sem, a0, a1, a2, a3, a4, a5]) rfl ?_
  have hz := HZ.out
  refine ⟨⟨_, rfl, ?_⟩, ?_⟩
  · have hA : ((some ⟨W0.heap.size, 0, none⟩ : Option Addr).map (·.block)) ≠ some (w.heap.size + 1) := by simp; omega
    have hB : ((some ⟨W0.heap.size, 0, none⟩ : Option Addr).map (·.block)) ≠ some (w.heap.size + 1 + 1) := by simp; omega
    exact owns_lowR (owns_set (owns_set (owns_set (owns_set (owns_set (owns_set (owns_set HO3.out hB) hA) hA) hA) hA) hA) hA) (by omega)
  · exact ((((((HB3.out.setCell (by dsimp only; omega) _).setCell (by dsimp only; omega) _).setCell (by dsimp only; omega) _).setCell (by dsimp only; omega) _).setCell (by dsimp only; omega) _).setCell (by dsimp only; omega) _).setCell (by dsimp only; omega) _

set_option maxHeartbeats 1600000 in
theorem eqRec_same (e q k : Int) (id : ByteArray) (n : Int) (a b : Option Addr) (d ca cb : Nat) (xs : List Int) (w : World) (hx : Seg w a d xs) (hy : Seg w b d xs) (hla : d ≤ 1099511627776) :
    Calls Tryd.prog 36 #[.agg #[.int .i64 e, .int .i64 q, .int .i64 k, .string id, .int .i64 n, .slice a d ca], .agg #[.int .i64 e, .int .i64 q, .int .i64 k, .string id, .int .i64 n, .slice b d cb]] w fun r w' => r = .returned (.bool true) ∧ Below w.heap.size w w' := by
  have HX : Hid (Seg w a d xs) := hx
  have HY : Hid (Seg w b d xs) := hy
  clear hx hy
  have n0 : (e != e) = false := by simp
  have n1 : (q != q) = false := by simp
  have n2 : (k != k) = false := by simp
  have n4 : (n != n) = false := by simp
  go_enter Tryd.func36, Tryd.ntmps36
  go_wp2_with fail
  have hba : Below w.heap.size w ((w.alloc (.cells #[.int .i64 e, .int .i64 q, .int .i64 k, .string id, .int .i64 n, .slice a d ca] 56)).alloc (.cells #[.int .i64 e, .int .i64 q, .int .i64 k, .string id, .int .i64 n, .slice b d cb] 56)) := ((Below.refl _ _).alloc (Nat.le_refl _) _).alloc (by simp) _
  refine (eqByteS_same a b d ca cb xs _ (HX.out.below hba) (HY.out.below hba) hla).mono ?_
  rintro r x3 ⟨rfl, st3⟩
  have HB3 : Hid (Below w.heap.size w x3) := Still.below st3 hba
  clear st3 hba
  go_wp2
  go_ret
  exact ⟨rfl, HB3.out⟩

end Go.Proofs.YtogopmngbjkcjatDoor


