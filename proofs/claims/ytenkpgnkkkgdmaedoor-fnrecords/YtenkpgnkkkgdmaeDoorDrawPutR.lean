/- The draw of a record. For codes of at most 2^40 bytes. -/
import Derived.Test.YtenkpgnkkkgdmaeDoorDrawRecB
namespace Go.Proofs.YtenkpgnkkkgdmaeDoor
open Go.RowKit
set_option linter.unusedVariables false

set_option maxRecDepth 10000 in
set_option maxHeartbeats 1600000 in
theorem drawPutR_any (a : Option Addr) (len cap : Nat) (zs : List Int) (w : World) (hs : Seg w a len zs) (hl : len ≤ 1099511627776) :
    Calls Tryd.prog 17 #[.slice a len cap] w fun e w' => (∃ v, e = .returned v ∧ DrawnR w.heap.size v w') ∧ Below w.heap.size w w' := by
  obtain ⟨w1, hw1⟩ : ∃ w1, w.alloc (.cells #[.int .i64 0, .int .i64 0, .int .i64 0, .string ⟨#[]⟩, .int .i64 0, .slice none 0 0] 43) = w1 := ⟨_, rfl⟩
  have HE : Hid (w.alloc (.cells #[.int .i64 0, .int .i64 0, .int .i64 0, .string ⟨#[]⟩, .int .i64 0, .slice none 0 0] 43) = w1) := hw1
  have HQ1 : Hid (BoxN w1 w.heap.size 43 [.int .i64 0, .int .i64 0, .int .i64 0, .string ⟨#[]⟩, .int .i64 0, .slice none 0 0]) := by show BoxN _ _ _ _; rw [← hw1]; exact BoxN.new _ _ _
  have HB1 : Hid (Below w.heap.size w w1) := by show Below _ _ _; rw [← hw1]; exact (Below.refl _ _).alloc (Nat.le_refl _) _
  have HS : Hid (Seg w1 a len zs) := hs.below HB1.out
  clear hs hw1
  go_enter Tryd.func17, Tryd.ntmps17
  go_wp2_with fail
  rw [HE.out]
  clear HE
  refine (l1New_any a len cap zs w1 HS.out hl).mono ?_
  rintro e w2 ⟨rfl, hc2, hb2⟩
  have hlt : w.heap.size < w1.heap.size := HQ1.out.lt
  have HQ2 : Hid (BoxN w2 w.heap.size 43 [.int .i64 0, .int .i64 0, .int .i64 0, .string ⟨#[]⟩, .int .i64 0, .slice none 0 0]) := HQ1.out.stays hb2
  have HB2 : Hid (Below w.heap.size w w2) := HB1.out.trans (hb2.mono HB1.out.size)
  obtain ⟨cc, hcc⟩ : ∃ cc, w1.heap.size = cc := ⟨_, rfl⟩
  rw [hcc] at hc2 hlt ⊢
  have HC2 : Hid (Cur w2 cc cc a len cap zs) := hc2
  clear hc2 hb2 HQ1 HB1 HS hcc
  go_wp2_with fail
  refine (l13Any_any cc cc a len cap zs w2 HC2.out hl).mono ?_
  rintro _ w3 ⟨⟨v, rfl, r, A, C, rfl, ho3, hi9, hd25⟩, hc3, hg3⟩
  have hc2l : cc < w2.heap.size := HC2.out.lt
  have HB3 : Hid (Below w.heap.size w w3) := HB2.out.grown hg3 HB2.out.size (fun k e => by injection e with e; omega)
  have q3 := HQ2.out.grown hg3 (fun e => by injection e with e; omega)
  have HF : Hid (∀ (u0 u1 u2 u3 u4 u5 : Value), Owns ((((((w3.setCell ⟨w.heap.size, 0, none⟩ u0).setCell ⟨w.heap.size, 1, none⟩ u1).setCell ⟨w.heap.size, 2, none⟩ u2).setCell ⟨w.heap.size, 3, none⟩ u3).setCell ⟨w.heap.size, 4, none⟩ u4).setCell ⟨w.heap.size, 5, none⟩ u5) w.heap.size A r.zs.length C r.zs) := fun u0 u1 u2 u3 u4 u5 => by
    have hA : A.map (·.block) ≠ some w.heap.size := fun e => by have := (ho3.lt _ e).1; omega
    exact owns_lowV (owns_set (owns_set (owns_set (owns_set (owns_set (owns_set ho3 hA) hA) hA) hA) hA) hA) (by omega)
  have r0 := q3.cell 0 rfl
  have r1 := q3.cell 1 rfl
  have r2 := q3.cell 2 rfl
  have r3 := q3.cell 3 rfl
  have r4 := q3.cell 4 rfl
  have r5 := q3.cell 5 rfl
  have f0 := q3.frozen 0
  have f1 := q3.frozen 1
  have f2 := q3.frozen 2
  have f3 := q3.frozen 3
  have f4 := q3.frozen 4
  have f5 := q3.frozen 5
  clear ho3 hc3 hg3 q3 HQ2 HC2 HB2
  go_wp2_with fail
  refine bodyPost_ret (v := .agg #[.int .i64 r.e, .int .i64 r.q, .int .i64 r.k, .string r.id, .int .i64 r.n, .slice A r.zs.length C]) (by simp [results, Tryd.f17, go_sem, r0, r1, r2, r3, r4, r5]) rfl ?_
  exact ⟨⟨_, rfl, r, A, C, rfl, HF.out _ _ _ _ _ _, hi9, hd25⟩, (((((HB3.out.setCell (Nat.le_refl _) _).setCell (Nat.le_refl _) _).setCell (Nat.le_refl _) _).setCell (Nat.le_refl _) _).setCell (Nat.le_refl _) _).setCell (Nat.le_refl _) _⟩

end Go.Proofs.YtenkpgnkkkgdmaeDoor
