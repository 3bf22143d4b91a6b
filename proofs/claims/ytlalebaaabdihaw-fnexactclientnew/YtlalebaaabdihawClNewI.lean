/- What the program's ClientNew answers. -/
import Derived.Test.YtlalebaaabdihawClNewN
import Derived.Test.YtlalebaaabdihawClOkI
import Derived.Test.YtlalebaaabdihawBoxN
import Derived.Test.YtlalebaaabdihawClCopyI
import Derived.Deep.CutBlock
namespace Go.Proofs.Ytlalebaaabdihaw
open Go.RowKit
set_option linter.unusedVariables false

set_option maxRecDepth 10000 in
set_option maxHeartbeats 1600000 in
theorem implClNew_any (id : ByteArray) (a : Option Addr) (n ca : Nat) (zs : List Int) (w : World) (hs : Seg w a n zs) (hi : id.size ≤ maxLen) (hn : n ≤ 1048576) :
    Calls Try.prog 13 #[.string id, .slice a n ca] w fun e w' => (∃ a' c', e = .returned (.agg #[.string (newI id n), .slice a' (newL id n) c', .int .i64 (newS id n), .int .i64 0]) ∧ Owns w' w.heap.size a' (newL id n) c' (newZ id n zs)) ∧ Below w.heap.size w w' := by
  have HS : Hid (Seg w a n zs) := hs
  clear hs
  go_enter Try.func13, Try.ntmps13
  go_upto_region 2 with fail
  obtain ⟨W5, hW5⟩ : ∃ W5, (w.alloc (.cells #[.string ⟨#[]⟩, .slice none 0 0, .int .i64 0, .int .i64 0] 28)).alloc (.cells #[.string id, .slice a n ca, .int .i64 1, .int .i64 0] 28) = W5 := ⟨_, rfl⟩
  obtain ⟨bo, hbo⟩ : ∃ bo, w.heap.size + 1 = bo := ⟨_, rfl⟩
  have hq : BoxN W5 bo 28 [.string id, .slice a n ca, .int .i64 1, .int .i64 0] := by
    rw [← hW5, ← hbo]
    have := BoxN.new (w.alloc (.cells #[.string ⟨#[]⟩, .slice none 0 0, .int .i64 0, .int .i64 0] 28)) 28 [.string id, .slice a n ca, .int .i64 1, .int .i64 0]
    rwa [World.size_alloc] at this
  have hB5 : Below w.heap.size w W5 := by rw [← hW5]; exact ((Below.refl _ _).alloc (Nat.le_refl _) _).alloc (by simp) _
  have HQ : Hid (BoxN W5 bo 28 [.string id, .slice a n ca, .int .i64 1, .int .i64 0] ∧ BoxN W5 w.heap.size 28 [.string ⟨#[]⟩, .slice none 0 0, .int .i64 0, .int .i64 0] ∧ Seg W5 a n zs ∧ Below w.heap.size w W5 ∧ w.heap.size + 1 ≤ bo) := by
    refine ⟨hq, ?_, HS.out.below hB5, hB5, by omega⟩
    rw [← hW5]
    exact (BoxN.new _ _ _).alloc _
  rw [hW5, hbo]
  clear hW5 hbo hq hB5
  have c0 := HQ.out.1.cell 0 rfl
  have c1 := HQ.out.1.cell 1 rfl
  have c2 := HQ.out.1.cell 2 rfl
  have c3 := HQ.out.1.cell 3 rfl
  go_wp2_with fail
  refine (implClOk_any id a n ca 1 0 W5 (by omega) (by omega)).mono ?_
  rintro e W6 ⟨rfl, hb6⟩
  have HR6 : Hid (BoxN W6 w.heap.size 28 [.string ⟨#[]⟩, .slice none 0 0, .int .i64 0, .int .i64 0]) := HQ.out.2.1.stays hb6
  have HB6 : Hid (Below w.heap.size w W6) := HQ.out.2.2.2.1.trans (hb6.mono HQ.out.2.2.2.1.size)
  have HQ6 : Hid (BoxN W6 bo 28 [.string id, .slice a n ca, .int .i64 1, .int .i64 0]) := HQ.out.1.stays hb6
  have HO6 : Hid (Seg W6 a n zs) := HS.out.below HB6.out
  have HLB : Hid (w.heap.size + 1 ≤ bo) := HQ.out.2.2.2.2
  clear HQ hb6 c0 c1 c2 c3
  by_cases hok : okC id n 1 0 = true
  case neg =>
    have e1 : newI id n = ⟨#[]⟩ := if_neg hok
    have e2 : newL id n = 0 := if_neg hok
    have e3 : newZ id n zs = [] := if_neg hok
    have e4 : newS id n = 0 := if_neg hok
    have HEq : Hid (newI id n = ⟨#[]⟩ ∧ newL id n = 0 ∧ newZ id n zs = [] ∧ newS id n = 0) := ⟨e1, e2, e3, e4⟩
    clear e1 e2 e3 e4
    rw [Bool.not_eq_true] at hok
    rw [hok]
    clear hok
    have g0 := HR6.out.cell 0 rfl
    have g1 := HR6.out.cell 1 rfl
    have g2 := HR6.out.cell 2 rfl
    have g3 := HR6.out.cell 3 rfl
    have f0 := HR6.out.frozen 0
    have f1 := HR6.out.frozen 1
    have f2 := HR6.out.frozen 2
    have f3 := HR6.out.frozen 3
    have HBe : Hid (Below w.heap.size w ((((W6.setCell ⟨w.heap.size, 0, none⟩ (.string ⟨#[]⟩)).setCell ⟨w.heap.size, 1, none⟩ (.slice none 0 0)).setCell ⟨w.heap.size, 2, none⟩ (.int .i64 0)).setCell ⟨w.heap.size, 3, none⟩ (.int .i64 0))) := by
      show Below _ _ _
      repeat (refine Below.setCell ?_ (by dsimp only; omega) _)
      exact HB6.out
    clear HR6 HQ6 HO6
    go_wp2_with fail
    refine bodyPost_ret (v := .agg #[.string ⟨#[]⟩, .slice none 0 0, .int .i64 0, .int .i64 0]) (by simp [results, Try.f13, go_sem, g0, g1, g2, g3]) rfl ?_
    obtain ⟨e1, e2, e3, e4⟩ := HEq.out
    rw [e1, e2, e3, e4]
    exact ⟨⟨none, 0, rfl, ⟨⟨rfl, .inl ⟨rfl, rfl⟩⟩, by simp⟩⟩, HBe.out⟩
  have e1 : newI id n = id := if_pos hok
  have e2 : newL id n = n := if_pos hok
  have e3 : newZ id n zs = zs := if_pos hok
  have e4 : newS id n = 1 := if_pos hok
  have HEq : Hid (newI id n = id ∧ newL id n = n ∧ newZ id n zs = zs ∧ newS id n = 1) := ⟨e1, e2, e3, e4⟩
  clear e1 e2 e3 e4
  rw [hok]
  clear hok
  have c0 := HQ6.out.cell 0 rfl
  have c1 := HQ6.out.cell 1 rfl
  have c2 := HQ6.out.cell 2 rfl
  have c3 := HQ6.out.cell 3 rfl
  go_wp2_with fail
  refine (copyClI_any id 1 0 a n ca zs W6 HO6.out hn).mono ?_
  rintro e W7 ⟨a4, k4, rfl, og, hb7⟩
  have HR7 : Hid (BoxN W7 w.heap.size 28 [.string ⟨#[]⟩, .slice none 0 0, .int .i64 0, .int .i64 0]) := HR6.out.stays hb7
  have HB7 : Hid (Below w.heap.size w W7) := HB6.out.trans (hb7.mono HB6.out.size)
  have HG7 : Hid (Owns W7 W6.heap.size a4 n k4 zs) := og
  have h67 : w.heap.size < W6.heap.size := HR6.out.lt
  clear og hb7 HR6 HB6 HQ6 HO6 c0 c1 c2 c3
  have g0 := HR7.out.cell 0 rfl
  have g1 := HR7.out.cell 1 rfl
  have g2 := HR7.out.cell 2 rfl
  have g3 := HR7.out.cell 3 rfl
  have f0 := HR7.out.frozen 0
  have f1 := HR7.out.frozen 1
  have f2 := HR7.out.frozen 2
  have f3 := HR7.out.frozen 3
  have hn1 : a4.map (·.block) ≠ some w.heap.size := fun e => by have h3 := (HG7.out.lt _ e).1; omega
  have HW8 : Hid (Owns ((((W7.setCell ⟨w.heap.size, 0, none⟩ (.string id)).setCell ⟨w.heap.size, 1, none⟩ (.slice a4 n k4)).setCell ⟨w.heap.size, 2, none⟩ (.int .i64 1)).setCell ⟨w.heap.size, 3, none⟩ (.int .i64 0)) w.heap.size a4 n k4 zs ∧ Below w.heap.size w ((((W7.setCell ⟨w.heap.size, 0, none⟩ (.string id)).setCell ⟨w.heap.size, 1, none⟩ (.slice a4 n k4)).setCell ⟨w.heap.size, 2, none⟩ (.int .i64 1)).setCell ⟨w.heap.size, 3, none⟩ (.int .i64 0))) := by
    refine ⟨(owns_set (owns_set (owns_set (owns_set HG7.out hn1) hn1) hn1) hn1).low (by omega), ?_⟩
    repeat (refine Below.setCell ?_ (by dsimp only; omega) _)
    exact HB7.out
  clear hn1 HR7 HB7 HG7 h67
  go_wp2_with fail
  refine bodyPost_ret (v := .agg #[.string id, .slice a4 n k4, .int .i64 1, .int .i64 0]) (by simp [results, Try.f13, go_sem, g0, g1, g2, g3]) rfl ?_
  obtain ⟨e1, e2, e3, e4⟩ := HEq.out
  rw [e1, e2, e3, e4]
  exact ⟨⟨a4, k4, rfl, HW8.out.1⟩, HW8.out.2⟩

end Go.Proofs.Ytlalebaaabdihaw
