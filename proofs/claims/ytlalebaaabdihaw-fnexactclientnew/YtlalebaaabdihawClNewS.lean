/- What the specification's ClientNew answers. -/
import Derived.Test.YtlalebaaabdihawClNewN
import Derived.Test.YtlalebaaabdihawClOkS
import Derived.Test.YtlalebaaabdihawBoxN
import Derived.Test.YtlalebaaabdihawTabStep
import Derived.Test.YtlalebaaabdihawSegSrc
import Derived.Deep.CutBlock
namespace Go.Proofs.Ytlalebaaabdihaw
open Go.RowKit
set_option linter.unusedVariables false

set_option maxRecDepth 10000 in
set_option maxHeartbeats 1600000 in
theorem specClNew_any (id : ByteArray) (a : Option Addr) (n ca : Nat) (zs : List Int) (w : World) (hs : Seg w a n zs) (hi : id.size ≤ maxLen) (hn : n ≤ 1048576) :
    Calls Try.prog 11 #[.string id, .slice a n ca] w fun e w' => (∃ a' c', e = .returned (.agg #[.string (newI id n), .slice a' (newL id n) c', .int .i64 (newS id n), .int .i64 0]) ∧ Owns w' w.heap.size a' (newL id n) c' (newZ id n zs)) ∧ Below w.heap.size w w' := by
  obtain ⟨i0, hi0, hz0, hz1, hz2⟩ := info_parts Try.info5
  have HN : Hid (a = none → n = 0) := seg_nil hs
  have hzl := hs.1
  have HS : Hid (Seg w a n zs) := hs
  clear hs
  go_enter Try.func11, Try.ntmps11
  go_upto_region 1 with fail
  obtain ⟨W1, hW1⟩ : ∃ W1, w.alloc (.cells #[.string ⟨#[]⟩, .slice none 0 0, .int .i64 0, .int .i64 0] 28) = W1 := ⟨_, rfl⟩
  have hB1 : Below w.heap.size w W1 := by rw [← hW1]; exact (Below.refl _ _).alloc (Nat.le_refl _) _
  have hR1 : BoxN W1 w.heap.size 28 [.string ⟨#[]⟩, .slice none 0 0, .int .i64 0, .int .i64 0] := by rw [← hW1]; exact BoxN.new _ _ _
  have hsz1 : W1.heap.size = w.heap.size + 1 := by rw [← hW1]; simp
  have HE : Hid (w.alloc (.cells #[.string ⟨#[]⟩, .slice none 0 0, .int .i64 0, .int .i64 0] 28) = W1) := hW1
  clear hW1
  have hbA : Below W1.heap.size W1 (W1.alloc (.cells #[] 5)) := (Below.refl _ _).alloc (Nat.le_refl _) _
  have HO1 : Hid ((W1.alloc (.cells #[] 5)).ownsRow W1.heap.size 5 1 (.slice (some ⟨W1.heap.size, 0, none⟩) 0 0) 0 []) := World.ownsRow_lit W1 #[] 0 (Nat.le_refl _) (Nat.zero_le _) rfl
  have HSA : Hid (Seg (W1.alloc (.cells #[] 5)) a n zs) := HS.out.below (hB1.trans (hbA.mono hB1.size))
  have HB1 : Hid (Below w.heap.size w W1) := hB1
  have HR1 : Hid (BoxN W1 w.heap.size 28 [.string ⟨#[]⟩, .slice none 0 0, .int .i64 0, .int .i64 0]) := hR1
  have HZ1 : Hid (W1.heap.size = w.heap.size + 1) := hsz1
  clear hB1 hR1 hbA hsz1
  rw [HE.out]
  clear HE
  go_wp2_with (first | (refine wpList_plain rfl fun K hK => ?_; refine wp_append_src (.tmp 7) (.tmp 8) 22 rfl W1.heap.size 5 i0 (.int .u8 0) 1 1 Try.underlying22 hi0 hz0 hz1 hz2 rfl (by decide) W1.heap.size 0 0 [] rfl HO1.out a n ca (zs.map (Value.int .u8)) rfl HN.out (by simp [hzl]) (seg_src HSA.out) (ints_one zs) (by unfold maxLen; omega) (by omega) (by simp) ?_; intro v4 W4 hown4 hgrow4; obtain ⟨a4, k4, rfl⟩ := shape_of_owns hown4; refine Hid.out ?_) | fail)
  refine hidden ?_
  have hb4 : Below W1.heap.size W1 W4 := ((Below.refl _ _).alloc (Nat.le_refl _) _).grown hgrow4 (by simp) (by simp)
  have HG4 : Hid (Owns W4 W1.heap.size a4 n k4 zs) := ⟨by rw [Nat.zero_add] at hown4; simpa using hown4, HS.out.2.1⟩
  obtain ⟨W5, hW5⟩ : ∃ W5, W4.alloc (.cells #[.string id, .slice a4 n k4, .int .i64 1, .int .i64 0] 28) = W5 := ⟨_, rfl⟩
  obtain ⟨bo, hbo⟩ : ∃ bo, W4.heap.size = bo := ⟨_, rfl⟩
  have h45 : Below W4.heap.size W4 (W4.alloc (.cells #[.string id, .slice a4 n k4, .int .i64 1, .int .i64 0] 28)) := (Below.refl _ _).alloc (Nat.le_refl _) _
  have HQ : Hid (BoxN W5 bo 28 [.string id, .slice a4 n k4, .int .i64 1, .int .i64 0] ∧ BoxN W5 w.heap.size 28 [.string ⟨#[]⟩, .slice none 0 0, .int .i64 0, .int .i64 0] ∧ Owns W5 W1.heap.size a4 n k4 zs ∧ Below w.heap.size w W5 ∧ w.heap.size + 1 ≤ bo) := by
    show _ ∧ _
    rw [← hW5, ← hbo]
    exact ⟨BoxN.new _ _ _, HR1.out.stays (hb4.trans (h45.mono hb4.size)), HG4.out.below h45, HB1.out.trans ((hb4.trans (h45.mono hb4.size)).mono HB1.out.size), by have := hb4.size; have := HZ1.out; omega⟩
  have HEW : Hid (_ = W5) := hW5
  have HEb : Hid (_ = bo) := hbo
  clear hown4 hgrow4 hb4 h45 hW5 hbo HO1 HSA
  go_upto_region 2 with fail
  rw [HEW.out, HEb.out]
  clear HEW HEb
  have c0 := HQ.out.1.cell 0 rfl
  have c1 := HQ.out.1.cell 1 rfl
  have c2 := HQ.out.1.cell 2 rfl
  have c3 := HQ.out.1.cell 3 rfl
  go_wp2_with fail
  refine (specClOk_any id a4 n k4 1 0 W5 (by omega) (by omega)).mono ?_
  rintro e W6 ⟨rfl, hb6⟩
  have HR6 : Hid (BoxN W6 w.heap.size 28 [.string ⟨#[]⟩, .slice none 0 0, .int .i64 0, .int .i64 0]) := HQ.out.2.1.stays hb6
  have HB6 : Hid (Below w.heap.size w W6) := HQ.out.2.2.2.1.trans (hb6.mono HQ.out.2.2.2.1.size)
  have HQ6 : Hid (BoxN W6 bo 28 [.string id, .slice a4 n k4, .int .i64 1, .int .i64 0]) := HQ.out.1.stays hb6
  have HO6 : Hid (Owns W6 W1.heap.size a4 n k4 zs) := HQ.out.2.2.1.below hb6
  have HLB : Hid (w.heap.size + 1 ≤ bo) := HQ.out.2.2.2.2
  clear HQ hb6 c0 c1 c2 c3
  by_cases hok : okC id n 1 0 = true
  case neg =>
    have e1 : newI id n = ⟨#[]⟩ := if_neg hok
    have e2 : newL id n = 0 := if_neg hok
    have e3 : newZ id n zs = [] := if_neg hok
    have e4 : newS id n = 0 := if_neg hok
    have HEq : Hid (newI id n = ⟨#[]⟩ ∧ newL id n = 0 ∧ newZ id n zs = [] ∧ newS id n = 0) := ⟨e1, e2, e3, e4⟩
    clear e1 e2 e3 e4
    rw [Bool.not_eq_true] at hok
    rw [hok]
    clear hok
    have g0 := HR6.out.cell 0 rfl
    have g1 := HR6.out.cell 1 rfl
    have g2 := HR6.out.cell 2 rfl
    have g3 := HR6.out.cell 3 rfl
    have f0 := HR6.out.frozen 0
    have f1 := HR6.out.frozen 1
    have f2 := HR6.out.frozen 2
    have f3 := HR6.out.frozen 3
    have HBe : Hid (Below w.heap.size w ((((W6.setCell ⟨w.heap.size, 0, none⟩ (.string ⟨#[]⟩)).setCell ⟨w.heap.size, 1, none⟩ (.slice none 0 0)).setCell ⟨w.heap.size, 2, none⟩ (.int .i64 0)).setCell ⟨w.heap.size, 3, none⟩ (.int .i64 0))) := by
      show Below _ _ _
      repeat (refine Below.setCell ?_ (by dsimp only; omega) _)
      exact HB6.out
    clear HR6 HQ6 HO6
    go_wp2_with fail
    refine bodyPost_ret (v := .agg #[.string ⟨#[]⟩, .slice none 0 0, .int .i64 0, .int .i64 0]) (by simp [results, Try.f11, go_sem, g0, g1, g2, g3]) rfl ?_
    obtain ⟨e1, e2, e3, e4⟩ := HEq.out
    rw [e1, e2, e3, e4]
    exact ⟨⟨none, 0, rfl, ⟨⟨rfl, .inl ⟨rfl, rfl⟩⟩, by simp⟩⟩, HBe.out⟩
  have e1 : newI id n = id := if_pos hok
  have e2 : newL id n = n := if_pos hok
  have e3 : newZ id n zs = zs := if_pos hok
  have e4 : newS id n = 1 := if_pos hok
  have HEq : Hid (newI id n = id ∧ newL id n = n ∧ newZ id n zs = zs ∧ newS id n = 1) := ⟨e1, e2, e3, e4⟩
  clear e1 e2 e3 e4
  rw [hok]
  clear hok
  have HR7 := HR6
  have HB7 := HB6
  have HG7 := HO6
  have h67 : w.heap.size < W1.heap.size := by have := HZ1.out; omega
  have c0 := HQ6.out.cell 0 rfl
  have c1 := HQ6.out.cell 1 rfl
  have c2 := HQ6.out.cell 2 rfl
  have c3 := HQ6.out.cell 3 rfl
  have g0 := HR7.out.cell 0 rfl
  have g1 := HR7.out.cell 1 rfl
  have g2 := HR7.out.cell 2 rfl
  have g3 := HR7.out.cell 3 rfl
  have f0 := HR7.out.frozen 0
  have f1 := HR7.out.frozen 1
  have f2 := HR7.out.frozen 2
  have f3 := HR7.out.frozen 3
  have hn1 : a4.map (·.block) ≠ some w.heap.size := fun e => by have h3 := (HG7.out.lt _ e).1; omega
  have HW8 : Hid (Owns ((((W6.setCell ⟨w.heap.size, 0, none⟩ (.string id)).setCell ⟨w.heap.size, 1, none⟩ (.slice a4 n k4)).setCell ⟨w.heap.size, 2, none⟩ (.int .i64 1)).setCell ⟨w.heap.size, 3, none⟩ (.int .i64 0)) w.heap.size a4 n k4 zs ∧ Below w.heap.size w ((((W6.setCell ⟨w.heap.size, 0, none⟩ (.string id)).setCell ⟨w.heap.size, 1, none⟩ (.slice a4 n k4)).setCell ⟨w.heap.size, 2, none⟩ (.int .i64 1)).setCell ⟨w.heap.size, 3, none⟩ (.int .i64 0))) := by
    refine ⟨(owns_set (owns_set (owns_set (owns_set HG7.out hn1) hn1) hn1) hn1).low (by omega), ?_⟩
    repeat (refine Below.setCell ?_ (by dsimp only; omega) _)
    exact HB7.out
  clear hn1 HR7 HB7 HG7 h67
  go_wp2_with fail
  refine bodyPost_ret (v := .agg #[.string id, .slice a4 n k4, .int .i64 1, .int .i64 0]) (by simp [results, Try.f11, go_sem, g0, g1, g2, g3]) rfl ?_
  obtain ⟨e1, e2, e3, e4⟩ := HEq.out
  rw [e1, e2, e3, e4]
  exact ⟨⟨a4, k4, rfl, HW8.out.1⟩, HW8.out.2⟩

end Go.Proofs.Ytlalebaaabdihaw
