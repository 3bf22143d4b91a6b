/- The specification's copy of a client. -/
import Derived.Test.YtlalebaaabdihaxDoorBoxN
import Derived.Test.YtlalebaaabdihaxDoorTabStep
import Derived.Test.YtlalebaaabdihaxDoorSegSrc
import Derived.Deep.CutBlock
namespace Go.Proofs.YtlalebaaabdihaxDoor
open Go.RowKit
set_option linter.unusedVariables false

set_option maxRecDepth 10000 in
set_option maxHeartbeats 1600000 in
theorem copyClS_any (id : ByteArray) (st off : Int) (a : Option Addr) (len cap : Nat) (zs : List Int) (w : World) (hs : Seg w a len zs) (hl : len ≤ 1048576) :
    Calls Tryd.prog 13 #[.agg #[.string id, .slice a len cap, .int .i64 st, .int .i64 off]] w fun e w' => ∃ a' cap', e = .returned (.agg #[.string id, .slice a' len cap', .int .i64 st, .int .i64 off]) ∧ Owns w' w.heap.size a' len cap' zs ∧ Below w.heap.size w w' := by
  obtain ⟨i0, hi, hz0, hz1, hz2⟩ := info_parts Tryd.info5
  have HS : Hid (Seg w a len zs) := hs
  have hzl := hs.1
  have HN : Hid (a = none → len = 0) := seg_nil hs
  clear hs
  go_enter Tryd.func13, Tryd.ntmps13
  go_upto_region 1 with fail
  obtain ⟨W2, hW2⟩ : ∃ W2, (w.alloc (.cells #[.string id, .slice a len cap, .int .i64 st, .int .i64 off] 28)).alloc (.cells #[.string ⟨#[]⟩, .slice none 0 0, .int .i64 0, .int .i64 0] 28) = W2 := ⟨_, rfl⟩
  have q1 : BoxN W2 w.heap.size 28 [.string id, .slice a len cap, .int .i64 st, .int .i64 off] := by rw [← hW2]; exact (BoxN.new _ _ _).alloc _
  have q2 : BoxN W2 (w.heap.size + 1) 28 [.string ⟨#[]⟩, .slice none 0 0, .int .i64 0, .int .i64 0] := by
    rw [← hW2]
    have := BoxN.new (w.alloc (.cells #[.string id, .slice a len cap, .int .i64 st, .int .i64 off] 28)) 28 [.string ⟨#[]⟩, .slice none 0 0, .int .i64 0, .int .i64 0]
    rwa [World.size_alloc] at this
  have HB2 : Hid (Below w.heap.size w W2) := by show Below _ _ _; rw [← hW2]; exact ((Below.refl _ _).alloc (Nat.le_refl _) _).alloc (by simp) _
  have HW2 : Hid (W2.heap.size = w.heap.size + 2) := by show _ = _; rw [← hW2]; simp
  have HQ : Hid (∀ W, Below W2.heap.size W2 W → BoxN W w.heap.size 28 [.string id, .slice a len cap, .int .i64 st, .int .i64 off] ∧ BoxN W (w.heap.size + 1) 28 [.string ⟨#[]⟩, .slice none 0 0, .int .i64 0, .int .i64 0]) := fun W h => ⟨q1.stays h, q2.stays h⟩
  rw [hW2]
  clear hW2 q1 q2
  have hbA : Below W2.heap.size W2 (W2.alloc (.cells #[] 5)) := (Below.refl _ _).alloc (Nat.le_refl _) _
  have HO1 : Hid ((W2.alloc (.cells #[] 5)).ownsRow W2.heap.size 5 1 (.slice (some ⟨W2.heap.size, 0, none⟩) 0 0) 0 []) := World.ownsRow_lit W2 #[] 0 (Nat.le_refl _) (Nat.zero_le _) rfl
  have HSA : Hid (Seg (W2.alloc (.cells #[] 5)) a len zs) := HS.out.below (HB2.out.trans (hbA.mono HB2.out.size))
  obtain ⟨c0, c1, c2, c3⟩ := (show _ ∧ _ ∧ _ ∧ _ from ⟨(HQ.out _ hbA).1.cell 0 rfl, (HQ.out _ hbA).1.cell 1 rfl, (HQ.out _ hbA).1.cell 2 rfl, (HQ.out _ hbA).1.cell 3 rfl⟩)
  clear hbA
  go_wp2_with (first | (refine wpList_plain rfl fun K hK => ?_; refine wp_append_src (.tmp 3) (.tmp 5) 22 rfl W2.heap.size 5 i0 (.int .u8 0) 1 1 Tryd.underlying22 hi hz0 hz1 hz2 rfl (by decide) W2.heap.size 0 0 [] rfl HO1.out a len cap (zs.map (Value.int .u8)) rfl HN.out (by simp [hzl]) (seg_src HSA.out) (ints_one zs) (by unfold maxLen; omega) (by omega) (by simp) ?_; intro v4 W4 hown4 hgrow4; obtain ⟨a4, k4, rfl⟩ := shape_of_owns hown4; refine Hid.out ?_) | fail)
  refine hidden ?_
  have hb4 : Below W2.heap.size W2 W4 := ((Below.refl _ _).alloc (Nat.le_refl _) _).grown hgrow4 (by simp) (by simp)
  have HG4 : Hid (Owns W4 W2.heap.size a4 len k4 zs) := ⟨by rw [Nat.zero_add] at hown4; simpa using hown4, HS.out.2.1⟩
  have h2 := HW2.out
  have hbw : Below w.heap.size w W4 := HB2.out.trans (hb4.mono HB2.out.size)
  obtain ⟨p1, p2⟩ := HQ.out _ hb4
  have hn0 : a4.map (·.block) ≠ some w.heap.size := fun e => by have h3 := (HG4.out.lt _ e).1; omega
  have hn1 : a4.map (·.block) ≠ some (w.heap.size + 1) := fun e => by have h3 := (HG4.out.lt _ e).1; omega
  obtain ⟨d0, d1, d2, d3⟩ := (show _ ∧ _ ∧ _ ∧ _ from ⟨p1.cell 0 rfl, p1.cell 1 rfl, p1.cell 2 rfl, p1.cell 3 rfl⟩)
  have f1 := p1.frozen 1
  have p3 := p1.set 1 (.slice a4 len k4)
  have p4 : BoxN (W4.setCell ⟨w.heap.size, 1, none⟩ (.slice a4 len k4)) (w.heap.size + 1) 28 [.string ⟨#[]⟩, .slice none 0 0, .int .i64 0, .int .i64 0] := p2.other (by omega) _
  have HG5 : Hid (Owns (W4.setCell ⟨w.heap.size, 1, none⟩ (.slice a4 len k4)) W2.heap.size a4 len k4 zs) := owns_set HG4.out hn0
  have HB5 : Hid (Below w.heap.size w (W4.setCell ⟨w.heap.size, 1, none⟩ (.slice a4 len k4))) := hbw.setCell (p := ⟨w.heap.size, 1, none⟩) (Nat.le_refl _) _
  obtain ⟨W5, hW5⟩ : ∃ W5, W4.setCell ⟨w.heap.size, 1, none⟩ (.slice a4 len k4) = W5 := ⟨_, rfl⟩
  rw [hW5] at p3 p4 HG5 HB5
  have HX5 : Hid (BoxN W5 w.heap.size 28 [.string id, .slice a4 len k4, .int .i64 st, .int .i64 off] ∧ BoxN W5 (w.heap.size + 1) 28 [.string ⟨#[]⟩, .slice none 0 0, .int .i64 0, .int .i64 0]) := ⟨p3, p4⟩
  have HE5 : Hid (W4.setCell ⟨w.heap.size, 1, none⟩ (.slice a4 len k4) = W5) := hW5
  refine hK _ _ ?_
  clear hK hown4 hgrow4 hb4 hbw p1 p2 p3 p4 HG4 hW5
  go_upto_region 2 with fail
  rw [HE5.out]
  clear c0 c1 c2 c3 d0 d1 d2 d3 f1 HE5
  obtain ⟨c0, c1, c2, c3⟩ := (show _ ∧ _ ∧ _ ∧ _ from ⟨HX5.out.1.cell 0 rfl, HX5.out.1.cell 1 rfl, HX5.out.1.cell 2 rfl, HX5.out.1.cell 3 rfl⟩)
  obtain ⟨g0, g1, g2, g3⟩ := (show _ ∧ _ ∧ _ ∧ _ from ⟨HX5.out.2.cell 0 rfl, HX5.out.2.cell 1 rfl, HX5.out.2.cell 2 rfl, HX5.out.2.cell 3 rfl⟩)
  have f0 := HX5.out.2.frozen 0
  have f1 := HX5.out.2.frozen 1
  have f2 := HX5.out.2.frozen 2
  have f3 := HX5.out.2.frozen 3
  have HO6 : Hid (Owns ((((W5.setCell ⟨w.heap.size + 1, 0, none⟩ (.string id)).setCell ⟨w.heap.size + 1, 1, none⟩ (.slice a4 len k4)).setCell ⟨w.heap.size + 1, 2, none⟩ (.int .i64 st)).setCell ⟨w.heap.size + 1, 3, none⟩ (.int .i64 off)) w.heap.size a4 len k4 zs ∧ Below w.heap.size w ((((W5.setCell ⟨w.heap.size + 1, 0, none⟩ (.string id)).setCell ⟨w.heap.size + 1, 1, none⟩ (.slice a4 len k4)).setCell ⟨w.heap.size + 1, 2, none⟩ (.int .i64 st)).setCell ⟨w.heap.size + 1, 3, none⟩ (.int .i64 off))) := by
    refine ⟨(owns_set (owns_set (owns_set (owns_set HG5.out hn1) hn1) hn1) hn1).low (by omega), ?_⟩
    repeat (refine Below.setCell ?_ (by dsimp only; omega) _)
    exact HB5.out
  clear HG5 HB5 HX5 hn0 hn1 h2
  go_wp2
  refine bodyPost_ret (v := .agg #[.string id, .slice a4 len k4, .int .i64 st, .int .i64 off]) (by simp [results, Tryd.f13, go_sem, g0, g1, g2, g3]) rfl ?_
  exact ⟨_, _, rfl, HO6.out.1, HO6.out.2⟩

end Go.Proofs.YtlalebaaabdihaxDoor
