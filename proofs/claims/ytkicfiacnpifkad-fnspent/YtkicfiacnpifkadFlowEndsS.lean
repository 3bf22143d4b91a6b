/- What the specification's l10Ends answers: the new flow where all is right, else a copy of the old one. -/
import Derived.Test.YtkicfiacnpifkadFlowOkS
import Derived.Test.YtkicfiacnpifkadFlowCopyS
import Derived.Deep.CutBlock
namespace Go.Proofs.Ytkicfiacnpifkad
open Go.RowKit
set_option linter.unusedVariables false

theorem box3_at1 (w : World) (o1 : Obj) (t : TypeId) (x y z : Value) : Box3 ((w.alloc o1).alloc (.cells #[x, y, z] t)) (w.heap.size + 1) t x y z := by
  have := Box3.new (w.alloc o1) t x y z
  rwa [World.size_alloc] at this

theorem box3_at2 (w : World) (o1 o2 : Obj) (t : TypeId) (x y z : Value) : Box3 (((w.alloc o1).alloc o2).alloc (.cells #[x, y, z] t)) (w.heap.size + 1 + 1) t x y z := by
  have := Box3.new ((w.alloc o1).alloc o2) t x y z
  rwa [World.size_alloc, World.size_alloc] at this

/-- What a call ends with. -/
noncomputable def endsF (c i : Int) (l : List Lane) (c' i' : Int) (l' : List Lane) (ok : Bool) : (Int × Int × List Lane) × Bool :=
  if ok && okB c i l && okB c' i' l' then ((c', i', l'), true) else ((c, i, l), false)

/-- An answer: a flow whose lanes lie in memory from base on, and whether it is told. -/
def AnsF (base : Nat) (R : (Int × Int × List Lane) × Bool) (e : Ending) (w' : World) : Prop :=
  ∃ A C, e = .returned (.tuple #[.agg #[.int .i64 R.1.1, .int .i64 R.1.2.1, .slice A R.1.2.2.length C], .bool R.2]) ∧ OwnL w' base A R.1.2.2.length C R.1.2.2

set_option maxRecDepth 10000 in
set_option maxHeartbeats 1600000 in
theorem specEnds_any (c i : Int) (a : Option Addr) (len cap : Nat) (l : List Lane) (c' i' : Int) (a' : Option Addr) (len' cap' : Nat) (l' : List Lane) (ok : Bool) (base : Nat) (w : World) (hs : Lanes w a len l) (hl : len ≤ 1048576) (ho : OwnL w base a' len' cap' l') (hl' : len' ≤ 1099511627776) (hb : base ≤ w.heap.size) :
    Calls Try.prog 40 #[.agg #[.int .i64 c, .int .i64 i, .slice a len cap], .agg #[.int .i64 c', .int .i64 i', .slice a' len' cap'], .bool ok] w fun e w' => AnsF base (endsF c i l c' i' l' ok) e w' ∧ Below w.heap.size w w' := by
  have HSl : Hid (l.length = len) := hs.1
  have HSl' : Hid (l'.length = len') := ho.len
  obtain ⟨W3, hW3⟩ : ∃ W3, ((w.alloc (.cells #[.int .i64 c, .int .i64 i, .slice a len cap] 36)).alloc (.cells #[.int .i64 c', .int .i64 i', .slice a' len' cap'] 36)).alloc (.cells #[.int .i64 0, .int .i64 0, .slice none 0 0] 36) = W3 := ⟨_, rfl⟩
  have HE : Hid (((w.alloc (.cells #[.int .i64 c, .int .i64 i, .slice a len cap] 36)).alloc (.cells #[.int .i64 c', .int .i64 i', .slice a' len' cap'] 36)).alloc (.cells #[.int .i64 0, .int .i64 0, .slice none 0 0] 36) = W3) := hW3
  have HB3 : Hid (Below w.heap.size w W3) := by show Below _ _ _; rw [← hW3]; exact (((Below.refl _ _).alloc (Nat.le_refl _) _).alloc (by simp) _).alloc (by simp; omega) _
  have q1 : Box3 W3 w.heap.size 36 (.int .i64 c) (.int .i64 i) (.slice a len cap) := by rw [← hW3]; exact ((Box3.new _ _ _ _ _).alloc _).alloc _
  have q2 : Box3 W3 (w.heap.size + 1) 36 (.int .i64 c') (.int .i64 i') (.slice a' len' cap') := by rw [← hW3]; exact (box3_at1 _ _ _ _ _ _).alloc _
  have q3 : Box3 W3 (w.heap.size + 1 + 1) 36 (.int .i64 0) (.int .i64 0) (.slice none 0 0) := by rw [← hW3]; exact box3_at2 _ _ _ _ _ _ _
  have HQ : Hid (∀ W, Below W3.heap.size W3 W → Box3 W w.heap.size 36 (.int .i64 c) (.int .i64 i) (.slice a len cap) ∧ Box3 W (w.heap.size + 1) 36 (.int .i64 c') (.int .i64 i') (.slice a' len' cap') ∧ Box3 W (w.heap.size + 1 + 1) 36 (.int .i64 0) (.int .i64 0) (.slice none 0 0) ∧ Lanes W a len l ∧ OwnL W base a' len' cap' l' ∧ Below w.heap.size w W) := fun W h => by
    have hw : Below w.heap.size w W := HB3.out.trans (h.mono HB3.out.size)
    exact ⟨q1.stays h, q2.stays h, q3.stays h, hs.below hw, ho.below hw, hw⟩
  clear hW3 q1 q2 q3 hs ho HB3
  have HHb : Hid (base ≤ w.heap.size) := hb
  clear hb
  go_enter Try.func40, Try.ntmps40
  go_upto_region 1 with fail
  rw [HE.out]
  clear HE
  obtain ⟨c0, c1, c2⟩ := (HQ.out _ (Below.refl _ _)).1.cells
  go_cut [19] from 8 (fun v W => v = .bool (!(ok && okB c i l && okB c' i' l')) ∧ Hid (Below W3.heap.size W3 W))
  case first =>
    cases ok
    · go_wp2_with fail
      go_meet
      exact ⟨rfl, Below.refl _ _⟩
    · go_wp2_with fail
      refine (specFok_any c i a len cap l _ (HQ.out _ (Below.refl _ _)).2.2.2.1 (by omega)).mono ?_
      rintro e x1 ⟨rfl, hb1⟩
      have HX1 : Hid (Below W3.heap.size W3 x1) := hb1
      clear hb1 c0 c1 c2
      generalize okB c i l = o1 at *
      cases o1
      · go_wp2_with fail
        go_meet
        exact ⟨rfl, HX1⟩
      · obtain ⟨d0, d1, d2⟩ := (HQ.out _ HX1.out).2.1.cells
        go_wp2_with fail
        refine (specFok_any c' i' a' len' cap' l' _ (HQ.out _ HX1.out).2.2.2.2.1.lanes hl').mono ?_
        rintro e x2 ⟨rfl, hb2⟩
        have HX2 : Hid (Below W3.heap.size W3 x2) := HX1.out.trans (hb2.mono HX1.out.size)
        clear hb2 d0 d1 d2
        generalize okB c' i' l' = o2 at *
        cases o2
        all_goals
          go_wp2_with fail
          go_meet
          exact ⟨rfl, HX2⟩
  case rest =>
  obtain ⟨rfl, HBc⟩ := hcut
  obtain ⟨x3, hx3⟩ : ∃ x3, wc = x3 := ⟨_, rfl⟩
  rw [hx3] at HBc ⊢
  clear hx3 c0 c1 c2
  obtain ⟨q1, q2, q3, q4, q5, q6⟩ := HQ.out _ HBc.out
  obtain ⟨c0, c1, c2⟩ := q1.cells
  obtain ⟨d0, d1, d2⟩ := q2.cells
  obtain ⟨g0, g1, g2⟩ := q3.cells
  have f0 := q3.frozen 0
  have f1 := q3.frozen 1
  have f2 := q3.frozen 2
  have hsz : w.heap.size + 1 + 1 < x3.heap.size := q3.lt
  have HX : Hid (Box3 x3 (w.heap.size + 1 + 1) 36 (.int .i64 0) (.int .i64 0) (.slice none 0 0)) := q3
  have HLn : Hid (Lanes x3 a len l) := q4
  have HOn : Hid (OwnL x3 base a' len' cap' l') := q5
  have HBw : Hid (Below w.heap.size w x3) := q6
  clear q1 q2 q3 q4 q5 q6 HQ HBc
  obtain ⟨o, hoo⟩ : ∃ o, (ok && okB c i l && okB c' i' l') = o := ⟨_, rfl⟩
  have HF : Hid (endsF c i l c' i' l' ok = if o then ((c', i', l'), true) else ((c, i, l), false)) := by show _ = _; rw [endsF, hoo]
  rw [hoo]
  clear hoo
  cases o
  · simp only [Bool.not_false]
    clear d0 d1 d2
    go_wp2_with fail
    refine (specFcopy_any c i a len cap l _ HLn.out hl).mono ?_
    rintro e x4 ⟨a4, k4, rfl, ho4, hb4⟩
    have HX4 := HX.out.stays hb4
    obtain ⟨g0, g1, g2⟩ := HX4.cells
    have f0 := HX4.frozen 0
    have f1 := HX4.frozen 1
    have f2 := HX4.frozen 2
    have hn : a4.map (·.block) ≠ some (w.heap.size + 1 + 1) := fun e => by have h3 := (ho4.lt _ e).1; omega
    have HR : Hid (OwnL (((x4.setCell ⟨w.heap.size + 1 + 1, 0, none⟩ (.int .i64 c)).setCell ⟨w.heap.size + 1 + 1, 1, none⟩ (.int .i64 i)).setCell ⟨w.heap.size + 1 + 1, 2, none⟩ (.slice a4 len k4)) base a4 len k4 l ∧ Below w.heap.size w (((x4.setCell ⟨w.heap.size + 1 + 1, 0, none⟩ (.int .i64 c)).setCell ⟨w.heap.size + 1 + 1, 1, none⟩ (.int .i64 i)).setCell ⟨w.heap.size + 1 + 1, 2, none⟩ (.slice a4 len k4))) := by
      have h4 : Below w.heap.size w x4 := HBw.out.trans (hb4.mono HBw.out.size)
      refine ⟨(ownL_set3 ho4 hn _ _ _).low (by have := HHb.out; omega), ?_⟩
      exact below_set3 h4 (by omega) _ _ _
    clear HX4 hb4 ho4 hn
    go_wp2
    refine bodyPost_ret (v := .tuple #[.agg #[.int .i64 c, .int .i64 i, .slice a4 len k4], .bool false]) (by simp [results, Try.f40, go_sem, g0, g1, g2]) rfl ?_
    have h := HSl.out
    subst h
    show AnsF _ _ _ _ ∧ _
    rw [HF.out]
    exact ⟨⟨a4, k4, rfl, HR.out.1⟩, HR.out.2⟩
  · simp only [Bool.not_true]
    clear c0 c1 c2
    have hne : Hid (a'.map (·.block) ≠ some (w.heap.size + 1 + 1)) := HOn.out.other (show x3.heap[w.heap.size + 1 + 1]? = _ from HX.out) (by decide)
    have HR : Hid (OwnL (((x3.setCell ⟨w.heap.size + 1 + 1, 0, none⟩ (.int .i64 c')).setCell ⟨w.heap.size + 1 + 1, 1, none⟩ (.int .i64 i')).setCell ⟨w.heap.size + 1 + 1, 2, none⟩ (.slice a' len' cap')) base a' len' cap' l' ∧ Below w.heap.size w (((x3.setCell ⟨w.heap.size + 1 + 1, 0, none⟩ (.int .i64 c')).setCell ⟨w.heap.size + 1 + 1, 1, none⟩ (.int .i64 i')).setCell ⟨w.heap.size + 1 + 1, 2, none⟩ (.slice a' len' cap'))) := by
      refine ⟨ownL_set3 HOn.out hne.out _ _ _, ?_⟩
      exact below_set3 HBw.out (by omega) _ _ _
    clear hne
    go_wp2
    refine bodyPost_ret (v := .tuple #[.agg #[.int .i64 c', .int .i64 i', .slice a' len' cap'], .bool true]) (by simp [results, Try.f40, go_sem, g0, g1, g2]) rfl ?_
    have h := HSl'.out
    subst h
    show AnsF _ _ _ _ ∧ _
    rw [HF.out]
    exact ⟨⟨a', cap', rfl, HR.out.1⟩, HR.out.2⟩

end Go.Proofs.Ytkicfiacnpifkad
