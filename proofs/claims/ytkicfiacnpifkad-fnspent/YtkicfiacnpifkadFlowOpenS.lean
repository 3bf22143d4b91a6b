/- What the specification's OpenLane answers. -/
import Derived.Test.YtkicfiacnpifkadFlowSt
import Derived.Test.YtkicfiacnpifkadFlowAtS
import Derived.Test.YtkicfiacnpifkadFlowOpenN
import Derived.Test.YtkicfiacnpifkadStepGot
import Derived.Test.YtkicfiacnpifkadLaneCut
import Derived.Deep.CutBlock
import Derived.Deep.RegionWith
import Derived.Deep.RegionHeld3
import Derived.Deep.RegionLaw
namespace Go.Proofs.Ytkicfiacnpifkad
open Go.RowKit
set_option linter.unusedVariables false

/-- A row of one lane in a block. -/
def OneL (W : World) (q : Nat) (p r : Int) : Prop := W.heap[q]? = some (.cells #[.int .i64 p, .int .i64 r] 47 (0, 0))

theorem OneL.new (W : World) (p r : Int) : OneL (W.alloc (.cells #[.int .i64 p, .int .i64 r] 47)) W.heap.size p r := heap_alloc_new W _

theorem OneL.lt {W : World} {q : Nat} {p r : Int} (h : OneL W q p r) : q < W.heap.size := (Array.getElem?_eq_some_iff.1 h).1

theorem OneL.kept {W W' : World} {q : Nat} {p r : Int} {b : Option Nat} (h : OneL W q p r) (hg : W.grownBy W' b) (hb : b ≠ some q) : OneL W' q p r := (hg.block q h.lt (Ne.symm hb)).trans h

theorem OneL.lanes {W : World} {q : Nat} {p r : Int} (h : OneL W q p r) (hp : i64b p) (hr : i64b r) : Lanes W (some ⟨q, 0, none⟩) 1 [(p, r)] := by
  refine ⟨rfl, ?_, .inr ⟨q, 0, rfl, h.lt, fun i hi => ?_⟩⟩
  · intro s hs
    obtain rfl : s = (p, r) := by simpa using hs
    exact ⟨hp, hr⟩
  · obtain rfl : i = 0 := by simpa using hi
    refine ⟨?_, ?_⟩ <;> (rw [cell_of_row _ _ _ _ _ _ h]; rfl)

set_option maxRecDepth 10000 in
set_option maxHeartbeats 3200000 in
theorem specOpen_any (c i : Int) (a : Option Addr) (len cap : Nat) (l : List Lane) (id : Int) (w : World) (hs : Lanes w a len l) (hl : len ≤ 1048576) (hcap : len ≤ cap) (hib : i64b i) (hidb : i64b id) :
    Calls Try.prog 20 #[.agg #[.int .i64 c, .int .i64 i, .slice a len cap], .int .i64 id] w fun e w' => AnsF w.heap.size (openR c i l id) e w' ∧ Below w.heap.size w w' := by
  obtain ⟨i0, hi, hz0, hz1, hz2⟩ := info_parts info_lane
  have HIb : Hid (i64b i) := hib
  have HDb : Hid (i64b id) := hidb
  clear hib hidb
  have HSl : Hid (l.length = len) := hs.1
  have HS : Hid (Lanes w a len l) := hs
  obtain ⟨W2, hW2⟩ : ∃ W2, (w.alloc (.cells #[.int .i64 c, .int .i64 i, .slice a len cap] 36)).alloc (.cells #[.int .i64 0, .int .i64 0, .slice none 0 0] 36) = W2 := ⟨_, rfl⟩
  have HE : Hid ((w.alloc (.cells #[.int .i64 c, .int .i64 i, .slice a len cap] 36)).alloc (.cells #[.int .i64 0, .int .i64 0, .slice none 0 0] 36) = W2) := hW2
  have HB2 : Hid (Below w.heap.size w W2) := by show Below _ _ _; rw [← hW2]; exact ((Below.refl _ _).alloc (Nat.le_refl _) _).alloc (by simp) _
  have HQ1 : Hid (Box3 W2 w.heap.size 36 (.int .i64 c) (.int .i64 i) (.slice a len cap)) := by show Box3 _ _ _ _ _ _; rw [← hW2]; exact (Box3.new _ _ _ _ _).alloc _
  have HQ2 : Hid (Box3 W2 (w.heap.size + 1) 36 (.int .i64 0) (.int .i64 0) (.slice none 0 0)) := by show Box3 _ _ _ _ _ _; rw [← hW2]; exact box3_at1 _ _ _ _ _ _
  clear hW2 hs
  go_enter Try.func20, Try.ntmps20
  go_upto_region 1 with fail
  rw [HE.out]
  clear HE
  obtain ⟨c0, c1, c2⟩ := HQ1.out.cells
  go_wp2_with fail
  refine (specFcopy_any c i a len cap l _ (HS.out.below HB2.out) hl).mono ?_
  rintro e x3 ⟨A, C, rfl, ho3, hb3⟩
  have HF : Hid (FSt w (x3.alloc (.cells #[.int .i64 c, .int .i64 i, .slice A len C] 36)) c i a len cap x3.heap.size c i A len C l) := FSt.new HQ1.out HQ2.out HB2.out ho3 hb3
  clear ho3 hb3 HQ1 HQ2 HB2 c0 c1 c2
  go_upto_region 2 with fail
  obtain ⟨W3, hW3⟩ : ∃ W3, x3.alloc (.cells #[.int .i64 c, .int .i64 i, .slice A len C] 36) = W3 := ⟨_, rfl⟩
  rw [hW3] at HF ⊢
  clear hW3
  generalize x3.heap.size = o at *
  obtain ⟨c0, c1, c2⟩ := HF.out.1.cells
  go_upto_block 0 with fail
  go_cut [7] from 10 (fun v W => ∃ K : Nat, v = .int .i64 K ∧ Hid (lessL id l = K) ∧ Hid (W = W3))
  case first =>
    go_wp2_with fail
    go_loopw [7] (fun v wr => ∃ k : Nat, k ≤ len ∧ v = .int .i64 k ∧ wr = W3 ∧ Hid (∀ j, j < k → (laneAt l j).1 < id)) (fun v _ => len - (intOf v).toNat)
    case atStart => exact ⟨0, Nat.zero_le _, rfl, rfl, fun j hj => absurd hj (Nat.not_lt_zero _)⟩
    case round =>
      obtain ⟨k, hk, rfl, hwr, HN⟩ := hrel
      subst hwr
      by_cases hlt : k < len
      · have hki : (k : Int) < (len : Int) := by omega
        have hk0 : (0 : Int) ≤ (k : Int) := by omega
        obtain ⟨b, off, p, q, rfl, hb, hkx, hp, hq, _, _⟩ := (HF.out.lanes HS.out).at hlt
        have HA : Hid ((laneAt l k).1 = p) := by show _ = _; rw [laneAt_some hkx]
        clear hkx
        by_cases g : p < id
        · have HN2 : Hid (∀ j, j < k + 1 → (laneAt l j).1 < id) := fun j hj => by
            by_cases e : j = k
            · rw [e, HA.out]; exact g
            · exact HN.out j (by omega)
          clear HN HA
          go_wp2_with fail
          go_roundw
          case rel => exact ⟨k + 1, by omega, by go_num, by first | rfl | trivial, HN2⟩
          case measure => simp [intOf]; omega
        · have HE : Hid (lessL id l = k) := lessL_at (by have := HSl.out; omega) HN.out (fun _ => by rw [HA.out]; exact g)
          have gd : decide (p < id) = false := by simpa using g
          clear HN HA g
          go_wp2_with fail
          go_meet
          exact ⟨k, rfl, HE, rfl⟩
      · have HE : Hid (lessL id l = k) := lessL_at (by have := HSl.out; omega) HN.out (fun h => absurd h (by have := HSl.out; omega))
        have hki : ¬ (k : Int) < (len : Int) := by omega
        clear HN
        go_wp2_with fail
        go_meet
        exact ⟨k, rfl, HE, rfl⟩
  case rest =>
  obtain ⟨K, rfl, HLs, HWc⟩ := hcut
  rw [HWc.out]
  clear HWc
  have hKl : K ≤ len := by have h1 := HLs.out; have h2 := HSl.out; have h3 := lessL_le id l; omega
  obtain ⟨d0, d1, d2⟩ := HF.out.2.2.1.cells
  have hsz : w.heap.size + 1 < W3.heap.size := HF.out.2.1.lt
  have hox : o < W3.heap.size := HF.out.2.2.1.lt
  have hoo : w.heap.size + 1 < o := HF.out.2.2.2.2.2
  have ne1 : ¬ w.heap.size = W3.heap.size := by omega
  have ne2 : ¬ w.heap.size = W3.heap.size + 1 := by omega
  go_upto_region 5 with fail
  have HO1 : Hid ((W3.alloc (.cells #[] 47)).drew.ownsRow W3.heap.size 47 2 (.slice (some ⟨W3.heap.size, 0, none⟩) 0 0) 0 []) := World.ownsRow_lit W3 #[] 0 (Nat.le_refl _) (Nat.zero_le _) rfl
  have HB1 : Hid (Below W3.heap.size W3 (W3.alloc (.cells #[] 47)).drew) := ((Below.refl _ _).alloc (Nat.le_refl _) _).drew
  have HO2 : Hid (((W3.alloc (.cells #[] 47)).alloc (.cells #[.int .i64 id, .int .i64 i] 47)).drew.ownsRow W3.heap.size 47 2 (.slice (some ⟨W3.heap.size, 0, none⟩) 0 0) 0 []) := own_below HO1.out ((Below.refl _ _).alloc (Nat.le_refl _) _)
  have HB2 : Hid (Below W3.heap.size W3 ((W3.alloc (.cells #[] 47)).alloc (.cells #[.int .i64 id, .int .i64 i] 47)).drew) := (((Below.refl _ _).alloc (Nat.le_refl _) _).alloc (by simp) _).drew
  have HO3 : Hid (((W3.alloc (.cells #[.int .i64 id, .int .i64 i] 47)).alloc (.cells #[] 47)).drew.ownsRow W3.heap.size 47 2 (.slice (some ⟨W3.heap.size + 1, 0, none⟩) 0 0) 0 []) := by
    have := World.ownsRow_lit (base := W3.heap.size) (e := 47) (size := 2) (W3.alloc (.cells #[.int .i64 id, .int .i64 i] 47)) #[] 0 (by simp) (Nat.zero_le _) rfl
    rw [World.size_alloc] at this
    exact this
  have HB3 : Hid (Below W3.heap.size W3 ((W3.alloc (.cells #[.int .i64 id, .int .i64 i] 47)).alloc (.cells #[] 47)).drew) := (((Below.refl _ _).alloc (Nat.le_refl _) _).alloc (by simp) _).drew
  have HN2 : Hid (OneL ((W3.alloc (.cells #[] 47)).alloc (.cells #[.int .i64 id, .int .i64 i] 47)).drew (W3.heap.size + 1) id i) := by
    have := OneL.new (W3.alloc (.cells #[] 47)) id i
    rw [World.size_alloc] at this
    exact this
  have HN3 : Hid (OneL ((W3.alloc (.cells #[.int .i64 id, .int .i64 i] 47)).alloc (.cells #[] 47)).drew W3.heap.size id i) := by
    have h1 : OneL ((W3.alloc (.cells #[.int .i64 id, .int .i64 i] 47)).alloc (.cells #[] 47)) W3.heap.size id i := OneL.kept (OneL.new W3 id i) (World.grownBy_alloc _ _ none) (by simp)
    exact h1
  have HSb : Hid (∀ s ∈ l.take K ++ [(id, i)], i64b s.1 ∧ i64b s.2) := fun s hs => by
    rcases List.mem_append.1 hs with h | h
    · exact HS.out.2.1 s (List.mem_of_mem_take h)
    · obtain rfl : s = (id, i) := by simpa using h
      exact ⟨HDb.out, HIb.out⟩
  have HSet : Hid (∀ (W : World) (g k : Nat), Below W3.heap.size W3 W → W.ownsRow W3.heap.size 47 2 (.slice (some ⟨g, 0, none⟩) (K + 1) k) (K + 1) (laneCells (l.take K) ++ laneCells [(id, i)]) → FSt w (W.setCell ⟨o, 2, none⟩ (.slice (some ⟨g, 0, none⟩) (K + 1) k)) c i a len cap o c i (some ⟨g, 0, none⟩) (K + 1) k (l.take K ++ [(id, i)])) := fun W g k hb ho => by
    rw [← laneCells_append] at ho
    exact (HF.out.stays hb).set2 ⟨own_low (base := W3.heap.size) ho (by omega), HSb.out⟩
  go_cut [] from 10 (fun W => ∃ g k, Hid (FSt w W c i a len cap o c i (some ⟨g, 0, none⟩) (K + 1) k (l.take K ++ [(id, i)])))
  case first =>
    have i1 : (0 : Int) ≤ (K : Int) := by omega
    have i2 : (K : Int) ≤ (cap : Int) := by omega
    have n1 : K ≤ cap := by omega
    go_region_held3 (fun W => W.cell? ⟨w.heap.size, 1, none⟩ = some (.int .i64 i) ∧ W.cell? ⟨w.heap.size, 2, none⟩ = some (.slice a len cap)) (first | (refine ⟨?_, ?_⟩ <;> assumption) | (exact ⟨cell_kept3 (by omega) (by assumption), cell_kept3 (by omega) (by assumption)⟩) | go_keep) (first
      | (have mark2 := hone2; (refine step_append_got rfl (.tmp 32) (.tmp 37) 34 34 rfl W3.heap.size 47 i0 (.agg #[.int .i64 0, .int .i64 0]) 2 16 Try.underlying34 hi hz0 hz1 hz2 rfl (by decide) g1 (0 + K) k1 _ rfl hown1 _ 1 (laneCells [(id, i)]) rfl ((hone2.lanes HDb.out HIb.out).src) (by unfold maxLen; omega) (by omega) hb1.size ?_; intro g2 k2 y2 hown2 hgrow2; (try rw [Nat.zero_add, List.nil_append] at hown2); have hb2 : Below W3.heap.size W3 y2 := hb1.grown hgrow2 hb1.size (fun k hk => by have := hown1.lt g1 rfl; injection hk with hk; omega); have hf2 := HF.out.stays hb2; obtain ⟨m0, m1, m2⟩ := hf2.1.cells; obtain ⟨t0, t1, t2⟩ := hf2.2.2.1.cells; have tf := hf2.2.2.1.frozen 2)) | (have mark2 := hone2; (refine step_append_got rfl (.tmp 32) (.tmp 37) 34 34 rfl W3.heap.size 47 i0 (.agg #[.int .i64 0, .int .i64 0]) 2 16 Try.underlying34 hi hz0 hz1 hz2 rfl (by decide) g1 K k1 _ rfl hownK _ 1 (laneCells [(id, i)]) rfl ((hone2.lanes HDb.out HIb.out).src) (by unfold maxLen; omega) (by omega) hb1.size ?_; intro g2 k2 y2 hown2 hgrow2; (try rw [Nat.zero_add, List.nil_append] at hown2); have hb2 : Below W3.heap.size W3 y2 := hb1.grown hgrow2 hb1.size (fun k hk => by have := hown1.lt g1 rfl; injection hk with hk; omega); have hf2 := HF.out.stays hb2; obtain ⟨m0, m1, m2⟩ := hf2.1.cells; obtain ⟨t0, t1, t2⟩ := hf2.2.2.1.cells; have tf := hf2.2.2.1.frozen 2))
      | (have mark2 := hone3; (refine step_append_got rfl (.tmp 32) (.tmp 37) 34 34 rfl W3.heap.size 47 i0 (.agg #[.int .i64 0, .int .i64 0]) 2 16 Try.underlying34 hi hz0 hz1 hz2 rfl (by decide) g1 (0 + K) k1 _ rfl hown1 _ 1 (laneCells [(id, i)]) rfl ((hone3.lanes HDb.out HIb.out).src) (by unfold maxLen; omega) (by omega) hb1.size ?_; intro g2 k2 y2 hown2 hgrow2; (try rw [Nat.zero_add, List.nil_append] at hown2); have hb2 : Below W3.heap.size W3 y2 := hb1.grown hgrow2 hb1.size (fun k hk => by have := hown1.lt g1 rfl; injection hk with hk; omega); have hf2 := HF.out.stays hb2; obtain ⟨m0, m1, m2⟩ := hf2.1.cells; obtain ⟨t0, t1, t2⟩ := hf2.2.2.1.cells; have tf := hf2.2.2.1.frozen 2)) | (have mark2 := hone3; (refine step_append_got rfl (.tmp 32) (.tmp 37) 34 34 rfl W3.heap.size 47 i0 (.agg #[.int .i64 0, .int .i64 0]) 2 16 Try.underlying34 hi hz0 hz1 hz2 rfl (by decide) g1 K k1 _ rfl hownK _ 1 (laneCells [(id, i)]) rfl ((hone3.lanes HDb.out HIb.out).src) (by unfold maxLen; omega) (by omega) hb1.size ?_; intro g2 k2 y2 hown2 hgrow2; (try rw [Nat.zero_add, List.nil_append] at hown2); have hb2 : Below W3.heap.size W3 y2 := hb1.grown hgrow2 hb1.size (fun k hk => by have := hown1.lt g1 rfl; injection hk with hk; omega); have hf2 := HF.out.stays hb2; obtain ⟨m0, m1, m2⟩ := hf2.1.cells; obtain ⟨t0, t1, t2⟩ := hf2.2.2.1.cells; have tf := hf2.2.2.1.frozen 2))
      | (have mark2 := mark1; (refine step_append_got rfl (.tmp 32) (.tmp 37) 34 34 rfl W3.heap.size 47 i0 (.agg #[.int .i64 0, .int .i64 0]) 2 16 Try.underlying34 hi hz0 hz1 hz2 rfl (by decide) g1 (0 + K) k1 _ rfl (own_below hown1 ((Below.refl _ _).alloc (Nat.le_refl _) _)) _ 1 (laneCells [(id, i)]) rfl (((OneL.new y1 id i).lanes HDb.out HIb.out).src) (by unfold maxLen; omega) (by omega) (by have := hb1.size; simp; omega) ?_; intro g2 k2 y2 hown2 hgrow2; (try rw [Nat.zero_add, List.nil_append] at hown2); have hb2 : Below W3.heap.size W3 y2 := (hb1.alloc hb1.size _).grown hgrow2 (by have := hb1.size; simp; omega) (fun k hk => by have := hown1.lt g1 rfl; injection hk with hk; omega); have hf2 := HF.out.stays hb2; obtain ⟨m0, m1, m2⟩ := hf2.1.cells; obtain ⟨t0, t1, t2⟩ := hf2.2.2.1.cells; have tf := hf2.2.2.1.frozen 2)) | (have mark2 := mark1; (refine step_append_got rfl (.tmp 32) (.tmp 37) 34 34 rfl W3.heap.size 47 i0 (.agg #[.int .i64 0, .int .i64 0]) 2 16 Try.underlying34 hi hz0 hz1 hz2 rfl (by decide) g1 K k1 _ rfl (own_below hownK ((Below.refl _ _).alloc (Nat.le_refl _) _)) _ 1 (laneCells [(id, i)]) rfl (((OneL.new y1 id i).lanes HDb.out HIb.out).src) (by unfold maxLen; omega) (by omega) (by have := hb1.size; simp; omega) ?_; intro g2 k2 y2 hown2 hgrow2; (try rw [Nat.zero_add, List.nil_append] at hown2); have hb2 : Below W3.heap.size W3 y2 := (hb1.alloc hb1.size _).grown hgrow2 (by have := hb1.size; simp; omega) (fun k hk => by have := hown1.lt g1 rfl; injection hk with hk; omega); have hf2 := HF.out.stays hb2; obtain ⟨m0, m1, m2⟩ := hf2.1.cells; obtain ⟨t0, t1, t2⟩ := hf2.2.2.1.cells; have tf := hf2.2.2.1.frozen 2))
      | (refine step_append_got rfl (.tmp 27) (.tmp 31) 34 34 rfl W3.heap.size 47 i0 (.agg #[.int .i64 0, .int .i64 0]) 2 16 Try.underlying34 hi hz0 hz1 hz2 rfl (by decide) W3.heap.size 0 0 _ rfl HO1.out _ K (laneCells (l.take K)) rfl ((((HF.out.stays HB1.out).lanes HS.out).take hKl).src) (by unfold maxLen; omega) (by omega) HB1.out.size ?_; intro g1 k1 y1 hown1 hgrow1; have hownK := hown1; rw [Nat.zero_add, List.nil_append] at hownK; have hb1 : Below W3.heap.size W3 y1 := HB1.out.grown hgrow1 HB1.out.size (fun k hk => by injection hk with hk; omega); have hf1 := HF.out.stays hb1; obtain ⟨e0, e1, e2⟩ := hf1.1.cells; have ne3 : ¬ w.heap.size = y1.heap.size := (by have := hb1.size; omega); have mark1 : True := trivial)
      | (refine step_append_got rfl (.tmp 27) (.tmp 31) 34 34 rfl W3.heap.size 47 i0 (.agg #[.int .i64 0, .int .i64 0]) 2 16 Try.underlying34 hi hz0 hz1 hz2 rfl (by decide) W3.heap.size 0 0 _ rfl HO2.out _ K (laneCells (l.take K)) rfl ((((HF.out.stays HB2.out).lanes HS.out).take hKl).src) (by unfold maxLen; omega) (by omega) HB2.out.size ?_; intro g1 k1 y1 hown1 hgrow1; have hownK := hown1; rw [Nat.zero_add, List.nil_append] at hownK; have hb1 : Below W3.heap.size W3 y1 := HB2.out.grown hgrow1 HB2.out.size (fun k hk => by injection hk with hk; omega); have hf1 := HF.out.stays hb1; obtain ⟨e0, e1, e2⟩ := hf1.1.cells; have ne3 : ¬ w.heap.size = y1.heap.size := (by have := hb1.size; omega); have hone2 : OneL y1 (W3.heap.size + 1) id i := HN2.out.kept hgrow1 (by intro e; injection e with e; omega))
      | (refine step_append_got rfl (.tmp 27) (.tmp 31) 34 34 rfl W3.heap.size 47 i0 (.agg #[.int .i64 0, .int .i64 0]) 2 16 Try.underlying34 hi hz0 hz1 hz2 rfl (by decide) (W3.heap.size + 1) 0 0 _ rfl HO3.out _ K (laneCells (l.take K)) rfl ((((HF.out.stays HB3.out).lanes HS.out).take hKl).src) (by unfold maxLen; omega) (by omega) HB3.out.size ?_; intro g1 k1 y1 hown1 hgrow1; have hownK := hown1; rw [Nat.zero_add, List.nil_append] at hownK; have hb1 : Below W3.heap.size W3 y1 := HB3.out.grown hgrow1 HB3.out.size (fun k hk => by injection hk with hk; omega); have hf1 := HF.out.stays hb1; obtain ⟨e0, e1, e2⟩ := hf1.1.cells; have ne3 : ¬ w.heap.size = y1.heap.size := (by have := hb1.size; omega); have hone3 : OneL y1 W3.heap.size id i := HN3.out.kept hgrow1 (by intro e; injection e with e; omega))
      | fail)
    all_goals
      have HF5 := (show Hid (FSt w _ c i a len cap o c i (some ⟨g2, 0, none⟩) (K + 1) k2 (l.take K ++ [(id, i)])) from HSet.out y2 g2 k2 hb2 hown2)
      clear hown1 hownK hown2 hgrow1 hgrow2 hb1 hb2 hf1 hf2 e0 e1 e2 m0 m1 m2 t0 t1 t2 tf mark2
      go_wp2_with fail
      go_meet
      exact ⟨g2, k2, HF5⟩
  case rest =>
  obtain ⟨g, k, HFc⟩ := hcut
  obtain ⟨x7, hx7⟩ : ∃ x7, wc = x7 := ⟨_, rfl⟩
  rw [hx7] at HFc ⊢
  have HF7 := (show Hid (FSt w x7 c i a len cap o c i (some ⟨g, 0, none⟩) (K + 1) k (l.take K ++ [(id, i)])) from HFc.out)
  clear hx7 HFc HSet HO1 HO2 HO3 HB1 HB2 HB3 HN2 HN3 HSb c0 c1 c2 d0 d1 d2 HF ne1 ne2 hsz hox
  obtain ⟨c0, c1, c2⟩ := HF7.out.1.cells
  obtain ⟨d0, d1, d2⟩ := HF7.out.2.2.1.cells
  have HSet6 : Hid (∀ W, x7.drew.grownBy W (some g) → Box3 W w.heap.size 36 (.int .i64 c) (.int .i64 i) (.slice a len cap) ∧ Box3 W o 36 (.int .i64 c) (.int .i64 i) (.slice (some ⟨g, 0, none⟩) (K + 1) k) ∧ Box3 W (w.heap.size + 1) 36 (.int .i64 0) (.int .i64 0) (.slice none 0 0) ∧ Below w.heap.size w W) := fun W h => by
    have hh := HF7.out
    have h' : x7.grownBy W (some g) := ⟨h.os, h.tape, h.output, h.size, h.block⟩
    have hne : ∀ {q : Nat} {x y z : Value}, Box3 x7 q 36 x y z → (some g : Option Nat) ≠ some q := fun hb e => hh.2.2.2.1.other (show x7.heap[_]? = _ from hb) (by decide) (by injection e with e; rw [e]; rfl)
    exact ⟨hh.1.grown h' (hne hh.1), hh.2.2.1.grown h' (hne hh.2.2.1), hh.2.1.grown h' (hne hh.2.1), hh.2.2.2.2.1.grown h' hh.2.2.2.2.1.size (fun q e => by injection e with e; have := (hh.2.2.2.1.lt g rfl).1; omega)⟩
  have HSb6 : Hid (∀ s ∈ l.take K ++ [(id, i)] ++ l.drop K, i64b s.1 ∧ i64b s.2) := fun s hs => by
    rcases List.mem_append.1 hs with h | h
    · exact HF7.out.2.2.2.1.2 s h
    · exact HS.out.2.1 s (List.mem_of_mem_drop h)
  go_upto_region 6 with fail
  go_cut [] from 10 (fun W => ∃ g k, Hid (FSt w W c i a len cap o c i (some ⟨g, 0, none⟩) (K + 1 + (len - K)) k (l.take K ++ [(id, i)] ++ l.drop K)))
  case first =>
    have i1 : (0 : Int) ≤ (K : Int) := by omega
    have i2 : (K : Int) ≤ (cap : Int) := by omega
    have i3 : (K : Int) ≤ (len : Int) := by omega
    have i5 : (len : Int) ≤ (cap : Int) := by omega
    have n1 : K ≤ cap := by omega
    by_cases hl0 : len = 0
    · have hK0 : K = 0 := by omega
      subst hl0
      subst hK0
      go_region_law (first
        | (refine step_append_got rfl (.tmp 41) (.tmp 45) 34 34 rfl w.heap.size 47 i0 (.agg #[.int .i64 0, .int .i64 0]) 2 16 Try.underlying34 hi hz0 hz1 hz2 rfl (by decide) g (0 + 1) k _ rfl HF7.out.drew.2.2.2.1.1 _ 0 (laneCells (l.drop 0)) rfl (((HF7.out.drew).lanes HS.out).src) (by unfold maxLen; omega) (by omega) HF7.out.drew.2.2.2.2.1.size ?_; intro g2 k2 y2 hown2 hgrow2; have hf2 := HSet6.out y2 hgrow2; obtain ⟨m0, m1, m2⟩ := hf2.1.cells; obtain ⟨t0, t1, t2⟩ := hf2.2.1.cells; have tf := hf2.2.1.frozen 2)
        | fail)
      all_goals
        have HF8 : Hid (FSt w (y2.setCell ⟨o, 2, none⟩ (.slice (some ⟨g2, 0, none⟩) (0 + 1 + 0) k2)) c i a 0 cap o c i (some ⟨g2, 0, none⟩) (0 + 1 + (0 - 0)) k2 (l.take 0 ++ [(id, i)] ++ l.drop 0)) := by
          show FSt _ _ _ _ _ _ _ _ _ _ _ _ _ _
          rw [← laneCells_append] at hown2
          exact FSt.laid hf2.1 hf2.2.1 hf2.2.2.1 hf2.2.2.2 hoo ⟨hown2, HSb6.out⟩
        clear hown2 hgrow2 hf2 m0 m1 m2 t0 t1 t2 tf
        go_wp2_with fail
        go_meet
        exact ⟨g2, k2, HF8⟩
    obtain ⟨b, off, rfl⟩ : ∃ b off, a = some ⟨b, off, none⟩ := by
      rcases HS.out.2.2 with h0 | ⟨b, off, e, _⟩
      · omega
      · exact ⟨b, off, e⟩
    by_cases hcK : cap = K
    · have hlK : len = K := by omega
      subst hlK
      subst hcK
      go_region_law (first
        | (refine step_append_got rfl (.tmp 41) (.tmp 45) 34 34 rfl w.heap.size 47 i0 (.agg #[.int .i64 0, .int .i64 0]) 2 16 Try.underlying34 hi hz0 hz1 hz2 rfl (by decide) g (cap + 1) k _ rfl HF7.out.drew.2.2.2.1.1 _ 0 (laneCells (l.drop cap)) rfl ((((HF7.out.drew).lanes HS.out).gone (Nat.le_refl _)).src) (by unfold maxLen; omega) (by omega) HF7.out.drew.2.2.2.2.1.size ?_; intro g2 k2 y2 hown2 hgrow2; have hf2 := HSet6.out y2 hgrow2; obtain ⟨m0, m1, m2⟩ := hf2.1.cells; obtain ⟨t0, t1, t2⟩ := hf2.2.1.cells; have tf := hf2.2.1.frozen 2)
        | fail)
      all_goals
        have HF8 : Hid (FSt w (y2.setCell ⟨o, 2, none⟩ (.slice (some ⟨g2, 0, none⟩) (cap + 1 + 0) k2)) c i (some ⟨b, off, none⟩) cap cap o c i (some ⟨g2, 0, none⟩) (cap + 1 + (cap - cap)) k2 (l.take cap ++ [(id, i)] ++ l.drop cap)) := by
          show FSt _ _ _ _ _ _ _ _ _ _ _ _ _ _
          rw [Nat.sub_self]
          rw [← laneCells_append] at hown2
          exact FSt.laid hf2.1 hf2.2.1 hf2.2.2.1 hf2.2.2.2 hoo ⟨hown2, HSb6.out⟩
        clear hown2 hgrow2 hf2 m0 m1 m2 t0 t1 t2 tf
        go_wp2_with fail
        go_meet
        exact ⟨g2, k2, HF8⟩
    · go_region_law (first
        | (refine step_append_got rfl (.tmp 41) (.tmp 45) 34 34 rfl w.heap.size 47 i0 (.agg #[.int .i64 0, .int .i64 0]) 2 16 Try.underlying34 hi hz0 hz1 hz2 rfl (by decide) g (K + 1) k _ rfl HF7.out.drew.2.2.2.1.1 _ (len - K) (laneCells (l.drop K)) rfl ((((HF7.out.drew).lanes HS.out).drop (by omega)).src) (by unfold maxLen; omega) (by omega) HF7.out.drew.2.2.2.2.1.size ?_; intro g2 k2 y2 hown2 hgrow2; have hf2 := HSet6.out y2 hgrow2; obtain ⟨m0, m1, m2⟩ := hf2.1.cells; obtain ⟨t0, t1, t2⟩ := hf2.2.1.cells; have tf := hf2.2.1.frozen 2)
        | fail)
      all_goals
        have HF8 : Hid (FSt w (y2.setCell ⟨o, 2, none⟩ (.slice (some ⟨g2, 0, none⟩) (K + 1 + (len - K)) k2)) c i (some ⟨b, off, none⟩) len cap o c i (some ⟨g2, 0, none⟩) (K + 1 + (len - K)) k2 (l.take K ++ [(id, i)] ++ l.drop K)) := by
          show FSt _ _ _ _ _ _ _ _ _ _ _ _ _ _
          rw [← laneCells_append] at hown2
          exact FSt.laid hf2.1 hf2.2.1 hf2.2.2.1 hf2.2.2.2 hoo ⟨hown2, HSb6.out⟩
        clear hown2 hgrow2 hf2 m0 m1 m2 t0 t1 t2 tf
        go_wp2_with fail
        go_meet
        exact ⟨g2, k2, HF8⟩
  case rest =>
  obtain ⟨g, k, HFc⟩ := hcut
  obtain ⟨x8, hx8⟩ : ∃ x8, wc = x8 := ⟨_, rfl⟩
  rw [hx8] at HFc ⊢
  have HF8 := (show Hid (FSt w x8 c i a len cap o c i (some ⟨g, 0, none⟩) (K + 1 + (len - K)) k (l.take K ++ [(id, i)] ++ l.drop K)) from HFc.out)
  clear hx8 HFc HSet6 HSb6 c0 c1 c2 d0 d1 d2 HF7
  have HR' : Hid (openR c i l id = endsF c i l c i (l.take K ++ [(id, i)] ++ l.drop K) (decide (atL id l < 0))) := by
    show _ = _
    rw [openR, HLs.out]
  have hnb : K + 1 + (len - K) ≤ 1099511627776 := by omega
  generalize l.take K ++ [(id, i)] ++ l.drop K = ol at *
  generalize K + 1 + (len - K) = on at *
  obtain ⟨c0, c1, c2⟩ := HF8.out.1.cells
  obtain ⟨d0, d1, d2⟩ := HF8.out.2.2.1.cells
  go_upto_region 7 with fail
  go_region_held3 (fun W => W.cell? ⟨w.heap.size, 0, none⟩ = some (.int .i64 c) ∧ W.cell? ⟨w.heap.size, 1, none⟩ = some (.int .i64 i) ∧ W.cell? ⟨w.heap.size, 2, none⟩ = some (.slice a len cap) ∧ W.cell? ⟨o, 0, none⟩ = some (.int .i64 c) ∧ W.cell? ⟨o, 1, none⟩ = some (.int .i64 i) ∧ W.cell? ⟨o, 2, none⟩ = some (.slice (some ⟨g, 0, none⟩) on k)) (first | (refine ⟨?_, ?_, ?_, ?_, ?_, ?_⟩ <;> assumption) | (exact ⟨cell_kept3 (by omega) (cell_kept3 (by omega) (cell_kept3 (by omega) (by assumption))), cell_kept3 (by omega) (cell_kept3 (by omega) (cell_kept3 (by omega) (by assumption))), cell_kept3 (by omega) (cell_kept3 (by omega) (cell_kept3 (by omega) (by assumption))), cell_kept3 (by omega) (cell_kept3 (by omega) (cell_kept3 (by omega) (by assumption))), cell_kept3 (by omega) (cell_kept3 (by omega) (cell_kept3 (by omega) (by assumption))), cell_kept3 (by omega) (cell_kept3 (by omega) (cell_kept3 (by omega) (by assumption)))⟩) | go_keep) (first
    | (go_at_call 40; refine (specEnds_any c i a len cap l c i (some ⟨g, 0, none⟩) on k ol _ w.heap.size _ (hfz.lanes HS.out) hl hfz.2.2.2.1 hnb hfz.2.2.2.2.1.size).mono ?_; rintro e y1 ⟨⟨A1, C1, rfl, ho1⟩, hb1⟩; have hfy := hfz.stays hb1; obtain ⟨p0, p1, p2⟩ := hfy.1.cells; obtain ⟨r0, r1, r2⟩ := hfy.2.2.1.cells; obtain ⟨g0, g1, g2⟩ := hfy.2.1.cells; have f0 := hfy.2.1.frozen 0; have f1 := hfy.2.1.frozen 1; have f2 := hfy.2.1.frozen 2)
    | (go_at_call 38; refine (specAt_any c i a len cap l id _ (HF8.out.drew.lanes HS.out) (by omega)).mono ?_; rintro e z1 ⟨rfl, hbz⟩; have hfz := HF8.out.drew.stays hbz; obtain ⟨e0, e1, e2⟩ := hfz.1.cells; obtain ⟨b0, b1, b2⟩ := hfz.2.2.1.cells)
    | fail)
  all_goals
    generalize endsF c i l c i ol (decide (atL id l < 0)) = R at *
    obtain ⟨⟨rc, ri, rl⟩, rb⟩ := R
    dsimp only at ho1 ⊢
    obtain ⟨m, hm⟩ : ∃ m, rl.length = m := ⟨_, rfl⟩
    have HM : Hid (rl.length = m) := hm
    rw [hm] at ho1 ⊢
    clear hm
    have HEnd : Hid (OwnL (((y1.setCell ⟨w.heap.size + 1, 0, none⟩ (.int .i64 rc)).setCell ⟨w.heap.size + 1, 1, none⟩ (.int .i64 ri)).setCell ⟨w.heap.size + 1, 2, none⟩ (.slice A1 m C1)) w.heap.size A1 m C1 rl ∧ Below w.heap.size w (((y1.setCell ⟨w.heap.size + 1, 0, none⟩ (.int .i64 rc)).setCell ⟨w.heap.size + 1, 1, none⟩ (.int .i64 ri)).setCell ⟨w.heap.size + 1, 2, none⟩ (.slice A1 m C1))) := ⟨ownL_set3 ho1 (ho1.other (show y1.heap[w.heap.size + 1]? = _ from hfy.2.1) (by decide)) _ _ _, below_set3 hfy.2.2.2.2.1 (by omega) _ _ _⟩
    clear ho1 hb1 hfy hfz hbz HF8 c0 c1 c2 d0 d1 d2 e0 e1 e2 b0 b1 b2 p0 p1 p2 r0 r1 r2
    go_wp2
    refine bodyPost_ret (v := .tuple #[.agg #[.int .i64 rc, .int .i64 ri, .slice A1 m C1], .bool rb]) (by simp [results, Try.f20, go_sem, g0, g1, g2]) rfl ?_
    have h := HM.out
    subst h
    exact ⟨by rw [HR'.out]; exact ⟨A1, C1, rfl, HEnd.out.1⟩, HEnd.out.2⟩

end Go.Proofs.Ytkicfiacnpifkad
