/- What the specification's Pad answers: the number, the data and so many bytes 0, in memory of its own; nothing that was there is written. For data of at most 2^40 bytes that are not nil. -/
import Derived.Test.YtckpacifimpkgadDoorPadNum
import Derived.Test.YtckpacifimpkgadDoorMadeB
namespace Go.Proofs.YtckpacifimpkgadDoor
open Go.RowKit
set_option linter.unusedVariables false

theorem padB_cells (zs : List Int) (m : Nat) : (padB zs m).map (Value.int .u8) = [Value.int .u8 (m : Int)] ++ zs.map (Value.int .u8) ++ List.replicate m (Value.int .u8 0) := by
  simp [padB, List.map_append]

set_option maxRecDepth 10000 in
set_option maxHeartbeats 800000 in
theorem specPad_any (b off len cap : Nat) (n : Int) (M T : Nat) (zs : List Int) (w : World) (hs : Seg w (some ⟨b, off, none⟩) len zs) (hb : b < w.heap.size) (hl : len ≤ 1099511627776) (hM : padN n = M) (hT : 1 + len + M = T) :
    Calls Tryd.prog 33 #[.slice (some ⟨b, off, none⟩) len cap, .int .i64 n] w fun e w' => ∃ a' cap', e = .returned (.slice a' T cap') ∧ Owns w' w.heap.size a' T cap' (padB zs M) ∧ Below w.heap.size w w' := by
  obtain ⟨i0, hi, hz0, hz1, hz2⟩ := info_parts Tryd.info5
  have hzl : Hid (zs.length = len) := hs.1
  have HR : Hid (∀ x ∈ zs, 0 ≤ x ∧ x ≤ 255) := hs.2.1
  have hS1 : Hid (Seg (w.alloc (.cells #[.int .u8 M] 5)) (some ⟨b, off, none⟩) len zs) := hs.below ((Below.refl _ _).alloc (Nat.le_refl _) _)
  have hO1 : Hid ((w.alloc (.cells #[.int .u8 M] 5)).ownsRow w.heap.size 5 1 (.slice (some ⟨w.heap.size, 0, none⟩) 1 1) 1 [.int .u8 M]) := World.ownsRow_lit w #[.int .u8 M] 1 (Nat.le_refl _) (by decide) rfl
  have hM255 : (M : Int) ≤ 255 := by have := padN_le n; omega
  have hM0 : (0 : Int) ≤ (M : Int) := by omega
  have hM256 : (M : Int) % 256 = (M : Int) := by omega
  have HM : Hid (padN n = M) := hM
  have HT : Hid (1 + len + M = T) := hT
  have HLb : Hid (1 + len ≤ 2199023255552 ∧ 1 + len + M ≤ 2199023255552) := by show _ ∧ _; omega
  clear hs hM hT
  have hcase : n < 0 ∧ M = 0 ∨ (¬ n < 0 ∧ 255 < n ∧ M = 255) ∨ (¬ n < 0 ∧ ¬ 255 < n ∧ n = (M : Int)) := by
    have := HM.out
    unfold padN at this
    split at this
    · omega
    · split at this <;> omega
  rcases hcase with ⟨h0, rfl⟩ | ⟨h0, h1, rfl⟩ | ⟨h0, h1, rfl⟩
  all_goals
    go_enter Tryd.func33, Tryd.ntmps33
    go_wp2_with (at_builtin; refine wpList_append_own _ rfl _ _ 22 rfl w.heap.size 5 i0 (.int .u8 0) 1 1 Tryd.underlying22 hi hz0 hz1 hz2 rfl (by decide) (.slice (some ⟨w.heap.size, 0, none⟩) 1 1) 1 _ rfl hO1.out ⟨b, off, none⟩ len cap (zs.map (Value.int .u8)) rfl (by simp [hzl.out]) (cells_ints hS1.out) (ints_one zs) (by unfold maxLen; omega) (by omega) (by simp) ?_; intro v1 w1 hown1 hgrow1 _; refine Hid.out ?_)
    refine hidden ?_
    have HB : Hid (Below w.heap.size w w1) := ((Below.refl _ _).alloc (Nat.le_refl _) _).grown hgrow1 (by simp) (by simp [Value.ownBlock])
    obtain ⟨a1, c1, rfl⟩ := shape_of_owns hown1
    obtain ⟨g1, rfl⟩ : ∃ g, a1 = some ⟨g, 0, none⟩ := by
      rcases hown1.2 with ⟨_, h0⟩ | ⟨g, cap', cur, he, _⟩
      · omega
      · injection he with e1 _ _
        exact ⟨g, e1⟩
    have HO1 : Hid (w1.ownsRow w.heap.size 5 1 (.slice (some ⟨g1, 0, none⟩) (1 + len) c1) (1 + len) ([.int .u8 _] ++ zs.map (Value.int .u8))) := hown1
    have HBs : Hid (w.heap.size ≤ w1.heap.size) := HB.out.size
    clear hown1 hgrow1 hO1 hS1
    go_wp2_with (first | (refine wpList_append_zeros rfl _ _ 22 3 rfl w.heap.size 5 i0 Tryd.underlying22 Tryd.underlying3 hi hz0 hz1 hz2 g1 (1 + len) c1 _ rfl HO1.out _ rfl HLb.out.2 HBs.out ?_; intro v2 w2 hown2 hgrow2; refine Hid.out ?_) | fail)
    refine hidden ?_
    have HB2 : Hid (Below w.heap.size w w2) := HB.out.grown hgrow2 HB.out.size (fun q hq => by injection hq with hq; subst hq; exact (HO1.out.lt _ rfl).1)
    obtain ⟨a2, c2, rfl⟩ := shape_of_owns hown2
    have HO2 := (show Hid _ from hown2)
    clear hown2 hgrow2
    go_wp2_with fail
    go_ret
    obtain rfl := HT.out
    refine ⟨_, _, rfl, ⟨?_, padB_range zs _ (by omega) HR.out⟩, HB2.out⟩
    rw [padB_cells]
    exact HO2.out

end Go.Proofs.YtckpacifimpkgadDoor
