/- The program's ring of fields: the oldest dropped, as far as must be. -/
import Derived.Test.YtbaijmkghgnleaaGreatDoorM12
namespace Go.Proofs.YtbaijmkghgnleaaGreatDoor
open Go.RowKit
set_option linter.unusedVariables false

theorem RingC.drop {cs : Array Value} {p : Nat} {fs : List Fld} (r : RingC cs p fs) (n : Nat) (hn : fs.length = n + 1) (z : Int) (hz : z = (szL (fs.take n) : Int)) :
    RingC ((cs.setIfInBounds 257 (.int .i64 (n : Int))).setIfInBounds 258 (.int .i64 z)) p (fs.take n) := by
  have hs := r.size
  have hl : (fs.take n).length = n := by rw [List.length_take]; omega
  have g : ∀ j, ((cs.setIfInBounds 257 (.int .i64 (n : Int))).setIfInBounds 258 (.int .i64 z))[j]? = if 258 = j then some (.int .i64 z) else if 257 = j then some (.int .i64 (n : Int)) else cs[j]? := by
    intro j
    rw [set_get _ _ _ _ (by simp; omega), set_get _ _ _ _ (by omega)]
  refine ⟨by simp; omega, r.lt, by have := r.few; omega, ?_, ?_, ?_, ?_, ?_⟩
  · rw [g, if_neg (by omega), if_neg (by omega)]; exact r.front
  · rw [g, if_neg (by omega), if_pos rfl, hl]
  · rw [g, if_pos rfl, hz]
  · intro k hk
    rw [g, if_neg (by omega), if_neg (by omega)]
    exact r.one k hk
  · intro i hi
    have h3 : (p + i) % 128 < 128 := Nat.mod_lt _ (by omega)
    have hi' : i < fs.length := by omega
    rw [g, g, if_neg (by omega), if_neg (by omega), if_neg (by omega), if_neg (by omega), List.getElem_take]
    exact r.slot i hi'

set_option maxRecDepth 10000 in
set_option maxHeartbeats 1600000 in
theorem drop_any (b p : Nat) (fs : List Fld) (n : Nat) (w : World) (h : Ring w b p fs) (hn : fs.length = n + 1) (hs : szL fs ≤ 100000) :
    Calls Tryz.prog 115 #[.pointer (some ⟨b, 0, none⟩)] w fun e w' => ∃ v, e = .returned v ∧ Ring w' b p (fs.take n) ∧ w.grownBy w' (some b) := by
  obtain ⟨cs, hcs, r⟩ := h
  have hbl : b < w.heap.size := (Array.getElem?_eq_some_iff.1 hcs).1
  have hnl : n < fs.length := by omega
  have hst := szL_take_step fs n hnl
  rw [List.take_of_length_le (by omega)] at hst
  obtain ⟨x, hx⟩ : ∃ x, (fs[n]).1 = x := ⟨_, rfl⟩
  obtain ⟨y, hy⟩ : ∃ y, (fs[n]).2 = y := ⟨_, rfl⟩
  have hsl := r.slot n hnl
  rw [hx, hy] at hst hsl
  have hfew := r.few
  have hp := r.lt
  obtain ⟨q, hq⟩ : ∃ q, (p + n) % 128 = q := ⟨_, rfl⟩
  have hq' : q < 128 := by omega
  rw [hq] at hsl
  have G0 := RG.refl hcs
  have c1 := G0.cell r.count
  rw [hn] at c1
  have f1 := G0.free 257
  have HR : Hid (RingC cs p fs) := r
  have HG0 : Hid (RG w b cs w) := G0
  have HS : Hid (cs[q * 2]? = some (.string x) ∧ cs[q * 2 + 1]? = some (.string y)) := hsl
  have HT : Hid (szL fs = szL (fs.take n) + (32 + x.size + y.size)) := hst
  have HZ : Hid ((szL fs : Int) - ((x.size : Int) + (y.size : Int) + 32) = (szL (fs.take n) : Int)) := by show _ = _; omega
  have hci : ((n + 1 : Nat) : Int) = (n : Int) + 1 := by omega
  rw [hci] at c1
  have hni : (n : Int) < 128 := by omega
  clear r hcs hst hsl G0
  go_enter Tryz.func115, Tryz.ntmps115
  go_wp2_with fail
  obtain ⟨V1, hV1⟩ : ∃ V1, w.setCell ⟨b, 257, none⟩ (.int .i64 (n : Int)) = V1 := ⟨_, rfl⟩
  have G1 : RG w b (cs.setIfInBounds 257 (.int .i64 (n : Int))) V1 := by rw [← hV1]; exact HG0.out.set _ _
  rw [hV1]
  have hz := HR.out.size
  have hg : ∀ j, j ≠ 257 → (cs.setIfInBounds 257 (.int .i64 (n : Int)))[j]? = cs[j]? := by
    intro j hj
    rw [set_get _ _ _ _ (by omega), if_neg (by omega)]
  have j2 : (cs.setIfInBounds 257 (.int .i64 (n : Int)))[258]? = some (.int .i64 (szL fs : Int)) := (hg 258 (by omega)).trans HR.out.sum
  have d0 := G1.cell ((hg 256 (by omega)).trans HR.out.front)
  have d1 := G1.cell (k := 257) (v := .int .i64 (n : Int)) (by rw [set_get _ _ _ _ (by omega), if_pos rfl])
  have d2 := G1.cell j2
  have d3 := G1.cell ((hg (q * 2) (by omega)).trans HS.out.1)
  have d4 := G1.cell ((hg (q * 2 + 1) (by omega)).trans HS.out.2)
  have HD0 : Hid (V1.drew.cell? ⟨b, 256, none⟩ = some (.int .i64 (p : Int))) := G1.drew.cell ((hg 256 (by omega)).trans HR.out.front)
  have hT := HT.out
  have hxy : x.size + y.size ≤ 100000 := by omega
  have hsi : (szL fs : Int) ≤ 100000 := by omega
  have hqi : (q : Int) < 128 := by omega
  have HP : Hid (∀ W : World, W.cell? ⟨b, 256, none⟩ = some (.int .i64 (p : Int)) → Calls Tryz.prog 116 #[.pointer (some ⟨b, 0, none⟩), .int .i64 (n : Int)] W fun e w' => e = .returned (.int .i64 ((q : Nat) : Int)) ∧ w' = W) := by
    intro W hW
    have := slot_any b p n W hW hp (by omega)
    rw [hq] at this
    exact this
  clear hg hV1 c1 f1 hT HT
  go_region_with (first
    | (go_at_call 116; refine (HP.out _ HD0.out).mono ?_; rintro e V3 ⟨rfl, rfl⟩)
    | (go_at_call 71; refine (implOf4_any x y _ (by omega)).mono ?_; rintro e V4 ⟨rfl, hb4⟩; have G4 := G1.drew.stays hb4; have n2 := G4.cell j2; have n3 := G4.free 258))
  all_goals
    have G5 := G4.set 258 (.int .i64 ((szL fs : Int) - ((x.size : Int) + (y.size : Int) + 32)))
    clear hb4 G1 d0 d1 d2 d3 d4 n2 n3
    go_wp2_with fail
    go_end0
    have hwr : IntKind.i64.wrap ((szL fs : Int) - ((x.size : Int) + (y.size : Int) + 32)) = (szL fs : Int) - ((x.size : Int) + (y.size : Int) + 32) := by
      have := HZ.out
      simp [IntKind.wrap, go_sem]
      omega
    rw [hwr]
    exact ⟨_, rfl, ⟨_, G5.block, HR.out.drop n hn _ HZ.out⟩, G5.grown⟩

end Go.Proofs.YtbaijmkghgnleaaGreatDoor
