/- The library's Concat of two slices of fields. -/
import Derived.Test.YtcicboolbeognalTimGrow
namespace Go.Proofs.Ytcicboolbeognal
open Go.RowKit
set_option linter.unusedVariables false

theorem row_some {w : World} {base n : Nat} {e : TypeId} {s : Nat} {v : Value} {xs : List Value} (h : w.ownsRow base e s v n xs) (hn : 0 < n) : ∃ g cap, v = .slice (some ⟨g, 0, none⟩) n cap ∧ base ≤ g ∧ g < w.heap.size := by
  rcases h.2 with ⟨_, h0⟩ | ⟨g, cap, cur, rfl, hb, hg, _⟩
  · omega
  · exact ⟨g, cap, rfl, hb, (Array.getElem?_eq_some_iff.1 hg).1⟩

set_option maxRecDepth 10000 in
set_option maxHeartbeats 1600000 in
theorem concat_any (g c : Nat) (a1 a2 : Option Addr) (n1 n2 c1 c2 : Nat) (xs ys : List Fld) (w : World) (hg : w.heap[g]? = some (.cells #[.slice a1 n1 c1, .slice a2 n2 c2] 38 (0, 0))) (h1 : Flds w a1 n1 xs) (h2 : Flds w a2 n2 ys) (h0 : 0 < n1) (hl1 : n1 ≤ 100) (hl2 : n2 ≤ 2097152) :
    Calls Try.prog 104 #[.slice (some ⟨g, 0, none⟩) 2 2] w fun e w' => ∃ g' cap, e = .returned (.slice (some ⟨g', 0, none⟩) (n1 + n2) cap) ∧ OwnF w' w.heap.size (.slice (some ⟨g', 0, none⟩) (n1 + n2) cap) (n1 + n2) (xs ++ ys) ∧ Below w.heap.size w w' := by
  obtain ⟨i0, hi, hz0, hz1, hz2⟩ := info_parts info_field
  have hgl := (Array.getElem?_eq_some_iff.1 hg).1
  have k0 : w.cell? ⟨g, 0, none⟩ = some (.slice a1 n1 c1) := by rw [cell_of_row _ _ _ _ _ _ hg]; rfl
  have k1 : w.cell? ⟨g, 1, none⟩ = some (.slice a2 n2 c2) := by rw [cell_of_row _ _ _ _ _ _ hg]; rfl
  have HK : Hid (∀ W, Below w.heap.size w W → W.cell? ⟨g, 0, none⟩ = some (.slice a1 n1 c1) ∧ W.cell? ⟨g, 1, none⟩ = some (.slice a2 n2 c2) ∧ Flds W a1 n1 xs ∧ Flds W a2 n2 ys) := fun W hW =>
    ⟨(hW.cell (p := ⟨_, _, none⟩) hgl).trans k0, (hW.cell (p := ⟨_, _, none⟩) hgl).trans k1, h1.below hW, h2.below hW⟩
  have HX : Hid (xs.length = n1 ∧ ys.length = n2 ∧ (a1 = none → n1 = 0) ∧ (a2 = none → n2 = 0)) := ⟨h1.1, h2.1, fun h => h1.none_nil h, fun h => h2.none_nil h⟩
  have HS : Hid ((∀ f ∈ xs, f.1.size ≤ maxLen ∧ f.2.size ≤ maxLen) ∧ (∀ f ∈ ys, f.1.size ≤ maxLen ∧ f.2.size ≤ maxLen)) := ⟨h1.2.1, h2.2.1⟩
  have HA : Hid (0 + n1 ≤ maxLen ∧ (0 + n1) * 32 ≤ 140737488355328 ∧ (fieldCells xs).length = n1 * 2 ∧ n1 + n2 ≤ maxLen ∧ (n1 + n2) * 32 ≤ 140737488355328 ∧ (fieldCells ys).length = n2 * 2) := by
    have e1 := h1.1
    have e2 := h2.1
    refine ⟨by unfold maxLen; omega, by omega, by rw [fieldCells_len]; omega, by unfold maxLen; omega, by omega, by rw [fieldCells_len]; omega⟩
  clear h1 h2 hg hgl
  go_enter Try.func104, Try.ntmps104
  go_wp2_with fail
  go_loopw [3, 11] (fun v i wr => w = wr ∧ ((i = .int .i64 0 ∧ v = .int .i64 0) ∨ (i = .int .i64 1 ∧ v = .int .i64 n1) ∨ (i = .int .i64 2 ∧ v = .int .i64 (n1 + n2 : Nat)))) (fun _ i _ => 2 - (intOf i).toNat)
  case atStart => exact ⟨rfl, .inl ⟨rfl, rfl⟩⟩
  case round =>
    obtain ⟨rfl, ⟨rfl, rfl⟩ | ⟨rfl, rfl⟩ | ⟨rfl, rfl⟩⟩ := hrel
    · go_wp2
      go_roundw
      case rel => exact ⟨by first | rfl | trivial, .inr (.inl ⟨rfl, rfl⟩)⟩
      case measure => simp [intOf]
    · have hp : (0 : Int) ≤ (n1 : Int) + (n2 : Int) := by omega
      go_wp2
      go_roundw
      case rel => exact ⟨by first | rfl | trivial, .inr (.inr ⟨rfl, by go_num⟩)⟩
      case measure => simp [intOf]
    · clear k0 k1
      go_wp2_with fail
      refine (grow_any (n1 + n2) _ (by omega) (by omega)).mono ?_
      rintro e w1 ⟨g1, cap1, rfl, hown1, hb1⟩
      have HO1 : Hid (OwnF w1 w.heap.size (.slice (some ⟨g1, 0, none⟩) 0 cap1) 0 []) := hown1
      have HB1 : Hid (Below w.heap.size w w1) := hb1
      clear hown1 hb1
      go_wp2_with fail
      go_loopw [6, 27] (fun v i wr => Hid (Below w.heap.size w wr) ∧ ((i = .int .i64 0 ∧ ∃ g cap, v = .slice (some ⟨g, 0, none⟩) 0 cap ∧ Hid (OwnF wr w.heap.size (.slice (some ⟨g, 0, none⟩) 0 cap) 0 [])) ∨ (i = .int .i64 1 ∧ ∃ g cap, v = .slice (some ⟨g, 0, none⟩) n1 cap ∧ Hid (OwnF wr w.heap.size (.slice (some ⟨g, 0, none⟩) n1 cap) n1 xs)) ∨ (i = .int .i64 2 ∧ ∃ g cap, v = .slice (some ⟨g, 0, none⟩) (n1 + n2) cap ∧ Hid (OwnF wr w.heap.size (.slice (some ⟨g, 0, none⟩) (n1 + n2) cap) (n1 + n2) (xs ++ ys))))) (fun _ i _ => 2 - (intOf i).toNat)
      case atStart => exact ⟨HB1, .inl ⟨rfl, g1, cap1, rfl, HO1⟩⟩
      case round =>
        clear HO1 HB1
        obtain ⟨HB, ⟨rfl, g2, cap2, rfl, HO⟩ | ⟨rfl, g2, cap2, rfl, HO⟩ | ⟨rfl, g2, cap2, rfl, HO⟩⟩ := hrel
        · have k0 := (HK.out _ HB.out).1
          go_wp2_with (first | (refine wpList_plain rfl fun K hK => ?_; refine wp_append_src (.tmp 31) (.tmp 32) 38 rfl w.heap.size 44 i0 (.agg #[.string ⟨#[]⟩, .string ⟨#[]⟩]) 2 32 Try.underlying38 hi hz0 hz1 hz2 rfl (by decide) g2 0 cap2 [] rfl HO.out.1 a1 n1 c1 (fieldCells xs) rfl HX.out.2.2.1 HA.out.2.2.1 (HK.out _ HB.out).2.2.1.cells (fieldCells_one xs) HA.out.1 HA.out.2.1 HB.out.size ?_; intro v4 w4 hown hgrow; obtain ⟨g4, cap4, rfl, hg4, hg4'⟩ := row_some hown (by omega); refine hK _ _ ?_) | fail)
          have hlo : w.heap.size ≤ g2 := (HO.out.1.lt _ rfl).1
          have HB4 : Hid (Below w.heap.size w w4) := HB.out.grown hgrow HB.out.size (fun k hk => by injection hk with hk; omega)
          have HO4 : Hid (OwnF w4 w.heap.size (.slice (some ⟨g4, 0, none⟩) n1 cap4) n1 xs) := by
            refine ⟨?_, HS.out.1⟩
            have := hown
            rw [Nat.zero_add, List.nil_append] at this
            exact this
          clear hown hgrow
          go_roundw
          case rel => exact ⟨HB4, .inr (.inl ⟨rfl, g4, cap4, rfl, HO4⟩)⟩
          case measure => simp [intOf]
        · have k1 := (HK.out _ HB.out).2.1
          go_wp2_with (first | (refine wpList_plain rfl fun K hK => ?_; refine wp_append_src (.tmp 31) (.tmp 32) 38 rfl w.heap.size 44 i0 (.agg #[.string ⟨#[]⟩, .string ⟨#[]⟩]) 2 32 Try.underlying38 hi hz0 hz1 hz2 rfl (by decide) g2 n1 cap2 (fieldCells xs) rfl HO.out.1 a2 n2 c2 (fieldCells ys) rfl HX.out.2.2.2 HA.out.2.2.2.2.2 (HK.out _ HB.out).2.2.2.cells (fieldCells_one ys) HA.out.2.2.2.1 HA.out.2.2.2.2.1 HB.out.size ?_; intro v4 w4 hown hgrow; obtain ⟨g4, cap4, rfl, hg4, hg4'⟩ := row_some hown (by omega); refine hK _ _ ?_) | fail)
          have hlo : w.heap.size ≤ g2 := (HO.out.1.lt _ rfl).1
          have HB4 : Hid (Below w.heap.size w w4) := HB.out.grown hgrow HB.out.size (fun k hk => by injection hk with hk; omega)
          have HO4 : Hid (OwnF w4 w.heap.size (.slice (some ⟨g4, 0, none⟩) (n1 + n2) cap4) (n1 + n2) (xs ++ ys)) := by
            refine ⟨?_, fun f hf => ?_⟩
            · rw [fieldCells_append]
              exact hown
            · rcases List.mem_append.1 hf with h | h
              · exact HS.out.1 f h
              · exact HS.out.2 f h
          clear hown hgrow
          go_roundw
          case rel => exact ⟨HB4, .inr (.inr ⟨rfl, g4, cap4, rfl, HO4⟩)⟩
          case measure => simp [intOf]
        · go_wp2
          go_ret
          exact ⟨g2, cap2, rfl, HO.out, HB.out⟩

end Go.Proofs.Ytcicboolbeognal
