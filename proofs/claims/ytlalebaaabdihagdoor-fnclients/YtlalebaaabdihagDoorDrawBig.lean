/- Drawn bytes, as many as a length of thirty bits tells. For codes of at most 2^40 bytes. -/
import Derived.Test.YtlalebaaabdihagDoorDrawsB
namespace Go.Proofs.YtlalebaaabdihagDoor
open Go.RowKit
set_option linter.unusedVariables false

set_option maxRecDepth 10000 in
set_option maxHeartbeats 400000 in
theorem l1Bytes_big (B c : Nat) (a : Option Addr) (len cap : Nat) (zs : List Int) (n : Nat) (w : World) (hcur : Cur w B c a len cap zs) (hl : len ≤ 1099511627776) (hn2 : n ≤ 2000000000) :
    Calls Tryd.prog 40 #[.pointer (some ⟨c, 0, none⟩), .int .i64 n] w fun e w' => ∃ g cp ys, e = .returned (.slice (some ⟨g, 0, none⟩) n cp) ∧ w.heap.size ≤ g ∧ Owns w' w.heap.size (some ⟨g, 0, none⟩) n cp ys ∧ Cur w' B c a len cap zs ∧ w.grownBy w' (some c) := by
  obtain ⟨i0, hi, hz0, hz1, hz2⟩ := info_parts Tryd.info5
  have hcl : c < w.heap.size := hcur.lt
  have HC : Hid (Cur (w.alloc (.cells #[] 5)) B c a len cap zs) := hcur.kept (World.grownBy_alloc w _ none) (by simp)
  have HB : Hid (B ≤ c) := hcur.1
  have HO : Hid ((w.alloc (.cells #[] 5)).ownsRow w.heap.size 5 1 (.slice (some ⟨w.heap.size, 0, none⟩) 0 0) 0 (([] : List Int).map (Value.int .u8))) := World.ownsRow_lit w #[] 0 (Nat.le_refl _) (Nat.zero_le _) rfl
  clear hcur
  go_enter Tryd.func40, Tryd.ntmps40
  go_wp2_with fail
  go_loopw [5, 6] (fun v i wr => ∃ (k g cp : Nat) (ys : List Int), k ≤ n ∧ i = .int .i64 k ∧ v = .slice (some ⟨g, 0, none⟩) k cp ∧ w.heap.size ≤ g ∧ Hid (wr.ownsRow w.heap.size 5 1 (.slice (some ⟨g, 0, none⟩) k cp) k (ys.map (Value.int .u8)) ∧ (∀ x ∈ ys, 0 ≤ x ∧ x ≤ 255)) ∧ Hid (Cur wr B c a len cap zs) ∧ Hid (w.grownBy wr (some c))) (fun _ i _ => n - (intOf i).toNat)
  case atStart => exact ⟨0, w.heap.size, 0, [], Nat.zero_le _, rfl, rfl, Nat.le_refl _, ⟨HO.out, by simp⟩, HC, World.grownBy_alloc w _ _⟩
  case round =>
    clear HO HC
    obtain ⟨k, g, cp, ys, hk, rfl, rfl, hgw, HO, HC, HG⟩ := hrel
    by_cases hlt : k < n
    · go_wp2_with fail
      refine (l1Byte_any B c a len cap zs _ HC.out hl).mono ?_
      rintro e w1 ⟨x, hx0, hx1, rfl, hc1, hg1⟩
      have hgc : ¬ g = c := by omega
      have HO1 : Hid (w1.ownsRow w.heap.size 5 1 (.slice (some ⟨g, 0, none⟩) k cp) k (ys.map (Value.int .u8))) := HO.out.1.kept hg1 (.inr (fun e => hgc (by simpa [Value.ownBlock] using e)))
      have HY : Hid (∀ x ∈ ys, 0 ≤ x ∧ x ≤ 255) := HO.out.2
      have HG1 : Hid (w.grownBy w1 (some c)) := gtrans HG.out hg1
      have HC1 : Hid (Cur w1 B c a len cap zs) := hc1
      have HN : Hid (∀ j u, [Value.int .u8 x][j]? = some u → (w1.alloc (.cells #[.int .u8 x] 5)).cell? ((⟨w1.heap.size, 0, none⟩ : Addr).add j) = some u) := one_new w1 x
      have hsz := HG1.out.size
      clear hc1 hg1 HO HC HG
      go_wp2_with (at_builtin; refine wpList_append_own _ rfl _ _ 22 rfl w.heap.size 5 i0 (.int .u8 0) 1 1 Tryd.underlying22 hi hz0 hz1 hz2 rfl (by decide) (.slice (some ⟨g, 0, none⟩) k cp) k _ rfl (HO1.out.alloc _) ⟨w1.heap.size, 0, none⟩ 1 1 [.int .u8 x] rfl rfl HN.out (ints_one [x]) (by unfold maxLen; omega) (by omega) (by simp; omega) ?_; intro v2 w2 hown2 hgrow2 hnil; refine Hid.out ?_)
      refine hidden ?_
      obtain ⟨g2, cp2, rfl, hg2⟩ := own_some5 hown2 (fun e => by have := (hnil.1 e).1; simp at this)
      have HO2 : Hid (w2.ownsRow w.heap.size 5 1 (.slice (some ⟨g2, 0, none⟩) (k + 1) cp2) (k + 1) ((ys ++ [x]).map (Value.int .u8)) ∧ (∀ z ∈ ys ++ [x], 0 ≤ z ∧ z ≤ 255)) := by
        refine ⟨by rw [List.map_append]; exact hown2, ?_⟩
        intro z hz
        rcases List.mem_append.1 hz with hz | hz
        · exact HY.out z hz
        · obtain rfl : z = x := by simpa using hz
          exact ⟨hx0, hx1⟩
      have hrow : ∀ j, (Value.slice (some ⟨g, 0, none⟩) k cp).ownBlock = some j → w.heap.size ≤ j ∧ j ≠ c := by
        intro j hj
        have : g = j := by simpa [Value.ownBlock] using hj
        omega
      have HG2 : Hid (w.grownBy w2 (some c)) := gown (gown HG1.out (World.grownBy_alloc w1 _ none) (by simp)) hgrow2 (fun j hj => (hrow j hj).1)
      have HC2 : Hid (Cur w2 B c a len cap zs) := (HC1.out.kept (World.grownBy_alloc w1 _ none) (by simp)).kept hgrow2 (fun j hj => ⟨by have := (hrow j hj).1; have := HB.out; omega, (hrow j hj).2⟩)
      clear hown2 hgrow2 hnil HO1 HC1 HG1 HN hrow
      go_wp2_with fail
      go_roundw
      case rel => exact ⟨k + 1, g2, cp2, ys ++ [x], by omega, by go_num, rfl, hg2, HO2, HC2, HG2⟩
      case measure => simp [intOf]; omega
    · have hkn : k = n := by omega
      subst hkn
      go_wp2_with fail
      go_ret
      exact ⟨g, cp, ys, rfl, hgw, ⟨HO.out.1, HO.out.2⟩, HC.out, HG.out⟩


end Go.Proofs.YtlalebaaabdihagDoor
