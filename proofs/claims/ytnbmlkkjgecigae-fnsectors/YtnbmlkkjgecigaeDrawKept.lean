/- Drawn truths: which sectors are kept. For codes of at most 2^40 bytes. -/
import Derived.Test.YtnbmlkkjgecigaeDrawOnce
import Derived.Test.YtnbmlkkjgecigaeBoolRow
import Derived.Deep.CutBlock
import Derived.Deep.RegionHeld3
namespace Go.Proofs.Ytnbmlkkjgecigae
open Go.RowKit
set_option linter.unusedVariables false

/-- A row of truths that grows beside a cursor. -/
def DK (w W : World) (B c : Nat) (a : Option Addr) (len cap : Nat) (zs : List Int) (g n cp : Nat) (l : List Bool) : Prop :=
  Cur W B c a len cap zs ∧ w.grownBy W (some c) ∧ W.ownsRow w.heap.size 4 1 (.slice (some ⟨g, 0, none⟩) n cp) n (bcells l)

section
variable {w W W' : World} {B c len cap g n cp : Nat} {a : Option Addr} {zs : List Int} {l : List Bool}

theorem DK.new (h : DK w W B c a len cap zs g n cp l) (o : Obj) : DK w (W.alloc o) B c a len cap zs g n cp l := ⟨h.1.new o, gnew h.2.1 o, h.2.2.alloc o⟩

theorem ownB_kept {base m : Nat} {v : Value} {xs : List Value} {r : Option Nat} (h : W.ownsRow base 4 1 v m xs) (hg : W.grownBy W' r) (hr : ∀ q, r = some q → q < base) : W'.ownsRow base 4 1 v m xs := by
  refine ⟨h.1, ?_⟩
  rcases h.2 with h0 | ⟨g, cap, cur, he, hgb, hh, rest⟩
  · exact .inl h0
  · refine .inr ⟨g, cap, cur, he, hgb, (hg.block g (Array.getElem?_eq_some_iff.1 hh).1 (fun e => by have := hr g e.symm; omega)).trans hh, rest⟩

theorem DK.call (h : DK w W B c a len cap zs g n cp l) (hc : Cur W' B c a len cap zs) (hg : W.grownBy W' (some c)) (hcw : c < w.heap.size) : DK w W' B c a len cap zs g n cp l :=
  ⟨hc, gtrans h.2.1 hg, ownB_kept h.2.2 hg (fun q e => by injection e with e; omega)⟩

theorem DK.app (h : DK w W B c a len cap zs g n cp l) (hcw : c < w.heap.size) {v : Value} {x : Bool} (ho : W'.ownsRow w.heap.size 4 1 v (n + 1) (bcells l ++ [.bool x])) (hg : W.grownBy W' (some g)) : ∃ g' cp', v = .slice (some ⟨g', 0, none⟩) (n + 1) cp' ∧ DK w W' B c a len cap zs g' (n + 1) cp' (l ++ [x]) := by
  have hgw : w.heap.size ≤ g := by
    rcases h.2.2.2 with ⟨e, _⟩ | ⟨g1, cap1, cur, e, hb, _⟩
    · cases e
    · injection e with e1 _ _
      injection e1 with e1
      injection e1 with e1 _ _
      omega
  rcases ho.2 with ⟨_, h0⟩ | ⟨g1, cap1, cur, rfl, hb, r⟩
  · omega
  · exact ⟨g1, cap1, rfl, h.1.kept hg (fun k e => by injection e with e; have := h.1.1; omega), gown h.2.1 hg (fun j e => by injection e with e; omega), by rw [bcells_append]; exact ho⟩
end

theorem oneB (y : World) (x : Bool) : ∀ j u, [Value.bool x][j]? = some u → (y.alloc (.cells #[.bool x] 4)).cell? ((⟨y.heap.size, 0, none⟩ : Addr).add j) = some u := by
  intro j u hj
  obtain rfl : j = 0 := by have := (List.getElem?_eq_some_iff.1 hj).1; simpa using this
  rw [Addr.add_lit, cell_of_row _ _ _ _ _ _ (heap_alloc_new y (.cells #[.bool x] 4))]
  simpa using hj

set_option maxRecDepth 10000 in
set_option maxHeartbeats 3200000 in
theorem l12Kept_any (B c : Nat) (a : Option Addr) (len cap : Nat) (zs : List Int) (w : World) (hcur : Cur w B c a len cap zs) (hl : len ≤ 1099511627776) :
    Calls Try.prog 17 #[.pointer (some ⟨c, 0, none⟩)] w fun e w' => (∃ A n C l, e = .returned (.slice A n C) ∧ n ≤ 8 ∧ OwnBo w' w.heap.size (.slice A n C) n l) ∧ Cur w' B c a len cap zs ∧ w.grownBy w' (some c) := by
  obtain ⟨i0, hi, hz0, hz1, hz2⟩ := info_parts info_bool
  have HC : Hid (Cur w B c a len cap zs) := hcur
  clear hcur
  have hcw : c < w.heap.size := HC.out.lt
  have HD1 : Hid (DK w (w.alloc (.cells #[] 4)) B c a len cap zs w.heap.size 0 0 []) := ⟨HC.out.new _, World.grownBy_alloc w _ _, World.ownsRow_lit w #[] 0 (Nat.le_refl _) (Nat.zero_le _) rfl⟩
  go_enter Try.func17, Try.ntmps17
  go_wp2_with fail
  obtain ⟨w1, hw1⟩ : ∃ w1, w.alloc (.cells #[] 4) = w1 := ⟨_, rfl⟩
  rw [hw1] at HD1 ⊢
  clear hw1 HC
  refine (l1Below_any B c a len cap zs 8 w1 HD1.out.1 hl (by omega) (by omega)).mono ?_
  rintro e w2 ⟨m, rfl, hm0, hm1, hc2, hg2⟩
  obtain ⟨M, rfl⟩ := Int.eq_ofNat_of_zero_le hm0
  have HD2 : Hid (DK w w2 B c a len cap zs w.heap.size 0 0 []) := HD1.out.call hc2 hg2 hcw
  clear hc2 hg2 HD1
  go_wp2_with fail
  go_loopw [3, 4] (fun v i wr => ∃ (j g n cp : Nat) (l : List Bool), i = .int .i64 (j : Int) ∧ v = .slice (some ⟨g, 0, none⟩) n cp ∧ n + j ≤ 8 ∧ Hid (DK w wr B c a len cap zs g n cp l)) (fun _ i _ => (intOf i).toNat)
  case atStart => exact ⟨M, w.heap.size, 0, 0, [], rfl, rfl, by omega, HD2⟩
  case round =>
    clear HD2
    obtain ⟨j, g, n, cp, l, rfl, rfl, hnj, HD⟩ := hrel
    by_cases hj : j = 0
    · subst hj
      go_wp2_with fail
      go_ret
      exact ⟨⟨_, n, cp, l, rfl, by omega, ⟨HD.out.2.2, trivial⟩⟩, HD.out.1, HD.out.2.1⟩
    · have hji : (0 : Int) < (j : Int) := by omega
      go_wp2_with fail
      refine (l1Once_any B c a len cap zs 2 wr HD.out.1 hl (by omega) (by omega)).mono ?_
      rintro e w4 ⟨y, rfl, hc4, hg4⟩
      have HD4 : Hid (DK w w4 B c a len cap zs g n cp l) := HD.out.call hc4 hg4 hcw
      have hsz := HD4.out.2.1.size
      clear hc4 hg4 HD
      have HN2 : Hid (∀ j u, [Value.bool y][j]? = some u → (w4.alloc (.cells #[.bool y] 4)).cell? ((⟨w4.heap.size, 0, none⟩ : Addr).add j) = some u) := oneB w4 y
      go_wp2_with (at_builtin; refine wpList_append_own _ rfl _ _ 27 rfl w.heap.size 4 i0 (.bool false) 1 1 Try.underlying27 hi hz0 hz1 hz2 rfl (by decide) (.slice (some ⟨g, 0, none⟩) n cp) n _ rfl (HD4.out.new _).2.2 ⟨w4.heap.size, 0, none⟩ 1 1 [.bool y] rfl rfl HN2.out (by simp [Value.oneCell']) (by unfold maxLen; omega) (by omega) (by simp; omega) ?_; intro v5 w5 hown5 hgrow5 _; refine Hid.out ?_)
      refine hidden ?_
      obtain ⟨g5, cp5, rfl, hd5⟩ := (HD4.out.new _).app hcw hown5 hgrow5
      have HD5 : Hid (DK w w5 B c a len cap zs g5 (n + 1) cp5 (l ++ [y])) := hd5
      clear hown5 hgrow5 hd5 HN2 HD4
      go_wp2_with fail
      go_roundw
      case rel => exact ⟨j - 1, g5, n + 1, cp5, l ++ [y], by go_num, rfl, by omega, HD5⟩
      case measure => simp [intOf]; omega

end Go.Proofs.Ytnbmlkkjgecigae
