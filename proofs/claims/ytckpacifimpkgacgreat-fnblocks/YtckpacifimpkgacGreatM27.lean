/- What the draw of a table, a size and a block keeps. What the draw of a table, a size and a block keeps: a variable of a table, a byte, a cut, an append. What the specification's PutPrefix answers: the bytes and behind them those of the prefixed number, in memory of its own; nothing that was there is written. For lists of at most 2^40 bytes that are not nil. What the specification's PutPrefix answers, where the number is not within its bounds. What the specification's PutPrefix answers, where the number is not within its bounds. -/
import Derived.Test.YtckpacifimpkgacGreatM26
import Derived.Test.YtckpacifimpkgacGreatM26
import Derived.Test.YtckpacifimpkgacGreatM26
import Derived.Test.YtckpacifimpkgacGreatM14
import Derived.Test.YtckpacifimpkgacGreatM03
import Derived.Test.YtckpacifimpkgacGreatM20
import Derived.Test.YtckpacifimpkgacGreatM01
namespace Go.Proofs.YtckpacifimpkgacGreat
open Go.RowKit
set_option linter.unusedVariables false

/-- What the draw keeps: the cursor, the answer's variable, the table's, its fields, the block. -/
def DG (w W : World) (c : Nat) (a : Option Addr) (len cap : Nat) (zs : List Int) (tb base : Nat) (m : Int) (av : Option Addr) (n cv : Nat) (xs : List Fld) (ba : Option Addr) (bl bc : Nat) (ys : List Int) : Prop :=
  Cur W c c a len cap zs ∧ Below w.heap.size w W ∧ Box2 W w.heap.size 26 (.int .i64 0) (.slice none 0 0) ∧ Box2 W tb 26 (.int .i64 m) (.slice av n cv) ∧ OwnF W base (.slice av n cv) n xs ∧ Owns W base ba bl bc ys

theorem DG.call {w W W' : World} {c : Nat} {a : Option Addr} {len cap : Nat} {zs : List Int} {tb base : Nat} {m : Int} {av : Option Addr} {n cv : Nat} {xs : List Fld} {ba : Option Addr} {bl bc : Nat} {ys : List Int} (h : DG w W c a len cap zs tb base m av n cv xs ba bl bc ys) (hc : Cur W' c c a len cap zs) (hg : W.grownBy W' (some c)) (hw : w.heap.size < c) (ht : c < tb) (hb : c < base) : DG w W' c a len cap zs tb base m av n cv xs ba bl bc ys := by
  obtain ⟨h1, h2, h3, h4, h5, h6⟩ := h
  refine ⟨hc, h2.grown hg h2.size (fun k hk => by injection hk with hk; omega), h3.grown hg (fun e => by injection e with e; omega), h4.grown hg (fun e => by injection e with e; omega), h5.grown hg (.inr (own_cur h5.1 hb)), ?_⟩
  refine h6.only (b := some ⟨c, 0, none⟩) hg (.inr fun e => ?_)
  have := (h6.lt c e).1
  omega

theorem DG.stays {w W W' : World} {c : Nat} {a : Option Addr} {len cap : Nat} {zs : List Int} {tb base : Nat} {m : Int} {av : Option Addr} {n cv : Nat} {xs : List Fld} {ba : Option Addr} {bl bc : Nat} {ys : List Int} (h : DG w W c a len cap zs tb base m av n cv xs ba bl bc ys) (hc : Cur W' c c a len cap zs) (hb : Below W.heap.size W W') : DG w W' c a len cap zs tb base m av n cv xs ba bl bc ys := by
  obtain ⟨h1, h2, h3, h4, h5, h6⟩ := h
  exact ⟨hc, h2.trans (hb.mono h2.size), h3.stays hb, h4.stays hb, h5.stays hb, h6.below hb⟩

theorem DG.new {w W : World} {c : Nat} {a : Option Addr} {len cap : Nat} {zs : List Int} {tb base : Nat} {m : Int} {av : Option Addr} {n cv : Nat} {xs : List Fld} {ba : Option Addr} {bl bc : Nat} {ys : List Int} (h : DG w W c a len cap zs tb base m av n cv xs ba bl bc ys) (o : Obj) : DG w (W.alloc o) c a len cap zs tb base m av n cv xs ba bl bc ys := h.stays (h.1.new o) ((Below.refl _ _).alloc (Nat.le_refl _) _)

theorem DG.drew {w W : World} {c : Nat} {a : Option Addr} {len cap : Nat} {zs : List Int} {tb base : Nat} {m : Int} {av : Option Addr} {n cv : Nat} {xs : List Fld} {ba : Option Addr} {bl bc : Nat} {ys : List Int} (h : DG w W c a len cap zs tb base m av n cv xs ba bl bc ys) : DG w W.drew c a len cap zs tb base m av n cv xs ba bl bc ys := h.stays h.1 (Below.refl _ _).drew

/-- Another block of bytes: the row that was, or a new one, has been written. -/
theorem DG.row {w W W' : World} {c : Nat} {a : Option Addr} {len cap : Nat} {zs : List Int} {tb base : Nat} {m : Int} {av : Option Addr} {n cv : Nat} {xs : List Fld} {ba : Option Addr} {bl bc : Nat} {ys : List Int} (h : DG w W c a len cap zs tb base m av n cv xs ba bl bc ys) (hg : W.grownBy W' (ba.map (·.block))) (hw : w.heap.size < c) (hb : c < base) {ba' : Option Addr} {bl' bc' : Nat} {ys' : List Int} (ho : Owns W' base ba' bl' bc' ys') : DG w W' c a len cap zs tb base m av n cv xs ba' bl' bc' ys' := by
  obtain ⟨h1, h2, h3, h4, h5, h6⟩ := h
  have hne : ∀ p cs t, W.heap[p]? = some (.cells cs t (0, 0)) → t ≠ 5 → ba.map (·.block) ≠ some p := fun p cs t hp ht e => by
    have := own_other' h6.1 hp ht
    rw [ownBlock_slice] at this
    exact this e
  refine ⟨h1.kept hg (fun k hk => by have := (h6.lt k hk).1; exact ⟨by omega, by omega⟩), h2.grown hg h2.size (fun k hk => ?_), h3.grown hg (hne _ _ _ h3 (by decide)), h4.grown hg (hne _ _ _ h4 (by decide)), h5.grown hg ?_, ho⟩
  · have := (h6.lt k hk).1
    omega
  · cases e : ba.map (·.block) with
    | none =>
      rw [ownBlock_slice]
      cases e2 : av.map (·.block) with
      | none => exact .inl rfl
      | some k => exact .inr (by simp)
    | some k =>
      refine .inr ?_
      rcases h6.1.2 with ⟨he, _⟩ | ⟨g, cap', cur, he, _, hgg, _⟩
      · injection he with he _
        subst he
        cases e
      · injection he with he _
        subst he
        injection e with e
        subst e
        exact own_other' h5.1 hgg (by decide)

end Go.Proofs.YtckpacifimpkgacGreat

namespace Go.Proofs.YtckpacifimpkgacGreat
open Go.RowKit
set_option linter.unusedVariables false

theorem DG.box {w W : World} {c : Nat} {a : Option Addr} {len cap : Nat} {zs : List Int} {tb base : Nat} {m : Int} {av : Option Addr} {n cv : Nat} {xs : List Fld} {ba : Option Addr} {bl bc : Nat} {ys : List Int} (h : DG w W c a len cap zs tb base m av n cv xs ba bl bc ys) {b : Nat} {x y : Value} (hq : Box2 W b 26 x y) (hw : w.heap.size < c) (hb : c < b) (hne : b ≠ tb) (u v : Value) : DG w ((W.setCell ⟨b, 0, none⟩ u).setCell ⟨b, 1, none⟩ v) c a len cap zs tb base m av n cv xs ba bl bc ys := by
  obtain ⟨h1, h2, h3, h4, h5, h6⟩ := h
  have e1 : (Value.slice av n cv).ownBlock ≠ some b := own_other' h5.1 hq (by decide)
  have h2a : Below w.heap.size w (W.setCell ⟨b, 0, none⟩ u) := h2.setCell (p := ⟨b, 0, none⟩) (show w.heap.size ≤ b by omega) _
  have h2b := h2a.setCell (p := ⟨b, 1, none⟩) (show w.heap.size ≤ b by omega) v
  refine ⟨(h1.put hb _).put hb _, h2b, ?_, ?_, (h5.grown (gset _ b 0 _) (.inr e1)).grown (gset _ b 1 _) (.inr e1), owns_setTwo h6 hq _ _⟩
  · exact (set_block_other _ _ _ _ _ (by omega)).trans ((set_block_other _ _ _ _ _ (by omega)).trans h3)
  · exact (set_block_other _ _ _ _ _ (Ne.symm hne)).trans ((set_block_other _ _ _ _ _ (Ne.symm hne)).trans h4)

/-- A byte is written. -/
theorem owns_byte {W : World} {base n cap g k : Nat} {zs : List Int} (h : Owns W base (some ⟨g, 0, none⟩) n cap zs) (hk : k < n) (v : Int) (h0 : 0 ≤ v) (h1 : v ≤ 255) : Owns (W.setCell ⟨g, k, none⟩ (.int .u8 v)) base (some ⟨g, 0, none⟩) n cap (zs.set k v) ∧ (∃ u, W.cell? ⟨g, k, none⟩ = some u) ∧ W.frozen? ⟨g, k, none⟩ = false := by
  rcases h.1.2 with ⟨he, _⟩ | ⟨g', cap', cur, he, hbg, hg, hnc, hcm, hcs, htake⟩
  · cases he
  · injection he with e1 e2 e3
    injection e1 with e1
    injection e1 with e1
    subst e1
    subst e3
    have hlen := h.1.1
    have hkc : k < cur.size := by omega
    refine ⟨⟨⟨?_, .inr ⟨g, cap, cur.set k (.int .u8 v) hkc, rfl, hbg, ?_, hnc, hcm, ?_, ?_⟩⟩, ?_⟩, ⟨cur[k], ?_⟩, ?_⟩
    · simpa using hlen
    · rw [setCell_eq_setRow W g k _ _ (0, 0) _ hg, setRow_heap W g _ _ _ (0, 0) hg]
      simp [Array.setIfInBounds, hkc]
    · simpa using hcs
    · have hm : (zs.set k v).map (Value.int .u8) = (zs.map (Value.int .u8)).set k (.int .u8 v) := by simp [List.map_set]
      rw [hm, ← htake, Array.toList_set, List.take_set]
    · intro x hx
      rcases List.mem_or_eq_of_mem_set hx with hx | rfl
      · exact h.2 x hx
      · exact ⟨h0, h1⟩
    · simp [World.cell?, hg, hkc]
    · simp [World.frozen?, hg]

/-- The last byte is cut off. -/
theorem owns_less {W : World} {base n cap : Nat} {a : Option Addr} {zs : List Int} (h : Owns W base a (n + 1) cap zs) : Owns W base a n cap (zs.take n) := by
  rcases h.1.2 with ⟨he, h0⟩ | ⟨g', cap', cur, he, hbg, hg, hnc, hcm, hcs, htake⟩
  · omega
  · injection he with e1 e2 e3
    subst e1
    subst e3
    have hlen := h.1.1
    refine ⟨⟨?_, .inr ⟨g', cap, cur, rfl, hbg, hg, by omega, hcm, hcs, ?_⟩⟩, fun x hx => h.2 x (List.mem_of_mem_take hx)⟩
    · simp at hlen ⊢
      omega
    · rw [List.map_take, ← htake, List.take_take]
      congr 1
      omega

theorem DG.app {w W W' : World} {c : Nat} {a : Option Addr} {len cap : Nat} {zs : List Int} {tb base : Nat} {m : Int} {av : Option Addr} {n cv : Nat} {xs : List Fld} {ba : Option Addr} {bl bc : Nat} {ys : List Int} (h : DG w W c a len cap zs tb base m av n cv xs ba bl bc ys) (hw : w.heap.size < c) (hb : c < base) {v : Value} {x : Int} (h0 : 0 ≤ x) (h1 : x ≤ 255)
    (ho : W'.ownsRow base 5 1 v (bl + 1) (ys.map (Value.int .u8) ++ [.int .u8 x])) (hg : W.grownBy W' (Value.slice ba bl bc).ownBlock) : ∃ ba' bc', v = .slice ba' (bl + 1) bc' ∧ DG w W' c a len cap zs tb base m av n cv xs ba' (bl + 1) bc' (ys ++ [x]) := by
  obtain ⟨ba', bc', rfl⟩ := shape_of_owns ho
  refine ⟨ba', bc', rfl, h.row (by rw [ownBlock_slice] at hg; exact hg) hw hb ⟨by simpa using ho, fun y hy => ?_⟩⟩
  rcases List.mem_append.1 hy with hy | hy
  · exact h.2.2.2.2.2.2 y hy
  · obtain rfl : y = x := by simpa using hy
    exact ⟨h0, h1⟩

end Go.Proofs.YtckpacifimpkgacGreat

namespace Go.Proofs.YtckpacifimpkgacGreat
open Go.RowKit
set_option linter.unusedVariables false

set_option maxRecDepth 10000 in
set_option maxHeartbeats 800000 in
theorem specPfx_yes (b off len cap B F n : Nat) (zs : List Int) (w : World) (hs : Seg w (some ⟨b, off, none⟩) len zs) (hl : len ≤ 1099511627776) (h1 : 1 ≤ B) (h8 : B ≤ 8) (hF : F ≤ 255) (hn : n ≤ 16777216) :
    Calls Tryz.prog 22 #[.slice (some ⟨b, off, none⟩) len cap, .int .i64 B, .int .i64 F, .int .i64 n] w fun e w' => ∃ a' cap', e = .returned (.slice a' (zs ++ pfx B F n).length cap') ∧ Owns w' w.heap.size a' (zs ++ pfx B F n).length cap' (zs ++ pfx B F n) ∧ Below w.heap.size w w' := by
  obtain ⟨i0, hi, hz0, hz1, hz2⟩ := info_parts Tryz.info5
  have HS : Hid (Seg w (some ⟨b, off, none⟩) len zs) := hs
  have hzl : zs.length = len := hs.1
  have hS1 : Hid (Seg (w.alloc (.cells #[] 5)) (some ⟨b, off, none⟩) len zs) := hs.below ((Below.refl _ _).alloc (Nat.le_refl _) _)
  have hO1 : Hid ((w.alloc (.cells #[] 5)).ownsRow w.heap.size 5 1 (.slice (some ⟨w.heap.size, 0, none⟩) 0 0) 0 []) := World.ownsRow_lit w #[] 0 (Nat.le_refl _) (Nat.zero_le _) rfl
  clear hs
  have HR : Hid (∀ x ∈ zs ++ pfx B F n, 0 ≤ x ∧ x ≤ 255) := by
    intro x hx
    rcases List.mem_append.1 hx with hx | hx
    · exact HS.out.2.1 x hx
    · exact pfx_range B F n h1 h8 hF x hx
  have hk1 : (1 : Int) ≤ (B : Int) := by omega
  have hk8 : (B : Int) ≤ 8 := by omega
  have hF0 : (0 : Int) ≤ (F : Int) := by omega
  have hF1 : (F : Int) ≤ 255 := by omega
  have hni : (n : Int) ≤ 16777216 := by omega
  have hn0 : (0 : Int) ≤ (n : Int) := by omega
  have HMM : Hid (wrap64 (wrap64 ((2 : Int) ^ B) - 1) = ((2 ^ B - 1 : Nat) : Int)) := mask_form B h1 h8
  have hand := andNot_tab B (by omega) F (by omega)
  have htop := top_small B F h1 h8 hF
  have hps := pow_small B h1 h8
  have HJ : Hid (∀ x : Nat, x < 2 ^ B → bits .or .i64 ((F / 2 ^ B * 2 ^ B : Nat) : Int) (x : Int) = ((F / 2 ^ B * 2 ^ B + x : Nat) : Int)) := fun x hx => or_join _ B x hx (by omega) (by omega)
  have HP : Hid (pfx B F n = if n < 2 ^ B - 1 then [((F / 2 ^ B * 2 ^ B + n : Nat) : Int)] else ((F / 2 ^ B * 2 ^ B + (2 ^ B - 1) : Nat) : Int) :: grp 5 (n - (2 ^ B - 1))) := rfl
  generalize F / 2 ^ B * 2 ^ B = f at *
  have HJm : Hid (bits .or .i64 (f : Int) ((2 ^ B - 1 : Nat) : Int) = ((f + (2 ^ B - 1) : Nat) : Int)) := HJ.out _ (by omega)
  have HJn : Hid (n < 2 ^ B - 1 → bits .or .i64 (f : Int) (n : Int) = ((f + n : Nat) : Int)) := fun h => HJ.out _ (by omega)
  clear HJ
  generalize pfx B F n = P at *
  generalize hmm : 2 ^ B - 1 = m at *
  have hm1 : 1 ≤ m ∧ m ≤ 255 := by omega
  clear hps hmm
  by_cases hlt : n < m
  · have hor := HJn.out hlt
    have hlti : (n : Int) < (m : Int) := by omega
    have hfn : ((f + n : Nat) : Int) ≤ 255 := by omega
    have HPn : Hid (P = [((f + n : Nat) : Int)]) := by show P = _; rw [HP.out, if_pos hlt]
    clear HJm HJn HP
    generalize hxx : ((f + n : Nat) : Int) = x at *
    have hx0 : 0 ≤ x := by omega
    clear hxx
    go_enter Tryz.func22, Tryz.ntmps22
    go_wp2_with (at_builtin; refine wpList_append_own _ rfl _ _ 22 rfl w.heap.size 5 i0 (.int .u8 0) 1 1 Tryz.underlying22 hi hz0 hz1 hz2 rfl (by decide) (.slice (some ⟨w.heap.size, 0, none⟩) 0 0) 0 [] rfl hO1.out ⟨b, off, none⟩ len cap (zs.map (Value.int .u8)) rfl (by simp [hzl]) (cells_ints hS1.out) (ints_one zs) (by unfold maxLen; omega) (by omega) (by simp) ?_; intro v1 w1 hown1 hgrow1 _; refine Hid.out ?_)
    refine hidden ?_
    have HO : Hid (w1.ownsRow w.heap.size 5 1 v1 len (zs.map (Value.int .u8))) := by
      show World.ownsRow _ _ _ _ _ _ _
      simpa using hown1
    have HB : Hid (Below w.heap.size w w1) := ((Below.refl _ _).alloc (Nat.le_refl _) _).grown hgrow1 (by simp) (by simp [Value.ownBlock])
    have hsz := HB.out.size
    clear hown1 hgrow1 hO1 hS1
    have HN : Hid (∀ j u, [Value.int .u8 x][j]? = some u → (w1.alloc (.cells #[.int .u8 x] 5)).cell? ((⟨w1.heap.size, 0, none⟩ : Addr).add j) = some u) := one_new w1 x
    go_wp2_with fail
    refine (tin_yes _ _ _ _ hk1 hk8).mono ?_
    rintro e w2 ⟨rfl, rfl⟩
    go_wp2_with fail
    refine (tin_yes _ _ _ _ hF0 hF1).mono ?_
    rintro e w3 ⟨rfl, rfl⟩
    have hA : len + 1 ≤ maxLen ∧ (len + 1) * 1 ≤ 140737488355328 := ⟨by unfold maxLen; omega, by omega⟩
    have hBs : w.heap.size ≤ (w3.alloc (.cells #[.int .u8 x] 5)).heap.size := by simp; omega
    have hmask := HMM.out
    go_wp2_with (at_builtin; refine wpList_append_own _ rfl _ _ 22 rfl w.heap.size 5 i0 (.int .u8 0) 1 1 Tryz.underlying22 hi hz0 hz1 hz2 rfl (by decide) v1 len _ rfl (HO.out.alloc _) ⟨w3.heap.size, 0, none⟩ 1 1 [.int .u8 x] rfl rfl HN.out (ints_one [x]) hA.1 hA.2 hBs ?_; intro v2 w4 hown hgrow _; refine Hid.out ?_)
    refine hidden ?_
    clear hmask HMM
    have HB2 : Hid (Below w.heap.size w w4) := (HB.out.alloc (by omega) _).grown hgrow (by simp; omega) (fun q hq => (HO.out.lt q hq).1)
    have HO2 : Hid (w4.ownsRow w.heap.size 5 1 v2 (zs ++ P).length ((zs ++ P).map (Value.int .u8))) := by
      show World.ownsRow _ _ _ _ _ _ _
      rw [HPn.out, List.map_append, List.length_append, hzl]
      exact hown
    clear hown hgrow HO HB HN
    obtain ⟨a', cap', rfl⟩ := shape_of_owns HO2.out
    go_wp2_with fail
    go_ret
    exact ⟨a', cap', rfl, ⟨HO2.out, HR.out⟩, HB2.out⟩
  · have hor := HJm.out
    have hlti : ¬ (n : Int) < (m : Int) := by omega
    have hfn : ((f + m : Nat) : Int) ≤ 255 := by omega
    have HPn : Hid (P = ((f + m : Nat) : Int) :: grp 5 (n - m)) := by show P = _; rw [HP.out, if_neg hlt]
    clear HJm HJn HP
    generalize hxx : ((f + m : Nat) : Int) = x at *
    have hx0 : 0 ≤ x := by omega
    clear hxx
    go_enter Tryz.func22, Tryz.ntmps22
    go_wp2_with (at_builtin; refine wpList_append_own _ rfl _ _ 22 rfl w.heap.size 5 i0 (.int .u8 0) 1 1 Tryz.underlying22 hi hz0 hz1 hz2 rfl (by decide) (.slice (some ⟨w.heap.size, 0, none⟩) 0 0) 0 [] rfl hO1.out ⟨b, off, none⟩ len cap (zs.map (Value.int .u8)) rfl (by simp [hzl]) (cells_ints hS1.out) (ints_one zs) (by unfold maxLen; omega) (by omega) (by simp) ?_; intro v1 w1 hown1 hgrow1 _; refine Hid.out ?_)
    refine hidden ?_
    have HO : Hid (w1.ownsRow w.heap.size 5 1 v1 len (zs.map (Value.int .u8))) := by
      show World.ownsRow _ _ _ _ _ _ _
      simpa using hown1
    have HB : Hid (Below w.heap.size w w1) := ((Below.refl _ _).alloc (Nat.le_refl _) _).grown hgrow1 (by simp) (by simp [Value.ownBlock])
    have hsz := HB.out.size
    clear hown1 hgrow1 hO1 hS1
    have HN : Hid (∀ j u, [Value.int .u8 x][j]? = some u → (w1.alloc (.cells #[.int .u8 x] 5)).cell? ((⟨w1.heap.size, 0, none⟩ : Addr).add j) = some u) := one_new w1 x
    go_wp2_with fail
    refine (tin_yes _ _ _ _ hk1 hk8).mono ?_
    rintro e w2 ⟨rfl, rfl⟩
    go_wp2_with fail
    refine (tin_yes _ _ _ _ hF0 hF1).mono ?_
    rintro e w3 ⟨rfl, rfl⟩
    have hA : len + 1 ≤ maxLen ∧ (len + 1) * 1 ≤ 140737488355328 := ⟨by unfold maxLen; omega, by omega⟩
    have hBs : w.heap.size ≤ (w3.alloc (.cells #[.int .u8 x] 5)).heap.size := by simp; omega
    have hmask := HMM.out
    go_wp2_with (at_builtin; refine wpList_append_own _ rfl _ _ 22 rfl w.heap.size 5 i0 (.int .u8 0) 1 1 Tryz.underlying22 hi hz0 hz1 hz2 rfl (by decide) v1 len _ rfl (HO.out.alloc _) ⟨w3.heap.size, 0, none⟩ 1 1 [.int .u8 x] rfl rfl HN.out (ints_one [x]) hA.1 hA.2 hBs ?_; intro v2 w4 hown hgrow _; refine Hid.out ?_)
    refine hidden ?_
    clear hmask HMM
    have HB2 : Hid (Below w.heap.size w w4) := (HB.out.alloc (by omega) _).grown hgrow (by simp; omega) (fun q hq => (HO.out.lt q hq).1)
    have HO2 : Hid (w4.ownsRow w.heap.size 5 1 v2 (len + 1 + 0) ((zs ++ x :: []).map (Value.int .u8))) := by
      show World.ownsRow _ _ _ _ _ _ _
      rw [List.map_append]
      exact hown
    clear hown hgrow HO HB HN
    obtain ⟨v0, hv0⟩ : ∃ v0, n - m = v0 := ⟨_, rfl⟩
    have hnv : (n : Int) - (m : Int) = (v0 : Int) := by omega
    rw [hv0] at HPn
    have hv0b : v0 ≤ 16777216 := by omega
    clear hv0 hor hand hA hBs
    go_wp2_with fail
    clear hnv
    go_loopw [3, 9] (fun nn vv wr => ∃ (k v : Nat) (pre : List Int), 1 ≤ k ∧ v ≤ 16777216 ∧ nn = .int .i64 v ∧ Hid (v < 128 ^ k) ∧ Hid (pre ++ grp k v = grp 5 v0) ∧ pre.length + k = 5 ∧ Hid (wr.ownsRow w.heap.size 5 1 vv (len + 1 + pre.length) ((zs ++ x :: pre).map (Value.int .u8))) ∧ Hid (Below w.heap.size w wr)) (fun nn _ _ => (intOf nn).toNat)
    case atStart => exact ⟨5, v0, [], by omega, hv0b, rfl, by show v0 < 128 ^ 5; omega, rfl, rfl, HO2, HB2⟩
    case round =>
      clear HO2 HB2
      obtain ⟨k, v, pre, hk, hv, rfl, HV, HG, hpk, HO, HB⟩ := hrel
      obtain ⟨k', rfl⟩ : ∃ k', k = k' + 1 := ⟨k - 1, by omega⟩
      have hsz := HB.out.size
      have hvi : (v : Int) ≤ 16777216 := by omega
      by_cases hbig : 127 < v
      · have hgf := group_form v hv
        have HG2 : Hid ((pre ++ [((v % 128 + 128 : Nat) : Int)]) ++ grp k' (v / 128) = grp 5 v0) := by
          show _ = _
          rw [← HG.out, grp, if_pos hbig, List.append_assoc]
          rfl
        have HV2 : Hid (v / 128 < 128 ^ k') := by
          show _ < _
          have := HV.out
          rw [Nat.pow_succ] at this
          omega
        have hk2 : 1 ≤ k' := by
          have := HV2.out
          by_cases h0 : k' = 0
          · subst h0; simp at this; omega
          · omega
        generalize hyy : ((v % 128 + 128 : Nat) : Int) = y at *
        have hy0 : 0 ≤ y := by omega
        have hy1 : y ≤ 255 := by omega
        clear hyy
        have HN : Hid (∀ j u, [Value.int .u8 y][j]? = some u → (wr.alloc (.cells #[.int .u8 y] 5)).cell? ((⟨wr.heap.size, 0, none⟩ : Addr).add j) = some u) := one_new wr y
        go_wp2_with (at_builtin; refine wpList_append_own _ rfl _ _ 22 rfl w.heap.size 5 i0 (.int .u8 0) 1 1 Tryz.underlying22 hi hz0 hz1 hz2 rfl (by decide) u9 (len + 1 + pre.length) _ rfl (HO.out.alloc _) ⟨wr.heap.size, 0, none⟩ 1 1 [.int .u8 y] rfl rfl HN.out (ints_one [y]) (by unfold maxLen; omega) (by omega) (by simp; omega) ?_; intro v3 w5 hown hgrow _; refine Hid.out ?_)
        refine hidden ?_
        have HB3 : Hid (Below w.heap.size w w5) := (HB.out.alloc (by omega) _).grown hgrow (by simp; omega) (fun q hq => (HO.out.lt q hq).1)
        have HO3 : Hid (w5.ownsRow w.heap.size 5 1 v3 (len + 1 + (pre ++ [y]).length) ((zs ++ x :: (pre ++ [y])).map (Value.int .u8))) := by
          show World.ownsRow _ _ _ _ _ _ _
          have e : zs ++ x :: (pre ++ [y]) = (zs ++ x :: pre) ++ [y] := by simp
          rw [e, List.map_append, List.length_append, ← Nat.add_assoc]
          exact hown
        clear hown hgrow HO HB HN hgf
        go_wp2_with fail
        go_roundw
        case rel => exact ⟨k', v / 128, pre ++ [y], hk2, by omega, by go_num, HV2, HG2, by simp; omega, HO3, HB3⟩
        case measure => simp [intOf]; omega
      · have hbi : ¬ (127 : Int) < (v : Int) := by omega
        have HG2 : Hid (pre ++ [(v : Int)] = grp 5 v0) := by
          show _ = _
          rw [← HG.out, grp, if_neg hbig]
        clear hbig
        have HN : Hid (∀ j u, [Value.int .u8 (v : Int)][j]? = some u → (wr.alloc (.cells #[.int .u8 (v : Int)] 5)).cell? ((⟨wr.heap.size, 0, none⟩ : Addr).add j) = some u) := one_new wr v
        go_wp2_with (at_builtin; refine wpList_append_own _ rfl _ _ 22 rfl w.heap.size 5 i0 (.int .u8 0) 1 1 Tryz.underlying22 hi hz0 hz1 hz2 rfl (by decide) u9 (len + 1 + pre.length) _ rfl (HO.out.alloc _) ⟨wr.heap.size, 0, none⟩ 1 1 [.int .u8 (v : Int)] rfl rfl HN.out (ints_one [(v : Int)]) (by unfold maxLen; omega) (by omega) (by simp; omega) ?_; intro v3 w5 hown hgrow _; refine Hid.out ?_)
        refine hidden ?_
        have HB3 : Hid (Below w.heap.size w w5) := (HB.out.alloc (by omega) _).grown hgrow (by simp; omega) (fun q hq => (HO.out.lt q hq).1)
        have HO3 : Hid (w5.ownsRow w.heap.size 5 1 v3 (zs ++ P).length ((zs ++ P).map (Value.int .u8))) := by
          show World.ownsRow _ _ _ _ _ _ _
          have e : zs ++ P = (zs ++ x :: pre) ++ [(v : Int)] := by rw [HPn.out, ← HG2.out]; simp
          have el : (zs ++ P).length = len + 1 + pre.length + 1 := by rw [e]; simp [hzl]; omega
          rw [el, e, List.map_append]
          exact hown
        clear hown hgrow HO HB HN
        obtain ⟨a', cap', rfl⟩ := shape_of_owns HO3.out
        go_wp2_with fail
        go_ret
        exact ⟨a', cap', rfl, ⟨HO3.out, HR.out⟩, HB3.out⟩

end Go.Proofs.YtckpacifimpkgacGreat

namespace Go.Proofs.YtckpacifimpkgacGreat
open Go.RowKit
set_option linter.unusedVariables false

set_option maxRecDepth 10000 in
set_option maxHeartbeats 800000 in
theorem specPfx_neg (b off len cap B F : Nat) (nn : Int) (zs : List Int) (w : World) (hs : Seg w (some ⟨b, off, none⟩) len zs) (hl : len ≤ 1099511627776) (h1 : 1 ≤ B) (h8 : B ≤ 8) (hF : F ≤ 255) (hn : nn < 0) :
    Calls Tryz.prog 22 #[.slice (some ⟨b, off, none⟩) len cap, .int .i64 B, .int .i64 F, .int .i64 nn] w fun e w' => ∃ a' cap', e = .returned (.slice a' (zs ++ pfx B F 0).length cap') ∧ Owns w' w.heap.size a' (zs ++ pfx B F 0).length cap' (zs ++ pfx B F 0) ∧ Below w.heap.size w w' := by
  obtain ⟨i0, hi, hz0, hz1, hz2⟩ := info_parts Tryz.info5
  have HS : Hid (Seg w (some ⟨b, off, none⟩) len zs) := hs
  have hzl : zs.length = len := hs.1
  have hS1 : Hid (Seg (w.alloc (.cells #[] 5)) (some ⟨b, off, none⟩) len zs) := hs.below ((Below.refl _ _).alloc (Nat.le_refl _) _)
  have hO1 : Hid ((w.alloc (.cells #[] 5)).ownsRow w.heap.size 5 1 (.slice (some ⟨w.heap.size, 0, none⟩) 0 0) 0 []) := World.ownsRow_lit w #[] 0 (Nat.le_refl _) (Nat.zero_le _) rfl
  clear hs
  have HR : Hid (∀ x ∈ zs ++ pfx B F 0, 0 ≤ x ∧ x ≤ 255) := by
    intro x hx
    rcases List.mem_append.1 hx with hx | hx
    · exact HS.out.2.1 x hx
    · exact pfx_range B F 0 h1 h8 hF x hx
  have hk1 : (1 : Int) ≤ (B : Int) := by omega
  have hk8 : (B : Int) ≤ 8 := by omega
  have hF0 : (0 : Int) ≤ (F : Int) := by omega
  have hF1 : (F : Int) ≤ 255 := by omega
  have HMM : Hid (wrap64 (wrap64 ((2 : Int) ^ B) - 1) = ((2 ^ B - 1 : Nat) : Int)) := mask_form B h1 h8
  have hand := andNot_tab B (by omega) F (by omega)
  have htop := top_small B F h1 h8 hF
  have hps := pow_small B h1 h8
  have HJ : Hid (∀ x : Nat, x < 2 ^ B → bits .or .i64 ((F / 2 ^ B * 2 ^ B : Nat) : Int) (x : Int) = ((F / 2 ^ B * 2 ^ B + x : Nat) : Int)) := fun x hx => or_join _ B x hx (by omega) (by omega)
  have HP : Hid (pfx B F 0 = if 0 < 2 ^ B - 1 then [((F / 2 ^ B * 2 ^ B + 0 : Nat) : Int)] else ((F / 2 ^ B * 2 ^ B + (2 ^ B - 1) : Nat) : Int) :: grp 5 (0 - (2 ^ B - 1))) := rfl
  generalize F / 2 ^ B * 2 ^ B = f at *
  have HJm : Hid (bits .or .i64 (f : Int) ((2 ^ B - 1 : Nat) : Int) = ((f + (2 ^ B - 1) : Nat) : Int)) := HJ.out _ (by omega)
  have HJn : Hid (bits .or .i64 (f : Int) 0 = (f : Int)) := HJ.out 0 (by omega)
  clear HJ
  generalize pfx B F 0 = P at *
  generalize hmm : 2 ^ B - 1 = m at *
  have hm1 : 1 ≤ m ∧ m ≤ 255 := by omega
  clear hps hmm
  have hlt : 0 < m := by omega
  have hor := HJn.out
  have hlti : (0 : Int) < (m : Int) := by omega
  have hfn : ((f + 0 : Nat) : Int) ≤ 255 := by omega
  have HPn : Hid (P = [((f + 0 : Nat) : Int)]) := by show P = _; rw [HP.out, if_pos hlt]
  clear HJm HJn HP
  rw [Nat.add_zero] at HPn hfn
  generalize hxx : (f : Int) = x at *
  have hx0 : 0 ≤ x := by omega
  clear hxx
  go_enter Tryz.func22, Tryz.ntmps22
  go_wp2_with (at_builtin; refine wpList_append_own _ rfl _ _ 22 rfl w.heap.size 5 i0 (.int .u8 0) 1 1 Tryz.underlying22 hi hz0 hz1 hz2 rfl (by decide) (.slice (some ⟨w.heap.size, 0, none⟩) 0 0) 0 [] rfl hO1.out ⟨b, off, none⟩ len cap (zs.map (Value.int .u8)) rfl (by simp [hzl]) (cells_ints hS1.out) (ints_one zs) (by unfold maxLen; omega) (by omega) (by simp) ?_; intro v1 w1 hown1 hgrow1 _; refine Hid.out ?_)
  refine hidden ?_
  have HO : Hid (w1.ownsRow w.heap.size 5 1 v1 len (zs.map (Value.int .u8))) := by
    show World.ownsRow _ _ _ _ _ _ _
    simpa using hown1
  have HB : Hid (Below w.heap.size w w1) := ((Below.refl _ _).alloc (Nat.le_refl _) _).grown hgrow1 (by simp) (by simp [Value.ownBlock])
  have hsz := HB.out.size
  clear hown1 hgrow1 hO1 hS1
  have HN : Hid (∀ j u, [Value.int .u8 x][j]? = some u → (w1.alloc (.cells #[.int .u8 x] 5)).cell? ((⟨w1.heap.size, 0, none⟩ : Addr).add j) = some u) := one_new w1 x
  go_wp2_with fail
  refine (tin_yes _ _ _ _ hk1 hk8).mono ?_
  rintro e w2 ⟨rfl, rfl⟩
  go_wp2_with fail
  refine (tin_yes _ _ _ _ hF0 hF1).mono ?_
  rintro e w3 ⟨rfl, rfl⟩
  have hA : len + 1 ≤ maxLen ∧ (len + 1) * 1 ≤ 140737488355328 := ⟨by unfold maxLen; omega, by omega⟩
  have hBs : w.heap.size ≤ (w3.alloc (.cells #[.int .u8 x] 5)).heap.size := by simp; omega
  have hmask := HMM.out
  go_wp2_with (at_builtin; refine wpList_append_own _ rfl _ _ 22 rfl w.heap.size 5 i0 (.int .u8 0) 1 1 Tryz.underlying22 hi hz0 hz1 hz2 rfl (by decide) v1 len _ rfl (HO.out.alloc _) ⟨w3.heap.size, 0, none⟩ 1 1 [.int .u8 x] rfl rfl HN.out (ints_one [x]) hA.1 hA.2 hBs ?_; intro v2 w4 hown hgrow _; refine Hid.out ?_)
  refine hidden ?_
  clear hmask HMM
  have HB2 : Hid (Below w.heap.size w w4) := (HB.out.alloc (by omega) _).grown hgrow (by simp; omega) (fun q hq => (HO.out.lt q hq).1)
  have HO2 : Hid (w4.ownsRow w.heap.size 5 1 v2 (zs ++ P).length ((zs ++ P).map (Value.int .u8))) := by
    show World.ownsRow _ _ _ _ _ _ _
    rw [HPn.out, List.map_append, List.length_append, hzl]
    exact hown
  clear hown hgrow HO HB HN
  obtain ⟨a', cap', rfl⟩ := shape_of_owns HO2.out
  go_wp2_with fail
  go_ret
  exact ⟨a', cap', rfl, ⟨HO2.out, HR.out⟩, HB2.out⟩

set_option maxRecDepth 10000 in
set_option maxHeartbeats 400000 in
theorem specPfx_no (b off len cap : Nat) (bits first n : Int) (zs : List Int) (w : World) (hs : Seg w (some ⟨b, off, none⟩) len zs) (hl : len ≤ 1099511627776) (h : ¬ (1 ≤ bits ∧ bits ≤ 8 ∧ 0 ≤ first ∧ first ≤ 255)) :
    Calls Tryz.prog 22 #[.slice (some ⟨b, off, none⟩) len cap, .int .i64 bits, .int .i64 first, .int .i64 n] w fun e w' => ∃ a' cap', e = .returned (.slice a' len cap') ∧ Owns w' w.heap.size a' len cap' zs ∧ Below w.heap.size w w' := by
  obtain ⟨i0, hi, hz0, hz1, hz2⟩ := info_parts Tryz.info5
  have HS : Hid (Seg w (some ⟨b, off, none⟩) len zs) := hs
  have hzl : zs.length = len := hs.1
  have hS1 : Hid (Seg (w.alloc (.cells #[] 5)) (some ⟨b, off, none⟩) len zs) := hs.below ((Below.refl _ _).alloc (Nat.le_refl _) _)
  have hO1 : Hid ((w.alloc (.cells #[] 5)).ownsRow w.heap.size 5 1 (.slice (some ⟨w.heap.size, 0, none⟩) 0 0) 0 []) := World.ownsRow_lit w #[] 0 (Nat.le_refl _) (Nat.zero_le _) rfl
  have HN : Hid (¬ (1 ≤ bits ∧ bits ≤ 8 ∧ 0 ≤ first ∧ first ≤ 255)) := h
  clear hs h
  go_enter Tryz.func22, Tryz.ntmps22
  go_wp2_with (at_builtin; refine wpList_append_own _ rfl _ _ 22 rfl w.heap.size 5 i0 (.int .u8 0) 1 1 Tryz.underlying22 hi hz0 hz1 hz2 rfl (by decide) (.slice (some ⟨w.heap.size, 0, none⟩) 0 0) 0 [] rfl hO1.out ⟨b, off, none⟩ len cap (zs.map (Value.int .u8)) rfl (by simp [hzl]) (cells_ints hS1.out) (ints_one zs) (by unfold maxLen; omega) (by omega) (by simp) ?_; intro v1 w1 hown1 hgrow1 _; refine Hid.out ?_)
  refine hidden ?_
  have HO : Hid (w1.ownsRow w.heap.size 5 1 v1 len (zs.map (Value.int .u8))) := by
    show World.ownsRow _ _ _ _ _ _ _
    simpa using hown1
  have HB : Hid (Below w.heap.size w w1) := ((Below.refl _ _).alloc (Nat.le_refl _) _).grown hgrow1 (by simp) (by simp [Value.ownBlock])
  clear hown1 hgrow1 hO1 hS1
  obtain ⟨a', cap', rfl⟩ := shape_of_owns HO.out
  by_cases hb : 1 ≤ bits ∧ bits ≤ 8
  · have HF : Hid (first < 0 ∨ 255 < first) := by
      have := HN.out
      show _ ∨ _
      omega
    obtain ⟨hb1, hb2⟩ := hb
    go_wp2_with fail
    refine (tin_yes _ _ _ _ hb1 hb2).mono ?_
    rintro e w2 ⟨rfl, rfl⟩
    go_wp2_with fail
    refine (tin_no _ _ _ _ HF.out).mono ?_
    rintro e w3 ⟨rfl, rfl⟩
    go_wp2_with fail
    go_ret
    exact ⟨a', cap', rfl, ⟨HO.out, HS.out.2.1⟩, HB.out⟩
  · have HF : Hid (bits < 1 ∨ 8 < bits) := by show _ ∨ _; omega
    clear hb
    go_wp2_with fail
    refine (tin_no _ _ _ _ HF.out).mono ?_
    rintro e w2 ⟨rfl, rfl⟩
    go_wp2_with fail
    go_ret
    exact ⟨a', cap', rfl, ⟨HO.out, HS.out.2.1⟩, HB.out⟩

end Go.Proofs.YtckpacifimpkgacGreat

namespace Go.Proofs.YtckpacifimpkgacGreat
open Go.RowKit
set_option linter.unusedVariables false

set_option maxRecDepth 10000 in
set_option maxHeartbeats 800000 in
theorem specPfx_top (b off len cap B F M : Nat) (nn : Int) (hM : M = 16777216) (zs : List Int) (w : World) (hs : Seg w (some ⟨b, off, none⟩) len zs) (hl : len ≤ 1099511627776) (h1 : 1 ≤ B) (h8 : B ≤ 8) (hF : F ≤ 255) (hn : 16777216 < nn) :
    Calls Tryz.prog 22 #[.slice (some ⟨b, off, none⟩) len cap, .int .i64 B, .int .i64 F, .int .i64 nn] w fun e w' => ∃ a' cap', e = .returned (.slice a' (zs ++ pfx B F M).length cap') ∧ Owns w' w.heap.size a' (zs ++ pfx B F M).length cap' (zs ++ pfx B F M) ∧ Below w.heap.size w w' := by
  obtain ⟨i0, hi, hz0, hz1, hz2⟩ := info_parts Tryz.info5
  have HS : Hid (Seg w (some ⟨b, off, none⟩) len zs) := hs
  have hzl : zs.length = len := hs.1
  have hS1 : Hid (Seg (w.alloc (.cells #[] 5)) (some ⟨b, off, none⟩) len zs) := hs.below ((Below.refl _ _).alloc (Nat.le_refl _) _)
  have hO1 : Hid ((w.alloc (.cells #[] 5)).ownsRow w.heap.size 5 1 (.slice (some ⟨w.heap.size, 0, none⟩) 0 0) 0 []) := World.ownsRow_lit w #[] 0 (Nat.le_refl _) (Nat.zero_le _) rfl
  clear hs
  have HM : Hid (M = 16777216) := hM
  have HR : Hid (∀ x ∈ zs ++ pfx B F M, 0 ≤ x ∧ x ≤ 255) := by
    intro x hx
    rcases List.mem_append.1 hx with hx | hx
    · exact HS.out.2.1 x hx
    · exact pfx_range B F M h1 h8 hF x hx
  have hk1 : (1 : Int) ≤ (B : Int) := by omega
  have hk8 : (B : Int) ≤ 8 := by omega
  have hF0 : (0 : Int) ≤ (F : Int) := by omega
  have hF1 : (F : Int) ≤ 255 := by omega
  have HMM : Hid (wrap64 (wrap64 ((2 : Int) ^ B) - 1) = ((2 ^ B - 1 : Nat) : Int)) := mask_form B h1 h8
  have hand := andNot_tab B (by omega) F (by omega)
  have htop := top_small B F h1 h8 hF
  have hps := pow_small B h1 h8
  have HJ : Hid (∀ x : Nat, x < 2 ^ B → bits .or .i64 ((F / 2 ^ B * 2 ^ B : Nat) : Int) (x : Int) = ((F / 2 ^ B * 2 ^ B + x : Nat) : Int)) := fun x hx => or_join _ B x hx (by omega) (by omega)
  have HP : Hid (pfx B F M = if M < 2 ^ B - 1 then [((F / 2 ^ B * 2 ^ B + M : Nat) : Int)] else ((F / 2 ^ B * 2 ^ B + (2 ^ B - 1) : Nat) : Int) :: grp 5 (M - (2 ^ B - 1))) := rfl
  generalize F / 2 ^ B * 2 ^ B = f at *
  have HJm : Hid (bits .or .i64 (f : Int) ((2 ^ B - 1 : Nat) : Int) = ((f + (2 ^ B - 1) : Nat) : Int)) := HJ.out _ (by omega)
  clear HJ
  generalize pfx B F M = P at *
  generalize hmm : 2 ^ B - 1 = m at *
  have hm1 : 1 ≤ m ∧ m ≤ 255 := by omega
  clear hps hmm
  have hlt : ¬ M < m := by omega
  have hor := HJm.out
  have hlti : decide ((16777216 : Int) < (m : Int)) = false := by simp; omega
  have hltj : ((16777216 : Int) < (m : Int)) = False := by simp; omega
  have hfn : ((f + m : Nat) : Int) ≤ 255 := by omega
  have HPn : Hid (P = ((f + m : Nat) : Int) :: grp 5 (M - m)) := by show P = _; rw [HP.out, if_neg hlt]
  clear HJm HP
  generalize hxx : ((f + m : Nat) : Int) = x at *
  have hx0 : 0 ≤ x := by omega
  clear hxx
  clear hM
  go_enter Tryz.func22, Tryz.ntmps22
  go_wp2_with (at_builtin; refine wpList_append_own _ rfl _ _ 22 rfl w.heap.size 5 i0 (.int .u8 0) 1 1 Tryz.underlying22 hi hz0 hz1 hz2 rfl (by decide) (.slice (some ⟨w.heap.size, 0, none⟩) 0 0) 0 [] rfl hO1.out ⟨b, off, none⟩ len cap (zs.map (Value.int .u8)) rfl (by simp [hzl]) (cells_ints hS1.out) (ints_one zs) (by unfold maxLen; omega) (by omega) (by simp) ?_; intro v1 w1 hown1 hgrow1 _; refine Hid.out ?_)
  refine hidden ?_
  have HO : Hid (w1.ownsRow w.heap.size 5 1 v1 len (zs.map (Value.int .u8))) := by
    show World.ownsRow _ _ _ _ _ _ _
    simpa using hown1
  have HB : Hid (Below w.heap.size w w1) := ((Below.refl _ _).alloc (Nat.le_refl _) _).grown hgrow1 (by simp) (by simp [Value.ownBlock])
  have hsz := HB.out.size
  clear hown1 hgrow1 hO1 hS1
  have HN : Hid (∀ j u, [Value.int .u8 x][j]? = some u → (w1.alloc (.cells #[.int .u8 x] 5)).cell? ((⟨w1.heap.size, 0, none⟩ : Addr).add j) = some u) := one_new w1 x
  go_wp2_with fail
  refine (tin_yes _ _ _ _ hk1 hk8).mono ?_
  rintro e w2 ⟨rfl, rfl⟩
  go_wp2_with fail
  refine (tin_yes _ _ _ _ hF0 hF1).mono ?_
  rintro e w3 ⟨rfl, rfl⟩
  have hA : len + 1 ≤ maxLen ∧ (len + 1) * 1 ≤ 140737488355328 := ⟨by unfold maxLen; omega, by omega⟩
  have hBs : w.heap.size ≤ (w3.alloc (.cells #[.int .u8 x] 5)).heap.size := by simp; omega
  have hmask := HMM.out
  go_wp2_with (at_builtin; refine wpList_append_own _ rfl _ _ 22 rfl w.heap.size 5 i0 (.int .u8 0) 1 1 Tryz.underlying22 hi hz0 hz1 hz2 rfl (by decide) v1 len _ rfl (HO.out.alloc _) ⟨w3.heap.size, 0, none⟩ 1 1 [.int .u8 x] rfl rfl HN.out (ints_one [x]) hA.1 hA.2 hBs ?_; intro v2 w4 hown hgrow _; refine Hid.out ?_)
  refine hidden ?_
  clear hmask HMM
  have HB2 : Hid (Below w.heap.size w w4) := (HB.out.alloc (by omega) _).grown hgrow (by simp; omega) (fun q hq => (HO.out.lt q hq).1)
  have HO2 : Hid (w4.ownsRow w.heap.size 5 1 v2 (len + 1 + 0) ((zs ++ x :: []).map (Value.int .u8))) := by
    show World.ownsRow _ _ _ _ _ _ _
    rw [List.map_append]
    exact hown
  clear hown hgrow HO HB HN
  obtain ⟨v0, hv0⟩ : ∃ v0, M - m = v0 := ⟨_, rfl⟩
  have hnv : (16777216 : Int) - (m : Int) = (v0 : Int) := by have := HM.out; omega
  rw [hv0] at HPn
  have hv0b : v0 ≤ 16777216 := by have := HM.out; omega
  clear hv0 hor hand hA hBs hltj
  go_wp2_with fail
  clear hnv
  go_loopw [3, 9] (fun nn vv wr => ∃ (k v : Nat) (pre : List Int), 1 ≤ k ∧ v ≤ 16777216 ∧ nn = .int .i64 v ∧ Hid (v < 128 ^ k) ∧ Hid (pre ++ grp k v = grp 5 v0) ∧ pre.length + k = 5 ∧ Hid (wr.ownsRow w.heap.size 5 1 vv (len + 1 + pre.length) ((zs ++ x :: pre).map (Value.int .u8))) ∧ Hid (Below w.heap.size w wr)) (fun nn _ _ => (intOf nn).toNat)
  case atStart => exact ⟨5, v0, [], by omega, hv0b, rfl, by show v0 < 128 ^ 5; omega, rfl, rfl, HO2, HB2⟩
  case round =>
    clear HO2 HB2
    obtain ⟨k, v, pre, hk, hv, rfl, HV, HG, hpk, HO, HB⟩ := hrel
    obtain ⟨k', rfl⟩ : ∃ k', k = k' + 1 := ⟨k - 1, by omega⟩
    have hsz := HB.out.size
    have hvi : (v : Int) ≤ 16777216 := by omega
    by_cases hbig : 127 < v
    · have hgf := group_form v hv
      have HG2 : Hid ((pre ++ [((v % 128 + 128 : Nat) : Int)]) ++ grp k' (v / 128) = grp 5 v0) := by
        show _ = _
        rw [← HG.out, grp, if_pos hbig, List.append_assoc]
        rfl
      have HV2 : Hid (v / 128 < 128 ^ k') := by
        show _ < _
        have := HV.out
        rw [Nat.pow_succ] at this
        omega
      have hk2 : 1 ≤ k' := by
        have := HV2.out
        by_cases h0 : k' = 0
        · subst h0; simp at this; omega
        · omega
      generalize hyy : ((v % 128 + 128 : Nat) : Int) = y at *
      have hy0 : 0 ≤ y := by omega
      have hy1 : y ≤ 255 := by omega
      clear hyy
      have HN : Hid (∀ j u, [Value.int .u8 y][j]? = some u → (wr.alloc (.cells #[.int .u8 y] 5)).cell? ((⟨wr.heap.size, 0, none⟩ : Addr).add j) = some u) := one_new wr y
      go_wp2_with (at_builtin; refine wpList_append_own _ rfl _ _ 22 rfl w.heap.size 5 i0 (.int .u8 0) 1 1 Tryz.underlying22 hi hz0 hz1 hz2 rfl (by decide) u9 (len + 1 + pre.length) _ rfl (HO.out.alloc _) ⟨wr.heap.size, 0, none⟩ 1 1 [.int .u8 y] rfl rfl HN.out (ints_one [y]) (by unfold maxLen; omega) (by omega) (by simp; omega) ?_; intro v3 w5 hown hgrow _; refine Hid.out ?_)
      refine hidden ?_
      have HB3 : Hid (Below w.heap.size w w5) := (HB.out.alloc (by omega) _).grown hgrow (by simp; omega) (fun q hq => (HO.out.lt q hq).1)
      have HO3 : Hid (w5.ownsRow w.heap.size 5 1 v3 (len + 1 + (pre ++ [y]).length) ((zs ++ x :: (pre ++ [y])).map (Value.int .u8))) := by
        show World.ownsRow _ _ _ _ _ _ _
        have e : zs ++ x :: (pre ++ [y]) = (zs ++ x :: pre) ++ [y] := by simp
        rw [e, List.map_append, List.length_append, ← Nat.add_assoc]
        exact hown
      clear hown hgrow HO HB HN hgf
      go_wp2_with fail
      go_roundw
      case rel => exact ⟨k', v / 128, pre ++ [y], hk2, by omega, by go_num, HV2, HG2, by simp; omega, HO3, HB3⟩
      case measure => simp [intOf]; omega
    · have hbi : ¬ (127 : Int) < (v : Int) := by omega
      have HG2 : Hid (pre ++ [(v : Int)] = grp 5 v0) := by
        show _ = _
        rw [← HG.out, grp, if_neg hbig]
      clear hbig
      have HN : Hid (∀ j u, [Value.int .u8 (v : Int)][j]? = some u → (wr.alloc (.cells #[.int .u8 (v : Int)] 5)).cell? ((⟨wr.heap.size, 0, none⟩ : Addr).add j) = some u) := one_new wr v
      go_wp2_with (at_builtin; refine wpList_append_own _ rfl _ _ 22 rfl w.heap.size 5 i0 (.int .u8 0) 1 1 Tryz.underlying22 hi hz0 hz1 hz2 rfl (by decide) u9 (len + 1 + pre.length) _ rfl (HO.out.alloc _) ⟨wr.heap.size, 0, none⟩ 1 1 [.int .u8 (v : Int)] rfl rfl HN.out (ints_one [(v : Int)]) (by unfold maxLen; omega) (by omega) (by simp; omega) ?_; intro v3 w5 hown hgrow _; refine Hid.out ?_)
      refine hidden ?_
      have HB3 : Hid (Below w.heap.size w w5) := (HB.out.alloc (by omega) _).grown hgrow (by simp; omega) (fun q hq => (HO.out.lt q hq).1)
      have HO3 : Hid (w5.ownsRow w.heap.size 5 1 v3 (zs ++ P).length ((zs ++ P).map (Value.int .u8))) := by
        show World.ownsRow _ _ _ _ _ _ _
        have e : zs ++ P = (zs ++ x :: pre) ++ [(v : Int)] := by rw [HPn.out, ← HG2.out]; simp
        have el : (zs ++ P).length = len + 1 + pre.length + 1 := by rw [e]; simp [hzl]; omega
        rw [el, e, List.map_append]
        exact hown
      clear hown hgrow HO HB HN
      obtain ⟨a', cap', rfl⟩ := shape_of_owns HO3.out
      go_wp2_with fail
      go_ret
      exact ⟨a', cap', rfl, ⟨HO3.out, HR.out⟩, HB3.out⟩

end Go.Proofs.YtckpacifimpkgacGreat
