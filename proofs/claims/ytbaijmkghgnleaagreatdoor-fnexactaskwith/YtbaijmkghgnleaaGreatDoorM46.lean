/- The marks of bytes, beside the copy and the comparison of bytes. What the walk of PutField keeps. -/
import Derived.Test.YtbaijmkghgnleaaGreatDoorM45
import Derived.Test.YtbaijmkghgnleaaGreatDoorM45
import Derived.Test.YtbaijmkghgnleaaGreatDoorM22
import Derived.Test.YtbaijmkghgnleaaGreatDoorM44


namespace Go.Proofs.YtbaijmkghgnleaaGreatDoor
open Go.RowKit
set_option linter.unusedVariables false

set_option maxHeartbeats 400000 in
theorem markTk_any (base : Nat) (m : Int) (a : Option Addr) (n cap k : Nat) (xs : List Fld) (w : World) (h : OwnF w base (.slice a n cap) n xs) (hn : n ≤ 1099511627776) (hk : k ≤ 1099511627776) :
    Calls Tryz.prog 13 #[.agg #[.int .i64 m, .slice a n cap], .int .i64 (k : Int)] w fun e w' => e = .returned (.int .i64 ((k + 2 * n : Nat) : Int)) ∧ OwnF w' base (.slice a n cap) n (marksF k n) ∧ w.grownBy w' (a.map (·.block)) := by
  have HO : Hid (OwnF w base (.slice a n cap) n xs) := h
  clear h
  have HB : Hid (Below w.heap.size w (w.alloc (.cells #[.int .i64 m, .slice a n cap] 32))) := (Below.refl _ _).alloc (Nat.le_refl _) _
  have HO1 : Hid (OwnF (w.alloc (.cells #[.int .i64 m, .slice a n cap] 32)) base (.slice a n cap) n xs) := ⟨own_stays HO.out.1 HB.out, HO.out.2⟩
  go_enter Tryz.func13, Tryz.ntmps13
  go_wp2_with fail
  refine (markFS_any base a n cap k xs _ HO1.out hn hk).mono ?_
  rintro e x1 ⟨rfl, ho, hg⟩
  have HO2 : Hid (OwnF x1 base (.slice a n cap) n (marksF k n)) := ho
  have HG2 : Hid (w.grownBy x1 (a.map (·.block))) := grown_trans (grown_below HB.out) hg
  clear ho hg
  obtain ⟨q, hq⟩ : ∃ q, k + 2 * n = q := ⟨_, rfl⟩
  have HQ : Hid (k + 2 * n = q) := hq
  rw [hq]
  clear hq
  go_wp2_with fail
  go_ret
  exact ⟨ret_int (by rw [HQ.out]), HO2.out, HG2.out⟩

set_option maxHeartbeats 400000 in
theorem heldTk_any (m : Int) (a : Option Addr) (n cap k : Nat) (w : World) (h : Flds w a n (marksF k n)) (hn : n ≤ 1099511627776) (hk : k ≤ 1099511627776) :
    Calls Tryz.prog 16 #[.agg #[.int .i64 m, .slice a n cap], .int .i64 (k : Int)] w fun e w' => e = .returned (.int .i64 ((k + 2 * n : Nat) : Int)) ∧ Below w.heap.size w w' := by
  have HX : Hid (Flds w a n (marksF k n)) := h
  clear h
  have HB : Hid (Below w.heap.size w (w.alloc (.cells #[.int .i64 m, .slice a n cap] 32))) := (Below.refl _ _).alloc (Nat.le_refl _) _
  go_enter Tryz.func16, Tryz.ntmps16
  go_wp2_with fail
  refine (heldFS_any a n cap k _ (HX.out.below HB.out) hn hk).mono ?_
  rintro e x1 ⟨rfl, hb1⟩
  have HB1 : Hid (Below w.heap.size w x1) := HB.out.trans (hb1.mono HB.out.size)
  clear hb1
  have hpos : ¬ ((k + 2 * n : Nat) : Int) < 0 := by omega
  have hposd : decide (((k + 2 * n : Nat) : Int) < 0) = false := by simp; omega
  obtain ⟨q, hq⟩ : ∃ q, k + 2 * n = q := ⟨_, rfl⟩
  have HQ : Hid (k + 2 * n = q) := hq
  rw [hq] at hpos hposd ⊢
  clear hq
  go_wp2_with fail
  go_ret
  exact ⟨ret_int (by rw [HQ.out]), HB1.out⟩

theorem PutAns.short {m : Int} {xs : List Fld} {x y : ByteArray} {mode : Int} {q : List Int} {ys : List Fld} (h : PutAns m xs x y mode q ys) : ys.length ≤ xs.length + 1 ∧ q.length ≤ x.size + y.size + 18 := by
  rcases h with ⟨_, i, b, _, h2, h3⟩ | ⟨_, rfl, rfl⟩
  · refine ⟨?_, h2.len⟩
    rcases h3 with ⟨_, _, h⟩ | ⟨_, rfl⟩
    · exact h.short
    · omega
  · simp

/-- What the call was given, in variables of the law's. -/
def KP (w W : World) (m : Int) (a0 : Option Addr) (len0 cap0 : Nat) (x y : ByteArray) : Prop :=
  Below w.heap.size w W ∧ Box2 W w.heap.size 24 (.int .i64 m) (.slice a0 len0 cap0) ∧ Box2 W (w.heap.size + 1) 65 (.string x) (.string y)

theorem KP.stays {w W W' : World} {m : Int} {a0 : Option Addr} {len0 cap0 : Nat} {x y : ByteArray} (h : KP w W m a0 len0 cap0 x y) (hb : Below W.heap.size W W') : KP w W' m a0 len0 cap0 x y :=
  ⟨h.1.trans (hb.mono h.1.size), h.2.1.stays hb, h.2.2.stays hb⟩

theorem KP.grown {w W W' : World} {m : Int} {a0 : Option Addr} {len0 cap0 : Nat} {x y : ByteArray} {r : Option Nat} (h : KP w W m a0 len0 cap0 x y) (hg : W.grownBy W' r) (hr : ∀ k, r = some k → w.heap.size + 1 < k) : KP w W' m a0 len0 cap0 x y :=
  ⟨h.1.grown hg h.1.size (fun k e => by have := hr k e; omega), h.2.1.grown hg (fun e => by have := hr _ e; omega), h.2.2.grown hg (fun e => by have := hr _ e; omega)⟩

/-- An answer: a table in a variable, bytes. -/
def AP (W : World) (s : Nat) (m : Int) (b : Nat) (a : Option Addr) (k c : Nat) (ys : List Fld) (qa : Option Addr) (ql qc : Nat) (q : List Int) : Prop :=
  Box2 W b 32 (.int .i64 m) (.slice a k c) ∧ OwnF W s (.slice a k c) k ys ∧ Owns W s qa ql qc q

theorem AP.stays {W W' : World} {s : Nat} {m : Int} {b : Nat} {a : Option Addr} {k c : Nat} {ys : List Fld} {qa : Option Addr} {ql qc : Nat} {q : List Int} (h : AP W s m b a k c ys qa ql qc q) (hb : Below W.heap.size W W') : AP W' s m b a k c ys qa ql qc q :=
  ⟨h.1.stays hb, h.2.1.stays hb, h.2.2.below hb⟩

theorem owns_kept {W W' : World} {s n c : Nat} {a : Option Addr} {zs : List Int} {r : Option Nat} (h : Owns W s a n c zs) (hg : W.grownBy W' r) (hr : ∀ k, r = some k → a.map (·.block) ≠ some k) : Owns W' s a n c zs := by
  refine ⟨h.1.kept hg ?_, h.2⟩
  rw [ownBlock_slice]
  cases e : a.map (·.block) with
  | none => exact .inl rfl
  | some k => exact .inr (fun h => hr k h.symm e)

theorem ownF_kept {W W' : World} {s n c : Nat} {a : Option Addr} {ys : List Fld} {r : Option Nat} (h : OwnF W s (.slice a n c) n ys) (hg : W.grownBy W' r) (hr : ∀ k, r = some k → a.map (·.block) ≠ some k) : OwnF W' s (.slice a n c) n ys := by
  refine h.grown hg ?_
  rw [ownBlock_slice]
  cases e : a.map (·.block) with
  | none => exact .inl rfl
  | some k => exact .inr (fun h => hr k h.symm e)

theorem AP.grown {W W' : World} {s : Nat} {m : Int} {b : Nat} {a : Option Addr} {k c : Nat} {ys : List Fld} {qa : Option Addr} {ql qc : Nat} {q : List Int} {r : Option Nat} (h : AP W s m b a k c ys qa ql qc q) (hg : W.grownBy W' r)
    (h1 : r ≠ some b) (h2 : ∀ k, r = some k → a.map (·.block) ≠ some k) (h3 : ∀ k, r = some k → qa.map (·.block) ≠ some k) : AP W' s m b a k c ys qa ql qc q :=
  ⟨h.1.grown hg h1, ownF_kept h.2.1 hg h2, owns_kept h.2.2 hg h3⟩

/-- Where an answer lies. -/
def Low (L : Nat) (b : Nat) (a qa : Option Addr) : Prop := b < L ∧ (∀ k, a.map (·.block) = some k → k < L) ∧ (∀ k, qa.map (·.block) = some k → k < L)

theorem AP.low {W : World} {s : Nat} {m : Int} {b : Nat} {a : Option Addr} {k c : Nat} {ys : List Fld} {qa : Option Addr} {ql qc : Nat} {q : List Int} (h : AP W s m b a k c ys qa ql qc q) : Low W.heap.size b a qa :=
  ⟨h.1.lt, fun k e => (h.2.1.lt k (by rw [ownBlock_slice]; exact e)).2, fun k e => (h.2.2.lt k e).2⟩

theorem AP.above {W W' : World} {L s : Nat} {m : Int} {b : Nat} {a : Option Addr} {k c : Nat} {ys : List Fld} {qa : Option Addr} {ql qc : Nat} {q : List Int} {r : Option Nat} (h : AP W s m b a k c ys qa ql qc q) (hL : Low L b a qa) (hg : W.grownBy W' r)
    (hr : ∀ k, r = some k → L ≤ k) : AP W' s m b a k c ys qa ql qc q :=
  h.grown hg (fun e => by have h1 := hr _ e; have h2 := hL.1; omega) (fun k e e2 => by have h1 := hr _ e; have h2 := hL.2.1 _ e2; omega) (fun k e e2 => by have h1 := hr _ e; have h2 := hL.2.2 _ e2; omega)

/-- Rows of two kinds are two. -/
theorem rows_apart {W : World} {b1 b2 s1 s2 n1 n2 : Nat} {e1 e2 : TypeId} {v1 v2 : Value} {xs1 xs2 : List Value} (h1 : W.ownsRow b1 e1 s1 v1 n1 xs1) (h2 : W.ownsRow b2 e2 s2 v2 n2 xs2) (hne : e1 ≠ e2) : ∀ k, v1.ownBlock = some k → v2.ownBlock ≠ some k := by
  intro k hk
  rcases h1.2 with ⟨rfl, _⟩ | ⟨g, c, cur, rfl, _, hg, _⟩
  · cases hk
  · obtain rfl : g = k := by simpa [Value.ownBlock] using hk
    exact own_other' h2 hg hne

theorem put_boxB {X Y : World} {b base n ql qc : Nat} {v : Value} {ys : List Fld} {qa : Option Addr} {q : List Int} (hb : Below X.heap.size X Y) (hX : X.heap.size ≤ b) (hq : Box2 Y b 32 (.int .i64 0) (.slice none 0 0)) (hlt : b < base) (ho : OwnF Y base v n ys) (hoq : Owns Y base qa ql qc q) (m : Int) :
    Below X.heap.size X ((Y.setCell ⟨b, 0, none⟩ (.int .i64 m)).setCell ⟨b, 1, none⟩ v) ∧ Box2 ((Y.setCell ⟨b, 0, none⟩ (.int .i64 m)).setCell ⟨b, 1, none⟩ v) b 32 (.int .i64 m) v ∧ OwnF ((Y.setCell ⟨b, 0, none⟩ (.int .i64 m)).setCell ⟨b, 1, none⟩ v) X.heap.size v n ys ∧ Owns ((Y.setCell ⟨b, 0, none⟩ (.int .i64 m)).setCell ⟨b, 1, none⟩ v) X.heap.size qa ql qc q := by
  obtain ⟨h1, h2, h3⟩ := put_box hb hX hq hlt ho m
  exact ⟨h1, h2, h3, own_lower (ownsRow_setCell_below (ownsRow_setCell_below hoq.1 (a := ⟨b, 0, none⟩) hlt _) (a := ⟨b, 1, none⟩) hlt _) (by omega), hoq.2⟩

theorem put_newB {X Y : World} {base n ql qc : Nat} {v : Value} {ys : List Fld} {qa : Option Addr} {q : List Int} (hb : Below X.heap.size X Y) (hX : X.heap.size ≤ base) (ho : OwnF Y base v n ys) (hoq : Owns Y base qa ql qc q) (m : Int) :
    Below X.heap.size X (Y.alloc (.cells #[.int .i64 m, v] 32)) ∧ Box2 (Y.alloc (.cells #[.int .i64 m, v] 32)) Y.heap.size 32 (.int .i64 m) v ∧ OwnF (Y.alloc (.cells #[.int .i64 m, v] 32)) X.heap.size v n ys ∧ Owns (Y.alloc (.cells #[.int .i64 m, v] 32)) X.heap.size qa ql qc q := by
  obtain ⟨h1, h2, h3⟩ := put_new hb hX ho m
  exact ⟨h1, h2, h3, own_lower (hoq.below ((Below.refl _ _).alloc (Nat.le_refl _) _)).1 hX, hoq.2⟩

end Go.Proofs.YtbaijmkghgnleaaGreatDoor
