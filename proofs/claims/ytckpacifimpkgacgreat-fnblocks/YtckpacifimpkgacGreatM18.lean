/- The reader of a block: what one step answers. Fields come back of their block: what the reader's steps answer over the bytes that PutFields puts. No statement of the program but its table of types. The reader of a block: its steps one behind the other, what they keep, and that there is but one way. No program in it. The reader of a block: one step (Size). The reader of a block: one step (Ix). -/
import Derived.Test.YtckpacifimpkgacGreatM17
import Derived.Test.YtckpacifimpkgacGreatM17
import Derived.Test.YtckpacifimpkgacGreatM14
namespace Go.Proofs.YtckpacifimpkgacGreat
open Go.RowKit
set_option linter.unusedVariables false

/-- How many bits of a first byte are the number's. -/
def bitsL (c : Int) : Int := if 128 ≤ c then 7 else if 64 ≤ c then 6 else if 32 ≤ c then 5 else 4

/-- A field is taken. -/
def TakeAns (T : TypeId) (m : Int) (xs fs : List Fld) (f : Fld) (ys gs : List Fld) (code : Int) : Prop :=
  (fs.length = 100 ∧ code = 4) ∨ (fs.length ≠ 100 ∧ code = 0 ∧ gs = fs ++ [f] ∧ ((T = 99 ∧ AddAns m xs f ys) ∨ (T ≠ 99 ∧ ys = xs)))

/-- One step from the place i, with the table (m, xs) and the fields fs: the place behind it, the table, the fields, a code. -/
def StepAns (zs : List Int) (most : Int) (i : Nat) (m : Int) (xs fs : List Fld) (j m' : Int) (ys gs : List Fld) (code : Int) : Prop :=
  ∃ (n p : Int) (ok : Bool), getPfx zs i (bitsL (zs.getD i 0)) = (n, p, ok) ∧ ((ok = false ∧ code = 1) ∨ (ok = true ∧
    ((formL (zs.getD i 0) = 80 ∧ (((most < n ∨ 0 < fs.length) ∧ code = 3) ∨ (¬ (most < n ∨ 0 < fs.length) ∧ code = 0 ∧ j = p ∧ gs = fs ∧ CutAns m n xs m' ys))) ∨
     (formL (zs.getD i 0) = 82 ∧ (((atAns xs n).2 = false ∧ code = 2) ∨ ((atAns xs n).2 = true ∧ j = p ∧ m' = m ∧ TakeAns (formL (zs.getD i 0)) m xs fs (atAns xs n).1 ys gs code))) ∨
     (formL (zs.getD i 0) ≠ 80 ∧ formL (zs.getD i 0) ≠ 82 ∧ ∃ (x y : ByteArray) (j1 c1 : Int), LitAns zs p xs n x y j1 c1 ∧ ((c1 ≠ 0 ∧ code = c1) ∨ (c1 = 0 ∧ j = j1 ∧ m' = m ∧ TakeAns (formL (zs.getD i 0)) m xs fs (x, y) ys gs code))))))

theorem RdO.setAt {W : World} {B r : Nat} {b : Value} {i most m : Int} {ta : Option Addr} {tl tc : Nat} {xs : List Fld} {fa : Option Addr} {fl fc : Nat} {fs : List Fld} (h : RdO W B r b i most m ta tl tc xs fa fl fc fs) (j : Int) : RdO (W.setCell ⟨r, 1, none⟩ (.int .i64 j)) B r b j most m ta tl tc xs fa fl fc fs :=
  ⟨h.1.setAt j, h.2.1, ownF_set h.2.2.1 h.1 _ _, ownF_set h.2.2.2.1 h.1 _ _, h.2.2.2.2⟩

theorem RdO.sized {W W' : World} {B r : Nat} {b : Value} {i j most m m' : Int} {ta : Option Addr} {tl tc : Nat} {xs : List Fld} {fa : Option Addr} {fl fc : Nat} {fs : List Fld} {va : Option Addr} {k vc : Nat} {ys : List Fld} (h : RdO W B r b i most m ta tl tc xs fa fl fc fs) (hg : W.grownBy W' (some r)) (hB : B ≤ W.heap.size) (hr : Rd W' r b j most m' (.slice va k vc) (.slice fa fl fc)) (ho : OwnF W' W.heap.size (.slice va k vc) k ys) : RdO W' B r b j most m' va k vc ys fa fl fc fs := by
  refine ⟨hr, h.2.1, ⟨own_down ho.1 hB, ho.2⟩, h.2.2.2.1.grown hg (.inr (own_other' h.2.2.2.1.1 h.1 (by decide))), fun q g1 g2 => ?_⟩
  have h1 := (h.2.2.2.1.lt q (by rw [ownBlock_slice]; exact g1)).2
  have h2 := (ho.lt q (by rw [ownBlock_slice]; exact g2)).1
  omega

theorem RdO.read {W W' : World} {B r : Nat} {b : Value} {i j most m : Int} {ta : Option Addr} {tl tc : Nat} {xs : List Fld} {fa : Option Addr} {fl fc : Nat} {fs : List Fld} (h : RdO W B r b i most m ta tl tc xs fa fl fc fs) (hg : W.grownBy W' (some r)) (hr : Rd W' r b j most m (.slice ta tl tc) (.slice fa fl fc)) : RdO W' B r b j most m ta tl tc xs fa fl fc fs :=
  ⟨hr, h.2.1, h.2.2.1.grown hg (.inr (own_other' h.2.2.1.1 h.1 (by decide))), h.2.2.2.1.grown hg (.inr (own_other' h.2.2.2.1.1 h.1 (by decide))), h.2.2.2.2⟩

theorem GetS.short {zs : List Int} {i p : Int} {t : ByteArray} {ok : Bool} (h : GetS zs i t p ok) : t.size ≤ 4000 := by
  rcases h with ⟨_, n, q, _, _, _, h, _⟩ | ⟨_, rfl, _⟩
  · exact h
  · decide

theorem LitAns.short {zs : List Int} {i : Int} {m : Int} {xs : List Fld} {n : Int} {x y : ByteArray} {j code : Int} (ho : okT m xs = true) (h : LitAns zs i xs n x y j code) : x.size ≤ 4096 ∧ y.size ≤ 4096 := by
  obtain ⟨t, j1, c1, hn, ⟨_, rfl, rfl, _⟩ | ⟨_, rfl, p, ok, hy, _⟩⟩ := h
  · decide
  · have h1 := hy.short
    refine ⟨?_, by omega⟩
    rcases hn with ⟨_, p2, ok2, h2, _⟩ | ⟨_, _, ⟨_, rfl, _⟩ | ⟨_, rfl, _⟩⟩
    · have := h2.short
      omega
    · have := atAns_short ho n
      omega
    · decide

end Go.Proofs.YtckpacifimpkgacGreat

namespace Go.Proofs.YtckpacifimpkgacGreat
open Go.RowKit
set_option linter.unusedVariables false

theorem at_find (xs : List Fld) (k : Nat) (f : Fld) (h : (firstL ++ xs)[k]? = some f) : atAns xs ((k : Int) + 1) = (f, true) := by
  have hl := firstL_len
  by_cases hk : k < 61
  · rw [List.getElem?_append_left (by omega)] at h
    rw [atAns, if_pos (by omega), firstAns, if_pos ⟨by omega, by omega⟩, show ((k : Int) + 1 - 1).toNat = k by omega, List.getD_eq_getElem?_getD, h]
    rfl
  · rw [List.getElem?_append_right (by omega), hl] at h
    have hlt := (List.getElem?_eq_some_iff.1 h).1
    rw [atAns, if_neg (by omega), show ((k : Int) + 1 - 62).toNat = k - 61 by omega, if_pos (by omega), List.getD_eq_getElem?_getD, h]
    rfl

theorem find_at {xs : List Fld} {x y : ByteArray} {i : Nat} {b : Bool} (h : FindAns (firstL ++ xs) (x, y) i b) (hi : i ≠ 0) : ∃ y', atAns xs (i : Int) = ((x, y'), true) ∧ (b = true → y' = y) := by
  rcases h with ⟨hb, k, h1, _, h2⟩ | ⟨hb, _, ⟨k, g, h1, h3, _, h2⟩ | ⟨_, h2⟩⟩
  · exact ⟨y, by rw [h2]; exact at_find xs k (x, y) h1, fun _ => rfl⟩
  · obtain ⟨g1, g2⟩ := g
    have h3' : g1 = x := h3
    subst h3'
    exact ⟨g2, by rw [h2]; exact at_find xs k (g1, g2) h1, fun e => by rw [hb] at e; cases e⟩
  · omega

theorem find_yes {xs : List Fld} {x y : ByteArray} {i : Nat} (h : FindAns (firstL ++ xs) (x, y) i true) : i ≠ 0 := by
  rcases h with ⟨hb, k, h1, _, h2⟩ | ⟨hb, _⟩
  · omega
  · cases hb

/-- The first byte, and the number, of what begins with a prefixed number, wherever it stands. -/
theorem pfx_mid (q r : List Int) (B F n : Nat) (h1 : 1 ≤ B) (h8 : B ≤ 8) (hn : n ≤ 16777216) :
    (q ++ (pfx B F n ++ r)).getD q.length 0 = ((F / 2 ^ B * 2 ^ B + min n (2 ^ B - 1) : Nat) : Int) ∧ getPfx (q ++ (pfx B F n ++ r)) (q.length : Int) (B : Int) = ((n : Int), ((q.length + (pfx B F n).length : Nat) : Int), true) := by
  have hp := pfx_back q B F n h1 h8 hn
  have hh := pfx_head q B F n
  have hl : 0 < (pfx B F n).length := by unfold pfx; split <;> simp
  rw [← List.append_assoc]
  refine ⟨?_, ?_⟩
  · rw [List.getD_eq_getElem?_getD, List.getElem?_append_left (by simp; omega), ← List.getD_eq_getElem?_getD, hh]
  · rw [getPfx_app _ _ _ _ (by rw [hp]), hp, List.length_append]

theorem formL_ix (c : Int) (h : 128 ≤ c) : formL c = 82 ∧ bitsL c = 7 := by
  unfold formL bitsL
  rw [if_pos h, if_pos h]
  exact ⟨rfl, rfl⟩
theorem formL_add (c : Int) (h : 64 ≤ c) (h2 : c < 128) : formL c = 99 ∧ bitsL c = 6 := by
  have a1 : ¬ 128 ≤ c := by omega
  exact ⟨by unfold formL; rw [if_neg a1, if_pos h], by unfold bitsL; rw [if_neg a1, if_pos h]⟩
theorem formL_never (c : Int) (h : 16 ≤ c) (h2 : c < 32) : formL c = 98 ∧ bitsL c = 4 := by
  have a1 : ¬ 128 ≤ c := by omega
  have a2 : ¬ 64 ≤ c := by omega
  have a3 : ¬ 32 ≤ c := by omega
  exact ⟨by unfold formL; rw [if_neg a1, if_neg a2, if_neg a3, if_pos h], by unfold bitsL; rw [if_neg a1, if_neg a2, if_neg a3]⟩
theorem formL_plain (c : Int) (h2 : c < 16) : formL c = 100 ∧ bitsL c = 4 := by
  have a1 : ¬ 128 ≤ c := by omega
  have a2 : ¬ 64 ≤ c := by omega
  have a3 : ¬ 32 ≤ c := by omega
  have a4 : ¬ 16 ≤ c := by omega
  exact ⟨by unfold formL; rw [if_neg a1, if_neg a2, if_neg a3, if_neg a4], by unfold bitsL; rw [if_neg a1, if_neg a2, if_neg a3]⟩

/-- A literal comes back. -/
theorem lit_back {xs : List Fld} {x y : ByteArray} {i : Nat} {b : Bool} {B F : Nat} {r : List Int} (hf : FindAns (firstL ++ xs) (x, y) i b) (hl : LitOf B F i x y r) (hx : x.size ≤ 4000) (hy : y.size ≤ 4000) (q rest : List Int) :
    LitAns (q ++ (r ++ rest)) ((q.length + (pfx B F i).length : Nat) : Int) xs (i : Int) x y ((q.length + r.length : Nat) : Int) 0 := by
  obtain ⟨p, v, hp, hv, rfl⟩ := hl
  have hvb := hv.back hy (q ++ (pfx B F i ++ p)) rest
  have e2 : q ++ (pfx B F i ++ p) ++ v ++ rest = q ++ (pfx B F i ++ p ++ v ++ rest) := by simp [List.append_assoc]
  rw [e2] at hvb
  have hend : ((q ++ (pfx B F i ++ p)).length + v.length : Nat) = q.length + (pfx B F i ++ p ++ v).length := by simp [List.length_append]; omega
  rw [hend] at hvb
  refine ⟨x, (((q ++ (pfx B F i ++ p)).length : Nat) : Int), 0, ?_, .inr ⟨rfl, rfl, _, true, .inl ⟨rfl, hvb⟩, rfl, rfl⟩⟩
  rcases hp with ⟨hi, hs⟩ | ⟨hi, rfl⟩
  · have hnb := hs.back hx (q ++ pfx B F i) (v ++ rest)
    have e1 : q ++ pfx B F i ++ p ++ (v ++ rest) = q ++ (pfx B F i ++ p ++ v ++ rest) := by simp [List.append_assoc]
    rw [e1] at hnb
    rw [show (q ++ pfx B F i).length = q.length + (pfx B F i).length from List.length_append] at hnb
    refine .inl ⟨by omega, _, true, .inl ⟨rfl, hnb⟩, rfl, ?_⟩
    simp [List.length_append]
    omega
  · obtain ⟨y', ha, _⟩ := find_at hf hi
    refine .inr ⟨by omega, by simp [List.length_append], .inl ?_⟩
    rw [ha]
    exact ⟨rfl, rfl, rfl⟩

/-- What PutField puts is one step of the reader. -/
theorem step_back {m : Int} {xs : List Fld} {x y : ByteArray} {mode : Int} {r : List Int} {ys : List Fld} (h : PutAns m xs x y mode r ys) (ho : okT m xs = true) (h1 : 1 ≤ mode) (h3 : mode ≤ 3) (hx : x.size ≤ 4000) (hy : y.size ≤ 4000) (most : Int) (fs : List Fld) (hfs : fs.length < 100) (q rest : List Int) :
    0 < r.length ∧ StepAns (q ++ (r ++ rest)) most q.length m xs fs ((q.length + r.length : Nat) : Int) m ys (fs ++ [(x, y)]) 0 := by
  rcases h with ⟨_, i, b, hf, hform, hys⟩ | ⟨hno, _⟩
  · have hib := find_bound hf
    have hxl := okT_small ho
    have hil : i ≤ 16777216 := by
      have hl := firstL_len
      have h2 := hib.2
      rw [List.length_append, hl] at h2
      omega
    rcases hform with ⟨hb, hm3, rfl⟩ | ⟨hnb, hlit⟩
    · have hpos : 0 < (pfx 7 128 i).length := by unfold pfx; split <;> simp
      obtain ⟨hh, hg⟩ := pfx_mid q rest 7 128 i (by decide) (by decide) hil
      obtain ⟨f1, f2⟩ := formL_ix ((q ++ (pfx 7 128 i ++ rest)).getD q.length 0) (by rw [hh]; omega)
      subst hb
      obtain ⟨y', ha, hy'⟩ := find_at hf (find_yes hf)
      obtain rfl := hy' rfl
      refine ⟨hpos, (i : Int), ((q.length + (pfx 7 128 i).length : Nat) : Int), true, ?_, .inr ⟨rfl, .inr (.inl ⟨f1, .inr ⟨by rw [ha], rfl, rfl, .inr ⟨by omega, rfl, by rw [ha], ?_⟩⟩⟩)⟩⟩
      · rw [f2]
        exact hg
      · rcases hys with ⟨_, hb, _⟩ | ⟨_, rfl⟩
        · cases hb
        · exact .inr ⟨by rw [f1]; decide, rfl⟩
    · have hlb := lit_back hf hlit hx hy q rest
      obtain ⟨p, v, hp, hv, rfl⟩ := hlit
      have hpos : 0 < (pfx (modeB mode) (modeF mode) i).length := by unfold pfx; split <;> simp
      have e : q ++ (pfx (modeB mode) (modeF mode) i ++ p ++ v ++ rest) = q ++ (pfx (modeB mode) (modeF mode) i ++ (p ++ v ++ rest)) := by simp [List.append_assoc]
      have hB : 1 ≤ modeB mode ∧ modeB mode ≤ 8 := by unfold modeB; split <;> omega
      obtain ⟨hh, hg⟩ := pfx_mid q (p ++ v ++ rest) (modeB mode) (modeF mode) i hB.1 hB.2 hil
      rw [← e] at hh hg
      have hmode : mode = 1 ∨ mode = 2 ∨ mode = 3 := by omega
      have hform : ∃ T : TypeId, formL ((q ++ (pfx (modeB mode) (modeF mode) i ++ p ++ v ++ rest)).getD q.length 0) = T ∧ bitsL ((q ++ (pfx (modeB mode) (modeF mode) i ++ p ++ v ++ rest)).getD q.length 0) = (modeB mode : Int) ∧ T ≠ 80 ∧ T ≠ 82 ∧ (T = 99 ↔ mode = 1) := by
        rw [hh]
        rcases hmode with rfl | rfl | rfl
        · obtain ⟨f1, f2⟩ := formL_add (((modeF 1 / 2 ^ modeB 1 * 2 ^ modeB 1 + min i (2 ^ modeB 1 - 1) : Nat) : Int)) (by show (64 : Int) ≤ ((64 / 2 ^ 6 * 2 ^ 6 + min i (2 ^ 6 - 1) : Nat) : Int); omega) (by show ((64 / 2 ^ 6 * 2 ^ 6 + min i (2 ^ 6 - 1) : Nat) : Int) < 128; omega)
          exact ⟨_, f1, f2, by decide, by decide, by simp⟩
        · obtain ⟨f1, f2⟩ := formL_plain (((modeF 2 / 2 ^ modeB 2 * 2 ^ modeB 2 + min i (2 ^ modeB 2 - 1) : Nat) : Int)) (by show ((0 / 2 ^ 4 * 2 ^ 4 + min i (2 ^ 4 - 1) : Nat) : Int) < 16; omega)
          exact ⟨_, f1, f2, by decide, by decide, by decide⟩
        · obtain ⟨f1, f2⟩ := formL_never (((modeF 3 / 2 ^ modeB 3 * 2 ^ modeB 3 + min i (2 ^ modeB 3 - 1) : Nat) : Int)) (by show (16 : Int) ≤ ((16 / 2 ^ 4 * 2 ^ 4 + min i (2 ^ 4 - 1) : Nat) : Int); omega) (by show ((16 / 2 ^ 4 * 2 ^ 4 + min i (2 ^ 4 - 1) : Nat) : Int) < 32; omega)
          exact ⟨_, f1, f2, by decide, by decide, by decide⟩
      obtain ⟨T, f1, f2, f3, f4, f5⟩ := hform
      refine ⟨by simp only [List.length_append]; omega, (i : Int), ((q.length + (pfx (modeB mode) (modeF mode) i).length : Nat) : Int), true, ?_, .inr ⟨rfl, .inr (.inr ⟨by rw [f1]; exact f3, by rw [f1]; exact f4, x, y, _, 0, hlb, .inr ⟨rfl, rfl, rfl, .inr ⟨by omega, rfl, rfl, ?_⟩⟩⟩)⟩⟩
      · rw [f2]
        exact hg
      · rw [f1]
        rcases hys with ⟨g1, g2, g3⟩ | ⟨g1, rfl⟩
        · exact .inl ⟨f5.2 g1, g3⟩
        · refine .inr ⟨fun e => g1 ⟨f5.1 e, ?_⟩, rfl⟩
          cases b with
          | false => rfl
          | true => exact absurd ⟨rfl, by rw [f5.1 e]; decide⟩ hnb
  · exact absurd ⟨ho, h1, h3⟩ hno

end Go.Proofs.YtckpacifimpkgacGreat

namespace Go.Proofs.YtckpacifimpkgacGreat
open Go.RowKit
set_option linter.unusedVariables false

theorem GoodS.bound {zs : List Int} {i p : Int} {t : ByteArray} (hz : ∀ x ∈ zs, 0 ≤ x ∧ x ≤ 255) (h : GoodS zs i t p) : i < p ∧ p ≤ zs.length := by
  obtain ⟨n, q, h1, h2, rfl, _⟩ := h
  have := getPfx_bound zs i 7 n q hz h1
  omega

theorem NameAns.one {zs : List Int} {i : Int} {xs : List Fld} {n : Int} {t t' : ByteArray} {j j' c c' : Int} (h : NameAns zs i xs n t j c) (g : NameAns zs i xs n t' j' c') : t = t' ∧ j = j' ∧ c = c' := by
  rcases h with ⟨h0, p, ok, h1, rfl, rfl⟩ | ⟨h0, rfl, h⟩ <;> rcases g with ⟨g0, p', ok', g1, rfl, rfl⟩ | ⟨g0, rfl, g⟩
  · obtain ⟨rfl, rfl, rfl⟩ := h1.one g1
    exact ⟨rfl, rfl, rfl⟩
  · exact absurd h0 g0
  · exact absurd g0 h0
  · rcases h with ⟨h1, rfl, rfl⟩ | ⟨h1, rfl, rfl⟩ <;> rcases g with ⟨g1, rfl, rfl⟩ | ⟨g1, rfl, rfl⟩
    · exact ⟨rfl, rfl, rfl⟩
    · rw [h1] at g1; cases g1
    · rw [h1] at g1; cases g1
    · exact ⟨rfl, rfl, rfl⟩

theorem LitAns.one {zs : List Int} {i : Int} {xs : List Fld} {n : Int} {x y x' y' : ByteArray} {j j' c c' : Int} (h : LitAns zs i xs n x y j c) (g : LitAns zs i xs n x' y' j' c') : x = x' ∧ y = y' ∧ j = j' ∧ c = c' := by
  obtain ⟨t, j1, c1, hn, h⟩ := h
  obtain ⟨t', j1', c1', gn, g⟩ := g
  obtain ⟨rfl, rfl, rfl⟩ := hn.one gn
  rcases h with ⟨h0, rfl, rfl, rfl, rfl⟩ | ⟨h0, rfl, p, ok, h1, rfl, rfl⟩ <;> rcases g with ⟨g0, rfl, rfl, rfl, rfl⟩ | ⟨g0, rfl, p', ok', g1, rfl, rfl⟩
  · exact ⟨rfl, rfl, rfl, rfl⟩
  · exact absurd g0 h0
  · exact absurd h0 g0
  · obtain ⟨rfl, rfl, rfl⟩ := h1.one g1
    exact ⟨rfl, rfl, rfl, rfl⟩

theorem TakeAns.one {T : TypeId} {m : Int} {xs fs : List Fld} {f : Fld} {ys gs ys' gs' : List Fld} {c : Int} (h : TakeAns T m xs fs f ys gs c) (g : TakeAns T m xs fs f ys' gs' 0) : c = 0 ∧ ys = ys' ∧ gs = gs' := by
  rcases g with ⟨_, g0⟩ | ⟨g1, _, rfl, g⟩
  · omega
  · rcases h with ⟨h1, _⟩ | ⟨h1, rfl, rfl, h⟩
    · exact absurd h1 g1
    · refine ⟨rfl, ?_, rfl⟩
      rcases h with ⟨h2, h⟩ | ⟨h2, rfl⟩ <;> rcases g with ⟨g2, g⟩ | ⟨g2, rfl⟩
      · exact h.one g
      · exact absurd h2 g2
      · exact absurd g2 h2
      · rfl

/-- Where one step is good, there is no other. -/
theorem StepAns.one {zs : List Int} {most : Int} {i : Nat} {m : Int} {xs fs : List Fld} {j j' m' m'' : Int} {ys gs ys' gs' : List Fld} {c : Int} (h : StepAns zs most i m xs fs j m' ys gs c) (g : StepAns zs most i m xs fs j' m'' ys' gs' 0) : c = 0 ∧ j = j' ∧ m' = m'' ∧ ys = ys' ∧ gs = gs' := by
  obtain ⟨n, p, ok, h1, h⟩ := h
  obtain ⟨n', p', ok', g1, g⟩ := g
  rw [h1] at g1
  injection g1 with e1 e2
  injection e2 with e2 e3
  subst e1 e2 e3
  rcases g with ⟨_, g0⟩ | ⟨hok, g⟩
  · omega
  rcases h with ⟨h0, _⟩ | ⟨_, h⟩
  · rw [h0] at hok; cases hok
  have a1 : (80 : TypeId) ≠ 82 := by decide
  rcases g with ⟨gf, g⟩ | ⟨gf, g⟩ | ⟨gf, gf2, x, y, j1, c1, gl, g⟩
  · rcases h with ⟨hf, h⟩ | ⟨hf, h⟩ | ⟨hf, hf2, _⟩
    · rcases g with ⟨_, g0⟩ | ⟨gc, _, rfl, rfl, g⟩
      · omega
      rcases h with ⟨hc, _⟩ | ⟨hc, rfl, rfl, rfl, h⟩
      · exact absurd hc gc
      · obtain ⟨rfl, rfl⟩ := h.one g
        exact ⟨rfl, rfl, rfl, rfl, rfl⟩
    · exact absurd (gf.symm.trans hf) a1
    · exact absurd gf hf
  · rcases h with ⟨hf, h⟩ | ⟨hf, h⟩ | ⟨hf, hf2, _⟩
    · exact absurd (hf.symm.trans gf) a1
    · rcases g with ⟨_, g0⟩ | ⟨ga, rfl, rfl, g⟩
      · omega
      rcases h with ⟨ha, _⟩ | ⟨ha, rfl, rfl, h⟩
      · rw [ha] at ga; cases ga
      · obtain ⟨rfl, rfl, rfl⟩ := h.one g
        exact ⟨rfl, rfl, rfl, rfl, rfl⟩
    · exact absurd gf hf2
  · rcases h with ⟨hf, h⟩ | ⟨hf, h⟩ | ⟨hf, hf2, x', y', j1', c1', hl, h⟩
    · exact absurd hf gf
    · exact absurd hf gf2
    · obtain ⟨rfl, rfl, rfl, rfl⟩ := hl.one gl
      rcases g with ⟨g0, g0'⟩ | ⟨_, rfl, rfl, g⟩
      · omega
      rcases h with ⟨h0, rfl⟩ | ⟨h0, rfl, rfl, h⟩
      · omega
      · obtain ⟨rfl, rfl, rfl⟩ := h.one g
        exact ⟨rfl, rfl, rfl, rfl, rfl⟩

theorem bitsL_range (c : Int) : 1 ≤ bitsL c ∧ bitsL c ≤ 8 := by
  unfold bitsL
  split
  · omega
  · split
    · omega
    · split <;> omega

theorem TakeAns.kept {T : TypeId} {m : Int} {xs fs : List Fld} {f : Fld} {ys gs : List Fld} (h : TakeAns T m xs fs f ys gs 0) (ho : okT m xs = true) (hf : fs.length ≤ 100) : okT m ys = true ∧ gs.length ≤ 100 := by
  rcases h with ⟨_, h0⟩ | ⟨h1, _, rfl, h⟩
  · omega
  · refine ⟨?_, by rw [List.length_append, List.length_cons, List.length_nil]; omega⟩
    rcases h with ⟨_, h⟩ | ⟨_, rfl⟩
    · exact h.ok ho
    · exact ho

/-- What a good step keeps. -/
theorem StepAns.kept {zs : List Int} {most : Int} {i : Nat} {m : Int} {xs fs : List Fld} {j m' : Int} {ys gs : List Fld} (hz : ∀ x ∈ zs, 0 ≤ x ∧ x ≤ 255) (h : StepAns zs most i m xs fs j m' ys gs 0) (ho : okT m xs = true) (hf : fs.length ≤ 100) :
    ∃ i' : Nat, j = (i' : Int) ∧ i < i' ∧ i' ≤ zs.length ∧ okT m' ys = true ∧ gs.length ≤ 100 := by
  obtain ⟨n, p, ok, h1, h⟩ := h
  rcases h with ⟨_, h0⟩ | ⟨hok, h⟩
  · omega
  subst hok
  have hb := getPfx_bound zs i _ n p hz h1
  rcases h with ⟨hf1, h⟩ | ⟨hf1, h⟩ | ⟨hf1, hf2, x, y, j1, c1, hl, h⟩
  · rcases h with ⟨_, h0⟩ | ⟨hc, _, rfl, rfl, h⟩
    · omega
    · exact ⟨j.toNat, by omega, by omega, by omega, h.ok ho, hf⟩
  · rcases h with ⟨_, h0⟩ | ⟨ha, rfl, rfl, h⟩
    · omega
    · obtain ⟨k1, k2⟩ := h.kept ho hf
      exact ⟨j.toNat, by omega, by omega, by omega, k1, k2⟩
  · rcases h with ⟨h0, h0'⟩ | ⟨hc, rfl, rfl, h⟩
    · omega
    · obtain ⟨k1, k2⟩ := h.kept ho hf
      have hj : p < j ∧ j ≤ zs.length := by
        obtain ⟨t, j0, c0, hn, hlv⟩ := hl
        rcases hlv with ⟨h0, _, _, h2, _⟩ | ⟨h0, _, q, ok, hy, hcode, hjj⟩
        · omega
        · have hokt : ok = true := by
            cases ok with
            | true => rfl
            | false => simp at hcode; omega
          subst hokt
          simp at hjj
          subst hjj
          have hyb : GoodS zs j0 y j := by
            rcases hy with ⟨_, hy⟩ | ⟨hy, _⟩
            · exact hy
            · cases hy
          have hyb2 := hyb.bound hz
          rcases hn with ⟨_, q', ok', hx, hcode', hj0⟩ | ⟨_, rfl, _⟩
          · have hokt : ok' = true := by
              cases ok' with
              | true => rfl
              | false => simp at hcode'; omega
            subst hokt
            simp at hj0
            subst hj0
            rcases hx with ⟨_, hx⟩ | ⟨hx, _⟩
            · have := hx.bound hz
              omega
            · cases hx
          · omega
      exact ⟨j.toNat, by omega, by omega, by omega, k1, k2⟩

/-- What stands behind so many steps. -/
def RunN (zs : List Int) (most m0 : Int) (xs0 : List Fld) : Nat → Nat → Int → List Fld → List Fld → Prop
  | 0, i, m, xs, fs => i = 0 ∧ m = m0 ∧ xs = xs0 ∧ fs = []
  | k + 1, i', m', ys, gs => ∃ (i : Nat) (m : Int) (xs fs : List Fld), RunN zs most m0 xs0 k i m xs fs ∧ i < zs.length ∧ StepAns zs most i m xs fs (i' : Int) m' ys gs 0

theorem RunN.kept {zs : List Int} {most m0 : Int} {xs0 : List Fld} (hz : ∀ x ∈ zs, 0 ≤ x ∧ x ≤ 255) (ho : okT m0 xs0 = true) : ∀ {k i : Nat} {m : Int} {xs fs : List Fld}, RunN zs most m0 xs0 k i m xs fs → k ≤ i ∧ i ≤ zs.length ∧ okT m xs = true ∧ fs.length ≤ 100 := by
  intro k
  induction k with
  | zero =>
    rintro i m xs fs ⟨rfl, rfl, rfl, rfl⟩
    exact ⟨Nat.le_refl _, Nat.zero_le _, ho, by simp⟩
  | succ k ih =>
    rintro i' m' ys gs ⟨i, m, xs, fs, h, hi, hs⟩
    obtain ⟨h1, h2, h3, h4⟩ := ih h
    obtain ⟨i2, e, g1, g2, g3, g4⟩ := hs.kept hz h3 h4
    obtain rfl : i' = i2 := by omega
    exact ⟨by omega, g2, g3, g4⟩

theorem RunN.one {zs : List Int} {most m0 : Int} {xs0 : List Fld} : ∀ {k i i' : Nat} {m m' : Int} {xs fs xs' fs' : List Fld}, RunN zs most m0 xs0 k i m xs fs → RunN zs most m0 xs0 k i' m' xs' fs' → i = i' ∧ m = m' ∧ xs = xs' ∧ fs = fs' := by
  intro k
  induction k with
  | zero =>
    rintro i i' m m' xs fs xs' fs' ⟨rfl, rfl, rfl, rfl⟩ ⟨rfl, rfl, rfl, rfl⟩
    exact ⟨rfl, rfl, rfl, rfl⟩
  | succ k ih =>
    rintro i i' m m' xs fs xs' fs' ⟨i1, m1, x1, f1, h, hi, hs⟩ ⟨i2, m2, x2, f2, g, gi, gs⟩
    obtain ⟨rfl, rfl, rfl, rfl⟩ := ih h g
    obtain ⟨_, e1, rfl, rfl, rfl⟩ := hs.one gs
    exact ⟨by omega, rfl, rfl, rfl⟩

/-- A run that is shorter is on the way. -/
theorem RunN.less {zs : List Int} {most m0 : Int} {xs0 : List Fld} : ∀ {d k i : Nat} {m : Int} {xs fs : List Fld}, RunN zs most m0 xs0 (k + d) i m xs fs → ∃ (i' : Nat) (m' : Int) (xs' fs' : List Fld), RunN zs most m0 xs0 k i' m' xs' fs' ∧ (d = 0 → i' = i) ∧ (0 < d → i' < zs.length ∧ ∃ (j m2 : Int) (ys gs : List Fld), StepAns zs most i' m' xs' fs' j m2 ys gs 0) := by
  intro d
  induction d with
  | zero =>
    intro k i m xs fs h
    exact ⟨i, m, xs, fs, h, fun _ => rfl, fun h => by omega⟩
  | succ d ih =>
    intro k i m xs fs h
    obtain ⟨i1, m1, x1, f1, h1, hi, hs⟩ := h
    obtain ⟨i', m', xs', fs', g1, g2, g3⟩ := ih h1
    refine ⟨i', m', xs', fs', g1, fun e => by omega, fun _ => ?_⟩
    by_cases hd : d = 0
    · subst hd
      obtain ⟨rfl, rfl, rfl, rfl⟩ := RunN.one g1 h1
      exact ⟨hi, _, _, _, _, hs⟩
    · exact g3 (by omega)

/-- What GetFields answers: the fields, the table's size and its fields, a code. -/
def GetAns (zs : List Int) (most m0 : Int) (xs0 gs : List Fld) (m' : Int) (ys : List Fld) (code : Int) : Prop :=
  (¬ (okT m0 xs0 = true ∧ 0 ≤ most ∧ most ≤ 4096) ∧ gs = [] ∧ m' = m0 ∧ ys = xs0 ∧ code = 1) ∨
  ((okT m0 xs0 = true ∧ 0 ≤ most ∧ most ≤ 4096) ∧ ((code = 0 ∧ ∃ k, RunN zs most m0 xs0 k zs.length m' ys gs) ∨
    (code ≠ 0 ∧ gs = [] ∧ m' = m0 ∧ ys = xs0 ∧ ∃ (k i : Nat) (m : Int) (xs fs : List Fld) (j m2 : Int) (y2 g2 : List Fld), RunN zs most m0 xs0 k i m xs fs ∧ i < zs.length ∧ StepAns zs most i m xs fs j m2 y2 g2 code)))

/-- Where a run comes to the end, nothing else is answered. -/
theorem GetAns.good {zs : List Int} {most m0 : Int} {xs0 gs : List Fld} {m' : Int} {ys : List Fld} {code : Int} (hz : ∀ x ∈ zs, 0 ≤ x ∧ x ≤ 255) (h : GetAns zs most m0 xs0 gs m' ys code) (ho : okT m0 xs0 = true) (h0 : 0 ≤ most) (h1 : most ≤ 4096) {n : Nat} {m : Int} {xs fs : List Fld} (hr : RunN zs most m0 xs0 n zs.length m xs fs) : code = 0 ∧ gs = fs ∧ m' = m ∧ ys = xs := by
  rcases h with ⟨hno, _⟩ | ⟨_, ⟨rfl, k, h⟩ | ⟨hc, _, _, _, k, i, m1, x1, f1, j, m2, y2, g2, h, hi, hs⟩⟩
  · exact absurd ⟨ho, h0, h1⟩ hno
  · have hkn : k = n := by
      rcases Nat.lt_trichotomy k n with hl | he | hg
      · obtain ⟨d, rfl⟩ : ∃ d, n = k + d := ⟨n - k, by omega⟩
        obtain ⟨i', m', xs', fs', g1, _, g3⟩ := RunN.less hr
        obtain ⟨rfl, _⟩ := RunN.one g1 h
        have := (g3 (by omega)).1
        omega
      · exact he
      · obtain ⟨d, rfl⟩ : ∃ d, k = n + d := ⟨k - n, by omega⟩
        obtain ⟨i', m', xs', fs', g1, _, g3⟩ := RunN.less h
        obtain ⟨rfl, _⟩ := RunN.one g1 hr
        have := (g3 (by omega)).1
        omega
    subst hkn
    obtain ⟨_, rfl, rfl, rfl⟩ := RunN.one h hr
    exact ⟨rfl, rfl, rfl, rfl⟩
  · exfalso
    rcases Nat.lt_or_ge k n with hl | hg
    · obtain ⟨d, rfl⟩ : ∃ d, n = k + d := ⟨n - k, by omega⟩
      obtain ⟨i', m', xs', fs', g1, _, g3⟩ := RunN.less hr
      obtain ⟨rfl, rfl, rfl, rfl⟩ := RunN.one g1 h
      obtain ⟨_, _, _, _, _, hs2⟩ := g3 (by omega)
      exact hc (hs.one hs2).1
    · obtain ⟨d, rfl⟩ : ∃ d, k = n + d := ⟨k - n, by omega⟩
      obtain ⟨i', m', xs', fs', g1, g2, g3⟩ := RunN.less h
      obtain ⟨rfl, _⟩ := RunN.one g1 hr
      by_cases hd : d = 0
      · have := g2 hd
        omega
      · have := (g3 (by omega)).1
        omega

theorem fmode_range (x : ByteArray) : 1 ≤ fmode x ∧ fmode x ≤ 3 := by
  unfold fmode
  split <;> omega

theorem PutAns.ok {m : Int} {xs : List Fld} {x y : ByteArray} {mode : Int} {q : List Int} {ys : List Fld} (h : PutAns m xs x y mode q ys) (ho : okT m xs = true) : okT m ys = true := by
  rcases h with ⟨_, i, b, _, _, ⟨_, _, h⟩ | ⟨_, rfl⟩⟩ | ⟨_, _, rfl⟩
  · exact h.ok ho
  · exact ho
  · exact ho

/-- The bytes of fields are read one field a step. -/
theorem puts_run {L : List Fld} {m : Int} {xs : List Fld} (ho : okT m xs = true) (hL : ∀ f ∈ L, f.1.size ≤ 4000 ∧ f.2.size ≤ 4000) (hn : L.length ≤ 100) (most : Int) : ∀ {n : Nat} {q : List Int} {ys : List Fld}, PutN L m xs n q ys → n ≤ L.length → okT m ys = true ∧ ∀ rest, RunN (q ++ rest) most m xs n q.length m ys (L.take n) := by
  intro n
  induction n with
  | zero =>
    rintro q ys ⟨rfl, rfl⟩ _
    exact ⟨ho, fun rest => ⟨rfl, rfl, rfl, by simp⟩⟩
  | succ n ih =>
    rintro q ys ⟨q1, y1, x, y, r, h1, h2, h3, rfl⟩ hnl
    obtain ⟨ho1, ih1⟩ := ih h1 (by omega)
    have hmem := hL _ (List.mem_of_getElem? h2)
    have hfm := fmode_range x
    refine ⟨h3.ok ho1, fun rest => ?_⟩
    obtain ⟨hpos, hstep⟩ := step_back h3 ho1 hfm.1 hfm.2 hmem.1 hmem.2 most (L.take n) (by rw [List.length_take]; omega) q1 rest
    have hrun := ih1 (r ++ rest)
    rw [List.append_assoc, List.length_append]
    refine ⟨q1.length, m, y1, L.take n, hrun, by simp only [List.length_append]; omega, ?_⟩
    rw [List.take_add_one, h2]
    exact hstep

end Go.Proofs.YtckpacifimpkgacGreat

namespace Go.Proofs.YtckpacifimpkgacGreat
open Go.RowKit
set_option linter.unusedVariables false

set_option maxRecDepth 10000 in
set_option maxHeartbeats 3200000 in
theorem rdStep_size (w00 : World) (r bb off len cap i : Nat) (zs : List Int) (most m : Int) (ta : Option Addr) (tl tc : Nat) (xs : List Fld) (fa : Option Addr) (fl fc : Nat) (fs : List Fld) (w : World) (h0 : Below w00.heap.size w00 w) (hs : Seg w00 (some ⟨bb, off, none⟩) len zs) (hbb : bb < w00.heap.size)
    (hr : RdO w w00.heap.size r (.slice (some ⟨bb, off, none⟩) len cap) i most m ta tl tc xs fa fl fc fs) (hcap : len ≤ cap) (hl : len ≤ 1099511627776) (hi : i < len) (hok : okT m xs = true) (hfl : fl ≤ 100) (h1 : 32 ≤ zs.getD i 0) (h2 : zs.getD i 0 < 64) :
    Calls Tryz.prog 18 #[.pointer (some ⟨r, 0, none⟩)] w fun e w' => ∃ (code j m' : Int) (va : Option Addr) (k vc : Nat) (ys : List Fld) (fa' : Option Addr) (fc' : Nat) (gs : List Fld), StepAns zs most i m xs fs j m' ys gs code ∧ e = .returned (.int .i64 code) ∧ Below w00.heap.size w00 w' ∧ (code = 0 → RdO w' w00.heap.size r (.slice (some ⟨bb, off, none⟩) len cap) j most m' va k vc ys fa' gs.length fc' gs) := by
  have HS : Hid (∀ W, Below w00.heap.size w00 W → Seg W (some ⟨bb, off, none⟩) len zs) := fun W h => hs.below h
  have HB : Hid (Below w00.heap.size w00 w) := h0
  have HR : Hid (RdO w w00.heap.size r (.slice (some ⟨bb, off, none⟩) len cap) i most m ta tl tc xs fa fl fc fs) := hr
  have HFl : Hid (fs.length = fl) := hr.2.2.2.1.len
  have htl : tl + fldBytes xs ≤ 4096 := by have h3 := okT_small hok; have h4 := hr.2.2.1.len; omega
  have hzl : zs.length = len := hs.1
  obtain ⟨c0, c1, c2, c3, c4, c5, c6⟩ := hr.1.cells
  have c7 : w.cell? ⟨bb, off + i, none⟩ = some (.int .u8 (zs.getD i 0)) := by
    rcases (hs.below h0).2.2 with h | ⟨b', off', e, hb, hc⟩
    · omega
    · cases e
      have := hc i (by omega)
      rw [this, List.getD, List.getElem?_eq_getElem (by omega)]
  have hT : formL (zs.getD i 0) = 80 := by rw [formL, if_neg (by omega), if_neg (by omega), if_pos (by omega)]
  have hbits : bitsL (zs.getD i 0) = 5 := by rw [bitsL, if_neg (by omega), if_neg (by omega), if_pos (by omega)]
  clear hr h0 hs
  generalize hcc : zs.getD i 0 = c at *
  have hii : (i : Int) < (len : Int) := by omega
  have hi0 : (0 : Int) ≤ (i : Int) := by omega
  go_enter Tryz.func18, Tryz.ntmps18
  go_wp2_with fail
  go_region_held3 (fun W => W.cell? ⟨r, 0, none⟩ = some (.slice (some ⟨bb, off, none⟩) len cap) ∧ W.cell? ⟨r, 1, none⟩ = some (.int .i64 i) ∧ W.cell? ⟨bb, off + i, none⟩ = some (.int .u8 c)) (first | (refine ⟨?_, ?_, ?_⟩ <;> assumption) | (refine ⟨?_, ?_, ?_⟩ <;> (simp [go_sem, *]; done)) | go_keep) (first
    | (go_at_call 38; refine (formOf_any c _).mono ?_; rintro e y1 ⟨rfl, rfl⟩)
    | fail)
  go_wp2_with fail
  refine (lead_size _).mono ?_
  rintro e y2 ⟨rfl, hb2⟩
  have hb2' : Below w.heap.size w y2 := (Below.refl w.heap.size w).drew.trans (hb2.mono (Nat.le_refl _))
  have HR2 : Hid (RdO y2 w00.heap.size r (.slice (some ⟨bb, off, none⟩) len cap) i most m ta tl tc xs fa fl fc fs) := HR.out.stays hb2'
  have HB2 : Hid (Below w00.heap.size w00 y2) := HB.out.trans (hb2'.mono HB.out.size)
  clear hb2 hb2' c0 c1 c2 c3 c4 c5 c6 c7
  obtain ⟨c0, c1, _, _, _, _, _⟩ := HR2.out.1.cells
  obtain ⟨⟨n, p, ok⟩, hgp⟩ : ∃ q, getPfx zs (i : Int) 5 = q := ⟨_, rfl⟩
  have HG : Hid (∀ W, Below w00.heap.size w00 W → Calls Tryz.prog 39 #[.slice (some ⟨bb, off, none⟩) len cap, .int .i64 i, .int .i64 5] W fun e w' => e = .returned (.tuple #[.int .i64 n, .int .i64 p, .bool ok]) ∧ Below W.heap.size W w') := fun W h => by
    have := implGpx_any bb off len cap i 5 zs W (HS.out W h) hcap hl
    rw [hgp] at this
    exact this
  have HGp : Hid (getPfx zs (i : Int) (bitsL (zs.getD i 0)) = (n, p, ok)) := by show _ = _; rw [hcc, hbits]; exact hgp
  clear hgp
  have HTT : Hid (formL (zs.getD i 0) = 80) := by show _ = _; rw [hcc]; exact hT
  clear hT hbits hcc
  go_wp2_with fail
  go_region_held3 (fun W => W.cell? ⟨r, 0, none⟩ = some (.slice (some ⟨bb, off, none⟩) len cap) ∧ W.cell? ⟨r, 1, none⟩ = some (.int .i64 i)) (first | (refine ⟨?_, ?_⟩ <;> assumption) | (refine ⟨?_, ?_⟩ <;> (simp [go_sem, *]; done)) | go_keep) (first
    | (go_at_call 39; refine (HG.out _ HB2.out.drew).mono ?_; rintro e y3 ⟨rfl, hb3⟩
       have hb3' : Below y2.heap.size y2 y3 := (Below.refl y2.heap.size y2).drew.trans (hb3.mono (Nat.le_refl _))
       obtain ⟨k0, k1, _, _, _, _, _⟩ := (HR2.out.stays hb3').1.cells)
    | fail)
  have HR3 : Hid (RdO y3 w00.heap.size r (.slice (some ⟨bb, off, none⟩) len cap) i most m ta tl tc xs fa fl fc fs) := HR2.out.stays hb3'
  have HB3 : Hid (Below w00.heap.size w00 y3) := HB2.out.trans (hb3'.mono HB2.out.size)
  clear hb3 hb3' k0 k1 c0 c1 HR2 HB2 HR HB HG
  cases ok with
  | false =>
    go_wp2_with fail
    go_ret
    exact ⟨1, 0, 0, none, 0, 0, [], none, 0, [], ⟨n, p, false, HGp.out, .inl ⟨rfl, rfl⟩⟩, rfl, HB3.out, fun h => by cases h⟩
  | true =>
    have hta : ∀ w : World, (Instr.typeAssert (.iface 80 (.agg #[])) 69 80 true).run Tryz.prog w = .ok (.tuple #[.agg #[], .bool true]) w := fun w => assert_yes Tryz.underlying80 w
    obtain ⟨_, k1, _, _, _, _, k6⟩ := HR3.out.1.cells
    have k7 := k6 1 (by omega)
    clear k6
    have HR4 : Hid (RdO (y3.setCell ⟨r, 1, none⟩ (.int .i64 p)) w00.heap.size r (.slice (some ⟨bb, off, none⟩) len cap) p most m ta tl tc xs fa fl fc fs) := HR3.out.setAt p
    have HB4 : Hid (Below w00.heap.size w00 (y3.setCell ⟨r, 1, none⟩ (.int .i64 p))) := HB3.out.setCell (p := ⟨r, 1, none⟩) HR3.out.2.1 _
    go_wp2_with fail
    refine (rdSize_any r _ p most m ta tl tc xs fa fl fc n _ HR4.out.1 HR4.out.2.2.1.flds (by omega)).mono ?_
    rintro e y5 (⟨hc, rfl, hr5, hg5⟩ | ⟨hc, rfl, v, m', k, ys, hcut, hr5, ho5, hg5⟩)
    · have HB5 : Hid (Below w00.heap.size w00 y5) := HB4.out.grown hg5 HB4.out.size (fun q e => by injection e with e; rw [← e]; exact HR4.out.2.1)
      have HC5 : Hid (most < n ∨ 0 < fs.length) := by show _ ∨ _; rw [HFl.out]; exact hc
      clear hr5 hg5 hc
      go_wp2_with fail
      go_ret
      exact ⟨3, 0, 0, none, 0, 0, [], none, 0, [], ⟨n, p, true, HGp.out, .inr ⟨rfl, .inl ⟨HTT.out, .inl ⟨HC5.out, rfl⟩⟩⟩⟩, rfl, HB5.out, fun h => by cases h⟩
    · obtain ⟨va, vc, rfl⟩ := ho5.shape
      have HB5 : Hid (Below w00.heap.size w00 y5) := HB4.out.grown hg5 HB4.out.size (fun q e => by injection e with e; rw [← e]; exact HR4.out.2.1)
      have HC5 : Hid (¬ (most < n ∨ 0 < fs.length)) := by show ¬ _; rw [HFl.out]; exact hc
      have HR5 : Hid (RdO y5 w00.heap.size r (.slice (some ⟨bb, off, none⟩) len cap) p most m' va k vc ys fa fl fc fs) := HR4.out.sized hg5 HB4.out.size hr5 ho5
      have HCut : Hid (CutAns m n xs m' ys) := hcut
      clear hr5 hg5 hc ho5 hcut
      go_wp2_with fail
      go_ret
      exact ⟨0, p, m', va, k, vc, ys, fa, fc, fs, ⟨n, p, true, HGp.out, .inr ⟨rfl, .inl ⟨HTT.out, .inr ⟨HC5.out, rfl, rfl, rfl, HCut.out⟩⟩⟩⟩, rfl, HB5.out, fun _ => by rw [HFl.out]; exact HR5.out⟩

end Go.Proofs.YtckpacifimpkgacGreat

namespace Go.Proofs.YtckpacifimpkgacGreat
open Go.RowKit
set_option linter.unusedVariables false

set_option maxRecDepth 10000 in
set_option maxHeartbeats 3200000 in
theorem rdStep_indexed (w00 : World) (r bb off len cap i : Nat) (zs : List Int) (most m : Int) (ta : Option Addr) (tl tc : Nat) (xs : List Fld) (fa : Option Addr) (fl fc : Nat) (fs : List Fld) (w : World) (h0 : Below w00.heap.size w00 w) (hs : Seg w00 (some ⟨bb, off, none⟩) len zs) (hbb : bb < w00.heap.size)
    (hr : RdO w w00.heap.size r (.slice (some ⟨bb, off, none⟩) len cap) i most m ta tl tc xs fa fl fc fs) (hcap : len ≤ cap) (hl : len ≤ 1099511627776) (hi : i < len) (hok : okT m xs = true) (hfl : fl ≤ 100) (h1 : 128 ≤ zs.getD i 0) :
    Calls Tryz.prog 18 #[.pointer (some ⟨r, 0, none⟩)] w fun e w' => ∃ (code j m' : Int) (va : Option Addr) (k vc : Nat) (ys : List Fld) (fa' : Option Addr) (fc' : Nat) (gs : List Fld), StepAns zs most i m xs fs j m' ys gs code ∧ e = .returned (.int .i64 code) ∧ Below w00.heap.size w00 w' ∧ (code = 0 → RdO w' w00.heap.size r (.slice (some ⟨bb, off, none⟩) len cap) j most m' va k vc ys fa' gs.length fc' gs) := by
  have HS : Hid (∀ W, Below w00.heap.size w00 W → Seg W (some ⟨bb, off, none⟩) len zs) := fun W h => hs.below h
  have HB : Hid (Below w00.heap.size w00 w) := h0
  have HR : Hid (RdO w w00.heap.size r (.slice (some ⟨bb, off, none⟩) len cap) i most m ta tl tc xs fa fl fc fs) := hr
  have HFl : Hid (fs.length = fl) := hr.2.2.2.1.len
  have htl : tl + fldBytes xs ≤ 4096 := by have h3 := okT_small hok; have h4 := hr.2.2.1.len; omega
  have hzl : zs.length = len := hs.1
  obtain ⟨c0, c1, c2, c3, c4, c5, c6⟩ := hr.1.cells
  have c7 : w.cell? ⟨bb, off + i, none⟩ = some (.int .u8 (zs.getD i 0)) := by
    rcases (hs.below h0).2.2 with h | ⟨b', off', e, hb, hc⟩
    · omega
    · cases e
      have := hc i (by omega)
      rw [this, List.getD, List.getElem?_eq_getElem (by omega)]
  have hT : formL (zs.getD i 0) = 82 := by rw [formL, if_pos (by omega)]
  have hbits : bitsL (zs.getD i 0) = 7 := by rw [bitsL, if_pos (by omega)]
  have HZ : Hid (∀ x ∈ zs, 0 ≤ x ∧ x ≤ 255) := hs.2.1
  clear hr h0 hs
  generalize hcc : zs.getD i 0 = c at *
  have hii : (i : Int) < (len : Int) := by omega
  have hi0 : (0 : Int) ≤ (i : Int) := by omega
  go_enter Tryz.func18, Tryz.ntmps18
  go_wp2_with fail
  go_region_held3 (fun W => W.cell? ⟨r, 0, none⟩ = some (.slice (some ⟨bb, off, none⟩) len cap) ∧ W.cell? ⟨r, 1, none⟩ = some (.int .i64 i) ∧ W.cell? ⟨bb, off + i, none⟩ = some (.int .u8 c)) (first | (refine ⟨?_, ?_, ?_⟩ <;> assumption) | (refine ⟨?_, ?_, ?_⟩ <;> (simp [go_sem, *]; done)) | go_keep) (first
    | (go_at_call 38; refine (formOf_any c _).mono ?_; rintro e y1 ⟨rfl, rfl⟩)
    | fail)
  go_wp2_with fail
  refine (lead_indexed _).mono ?_
  rintro e y2 ⟨rfl, hb2⟩
  have hb2' : Below w.heap.size w y2 := (Below.refl w.heap.size w).drew.trans (hb2.mono (Nat.le_refl _))
  have HR2 : Hid (RdO y2 w00.heap.size r (.slice (some ⟨bb, off, none⟩) len cap) i most m ta tl tc xs fa fl fc fs) := HR.out.stays hb2'
  have HB2 : Hid (Below w00.heap.size w00 y2) := HB.out.trans (hb2'.mono HB.out.size)
  clear hb2 hb2' c0 c1 c2 c3 c4 c5 c6 c7
  obtain ⟨c0, c1, _, _, _, _, _⟩ := HR2.out.1.cells
  obtain ⟨⟨n, p, ok⟩, hgp⟩ : ∃ q, getPfx zs (i : Int) 7 = q := ⟨_, rfl⟩
  have HG : Hid (∀ W, Below w00.heap.size w00 W → Calls Tryz.prog 39 #[.slice (some ⟨bb, off, none⟩) len cap, .int .i64 i, .int .i64 7] W fun e w' => e = .returned (.tuple #[.int .i64 n, .int .i64 p, .bool ok]) ∧ Below W.heap.size W w') := fun W h => by
    have := implGpx_any bb off len cap i 7 zs W (HS.out W h) hcap hl
    rw [hgp] at this
    exact this
  have HGp : Hid (getPfx zs (i : Int) (bitsL (zs.getD i 0)) = (n, p, ok)) := by show _ = _; rw [hcc, hbits]; exact hgp
  clear hgp
  have HTT : Hid (formL (zs.getD i 0) = 82) := by show _ = _; rw [hcc]; exact hT
  clear hT hbits hcc
  go_wp2_with fail
  go_region_held3 (fun W => W.cell? ⟨r, 0, none⟩ = some (.slice (some ⟨bb, off, none⟩) len cap) ∧ W.cell? ⟨r, 1, none⟩ = some (.int .i64 i)) (first | (refine ⟨?_, ?_⟩ <;> assumption) | (refine ⟨?_, ?_⟩ <;> (simp [go_sem, *]; done)) | go_keep) (first
    | (go_at_call 39; refine (HG.out _ HB2.out.drew).mono ?_; rintro e y3 ⟨rfl, hb3⟩
       have hb3' : Below y2.heap.size y2 y3 := (Below.refl y2.heap.size y2).drew.trans (hb3.mono (Nat.le_refl _))
       obtain ⟨k0, k1, _, _, _, _, _⟩ := (HR2.out.stays hb3').1.cells)
    | fail)
  have HR3 : Hid (RdO y3 w00.heap.size r (.slice (some ⟨bb, off, none⟩) len cap) i most m ta tl tc xs fa fl fc fs) := HR2.out.stays hb3'
  have HB3 : Hid (Below w00.heap.size w00 y3) := HB2.out.trans (hb3'.mono HB2.out.size)
  clear hb3 hb3' k0 k1 c0 c1 HR2 HB2 HR HB HG
  cases ok with
  | false =>
    go_wp2_with fail
    go_ret
    exact ⟨1, 0, 0, none, 0, 0, [], none, 0, [], ⟨n, p, false, HGp.out, .inl ⟨rfl, rfl⟩⟩, rfl, HB3.out, fun h => by cases h⟩
  | true =>
    have hta : ∀ w : World, (Instr.typeAssert (.iface 82 (.agg #[])) 69 80 true).run Tryz.prog w = .ok (.tuple #[.agg #[], .bool false]) w := fun w => assert_no Tryz.underlying80 (by kernel_rfl) (by decide) w
    have htb : ∀ w : World, (Instr.typeAssert (.iface 82 (.agg #[])) 69 82 true).run Tryz.prog w = .ok (.tuple #[.agg #[], .bool true]) w := fun w => assert_yes Tryz.underlying82 w
    obtain ⟨_, k1, _, _, _, _, k6⟩ := HR3.out.1.cells
    have k7 := k6 1 (by omega)
    clear k6
    have HR4 : Hid (RdO (y3.setCell ⟨r, 1, none⟩ (.int .i64 p)) w00.heap.size r (.slice (some ⟨bb, off, none⟩) len cap) p most m ta tl tc xs fa fl fc fs) := HR3.out.setAt p
    have HB4 : Hid (Below w00.heap.size w00 (y3.setCell ⟨r, 1, none⟩ (.int .i64 p))) := HB3.out.setCell (p := ⟨r, 1, none⟩) HR3.out.2.1 _
    have hnp := getPfx_bound zs i _ n p HZ.out HGp.out
    have hn1 := hnp.1
    have hn2 := hnp.2.1
    clear hnp
    obtain ⟨y4, hy4⟩ : ∃ y4, y3.setCell ⟨r, 1, none⟩ (.int .i64 p) = y4 := ⟨_, rfl⟩
    rw [hy4] at HR4 HB4
    obtain ⟨_, _, _, l3, l4, _, _⟩ := HR4.out.1.cells
    obtain ⟨⟨⟨x, y⟩, b⟩, hat⟩ : ∃ q, atAns xs n = q := ⟨_, rfl⟩
    have hsz := atAns_short hok n
    have hA := implAt_any m n ta tl tc xs y4 HR4.out.2.2.1.flds (by omega) (by omega)
    rw [hat] at hA hsz
    have HAt : Hid (atAns xs n = ((x, y), b)) := hat
    dsimp only at hA hsz
    clear hat
    go_wp2_with fail
    refine hA.mono ?_
    rintro e y5 ⟨rfl, hb5⟩
    have HR5 : Hid (RdO y5 w00.heap.size r (.slice (some ⟨bb, off, none⟩) len cap) p most m ta tl tc xs fa fl fc fs) := HR4.out.stays hb5
    have HB5 : Hid (Below w00.heap.size w00 y5) := HB4.out.trans (hb5.mono HB4.out.size)
    clear hA hb5 hy4 l3 l4 HR4 HB4
    cases b with
    | false =>
      obtain ⟨y6, hy6⟩ : ∃ y6, y5.alloc (.cells #[.string x, .string y] 43) = y6 := ⟨_, rfl⟩
      have hb56 : Below y5.heap.size y5 y6 := by rw [← hy6]; exact (Below.refl _ _).alloc (Nat.le_refl _) _
      have HR6 : Hid (RdO y6 w00.heap.size r (.slice (some ⟨bb, off, none⟩) len cap) p most m ta tl tc xs fa fl fc fs) := HR5.out.stays hb56
      have HB6 : Hid (Below w00.heap.size w00 y6) := HB5.out.trans (hb56.mono HB5.out.size)
      obtain ⟨f0, f1, _, _⟩ : y6.cell? ⟨y5.heap.size, 0, none⟩ = some (.string x) ∧ y6.cell? ⟨y5.heap.size, 1, none⟩ = some (.string y) ∧ y6.frozen? ⟨y5.heap.size, 0, none⟩ = false ∧ y6.frozen? ⟨y5.heap.size, 1, none⟩ = false := by rw [← hy6]; exact (Box2.new y5 43 (.string x) (.string y)).cells
      clear hb56
      go_wp2_with fail
      go_ret
      exact ⟨2, 0, 0, none, 0, 0, [], none, 0, [], ⟨n, p, true, HGp.out, .inr ⟨rfl, .inr (.inl ⟨HTT.out, .inl ⟨by rw [HAt.out], rfl⟩⟩)⟩⟩, rfl, HB6.out, fun h => by cases h⟩
    | true =>
      obtain ⟨y6, hy6⟩ : ∃ y6, y5.alloc (.cells #[.string x, .string y] 43) = y6 := ⟨_, rfl⟩
      have hb56 : Below y5.heap.size y5 y6 := by rw [← hy6]; exact (Below.refl _ _).alloc (Nat.le_refl _) _
      have HR6 : Hid (RdO y6 w00.heap.size r (.slice (some ⟨bb, off, none⟩) len cap) p most m ta tl tc xs fa fl fc fs) := HR5.out.stays hb56
      have HB6 : Hid (Below w00.heap.size w00 y6) := HB5.out.trans (hb56.mono HB5.out.size)
      obtain ⟨f0, f1, _, _⟩ : y6.cell? ⟨y5.heap.size, 0, none⟩ = some (.string x) ∧ y6.cell? ⟨y5.heap.size, 1, none⟩ = some (.string y) ∧ y6.frozen? ⟨y5.heap.size, 0, none⟩ = false ∧ y6.frozen? ⟨y5.heap.size, 1, none⟩ = false := by rw [← hy6]; exact (Box2.new y5 43 (.string x) (.string y)).cells
      clear hb56
      go_wp2_with fail
      refine (rdTake_any 82 (by decide) r w00.heap.size _ p most m ta tl tc xs fa fl fc fs x y y6 HR6.out HB6.out.size ⟨by unfold maxLen; omega, by unfold maxLen; omega⟩ (by omega) hfl).mono ?_
      rintro e y7 (⟨hc, rfl, hb7⟩ | ⟨hc, rfl, va, k, vc, ys, fa', fc', hans, hr7, hb7⟩)
      · have HB7 : Hid (Below w00.heap.size w00 y7) := HB6.out.trans hb7
        have HC7 : Hid (fs.length = 100) := by show _ = _; rw [HFl.out]; exact hc
        clear hb7 hc
        go_wp2_with fail
        go_ret
        exact ⟨4, p, m, none, 0, 0, [], none, 0, [], ⟨n, p, true, HGp.out, .inr ⟨rfl, .inr (.inl ⟨HTT.out, .inr ⟨by rw [HAt.out], rfl, rfl, by rw [HAt.out]; exact .inl ⟨HC7.out, rfl⟩⟩⟩)⟩⟩, rfl, HB7.out, fun h => by cases h⟩
      · have HB7 : Hid (Below w00.heap.size w00 y7) := HB6.out.trans hb7
        have HC7 : Hid (fs.length ≠ 100) := by show ¬ _ = _; rw [HFl.out]; exact hc
        have HR7 : Hid (RdO y7 w00.heap.size r (.slice (some ⟨bb, off, none⟩) len cap) p most m va k vc ys fa' (fl + 1) fc' (fs ++ [(x, y)])) := hr7
        have HAns : Hid _ := hans
        clear hb7 hc hr7 hans
        go_wp2_with fail
        go_ret
        exact ⟨0, p, m, va, k, vc, ys, fa', fc', fs ++ [(x, y)], ⟨n, p, true, HGp.out, .inr ⟨rfl, .inr (.inl ⟨HTT.out, .inr ⟨by rw [HAt.out], rfl, rfl, by rw [HAt.out]; exact .inr ⟨HC7.out, rfl, rfl, by rw [HTT.out]; first | exact HAns.out | simpa using HAns.out⟩⟩⟩)⟩⟩, rfl, HB7.out, fun _ => by rw [List.length_append, HFl.out]; exact HR7.out⟩

end Go.Proofs.YtckpacifimpkgacGreat
