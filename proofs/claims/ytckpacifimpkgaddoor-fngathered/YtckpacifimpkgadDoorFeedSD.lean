/- What the specification's Feed answers, at any frame; nothing that was there is written. For lists of at most 2^20 bytes. -/
import Derived.Test.YtckpacifimpkgadDoorFeedSA
import Derived.Test.YtckpacifimpkgadDoorFeedSC
namespace Go.Proofs.YtckpacifimpkgadDoor
open Go.RowKit
set_option linter.unusedVariables false

theorem specFeed_any (s : Int) (en : Bool) (a : Option Addr) (n cap : Nat) (zs : List Int) (k f fs : Int) (bb bo : Nat) (m capb : Nat) (ys : List Int) (w : World) (hg : Seg w a n zs) (hf : Seg w (some ⟨bb, bo, none⟩) m ys) (hcap : m ≤ capb) (hl : n ≤ 1048576) (hm : m ≤ 1048576)
    (R : (Int × Bool × List Int) × List Int × Int) (hR : feedR s en zs k f fs ys = R) (L1 L2 : Nat) (h1 : R.1.2.2.length = L1) (h2 : R.2.1.length = L2) :
    Calls Tryd.prog 14 #[.agg #[.int .i64 s, .bool en, .slice a n cap], .agg #[.int .i64 k, .int .i64 f, .int .i64 fs, .slice (some ⟨bb, bo, none⟩) m capb]] w fun e w' => ∃ a' c' a2 c2, e = .returned (.tuple #[.agg #[.int .i64 R.1.1, .bool R.1.2.1, .slice a' L1 c'], .slice a2 L2 c2, .int .i64 R.2.2]) ∧ Owns w' w.heap.size a' L1 c' R.1.2.2 ∧ Owns w' w.heap.size a2 L2 c2 R.2.1 ∧ Parts2 a' a2 ∧ Below w.heap.size w w' := by
  have hzl := hg.1
  have hyl := hf.1
  have err : ∀ c : Int, grownR s en zs k f fs ys = .inl c → (Calls Tryd.prog 14 #[.agg #[.int .i64 s, .bool en, .slice a n cap], .agg #[.int .i64 k, .int .i64 f, .int .i64 fs, .slice (some ⟨bb, bo, none⟩) m capb]] w fun e w' => ∃ a' c' a2 c2, e = .returned (.tuple #[.agg #[.int .i64 s, .bool en, .slice a' n c'], .slice a2 0 c2, .int .i64 c]) ∧ Owns w' w.heap.size a' n c' zs ∧ Owns w' w.heap.size a2 0 c2 [] ∧ Parts2 a' a2 ∧ Below w.heap.size w w') → Calls Tryd.prog 14 #[.agg #[.int .i64 s, .bool en, .slice a n cap], .agg #[.int .i64 k, .int .i64 f, .int .i64 fs, .slice (some ⟨bb, bo, none⟩) m capb]] w fun e w' => ∃ a' c' a2 c2, e = .returned (.tuple #[.agg #[.int .i64 R.1.1, .bool R.1.2.1, .slice a' L1 c'], .slice a2 L2 c2, .int .i64 R.2.2]) ∧ Owns w' w.heap.size a' L1 c' R.1.2.2 ∧ Owns w' w.heap.size a2 L2 c2 R.2.1 ∧ Parts2 a' a2 ∧ Below w.heap.size w w' := by
    intro c hc h
    have e : feedR s en zs k f fs ys = ((s, en, zs), [], c) := by rw [feedR, hc]
    rw [e] at hR
    subst hR
    dsimp only at h1 h2 ⊢
    rw [hzl] at h1
    subst h1 h2
    exact h
  have good : ∀ (s' : Int) (en' : Bool) (ws : List Int), grownR s en zs k f fs ys = .inr (s', en', ws) → (¬ ((k = 1 ∨ k = 9) ∧ (bits .and .i64 f 4 != 0) = true)) → (Calls Tryd.prog 14 #[.agg #[.int .i64 s, .bool en, .slice a n cap], .agg #[.int .i64 k, .int .i64 f, .int .i64 fs, .slice (some ⟨bb, bo, none⟩) m capb]] w fun e w' => ∃ a' c' a2 c2, e = .returned (.tuple #[.agg #[.int .i64 s', .bool en', .slice a' ws.length c'], .slice a2 0 c2, .int .i64 0]) ∧ Owns w' w.heap.size a' ws.length c' ws ∧ Owns w' w.heap.size a2 0 c2 [] ∧ Parts2 a' a2 ∧ Below w.heap.size w w') → Calls Tryd.prog 14 #[.agg #[.int .i64 s, .bool en, .slice a n cap], .agg #[.int .i64 k, .int .i64 f, .int .i64 fs, .slice (some ⟨bb, bo, none⟩) m capb]] w fun e w' => ∃ a' c' a2 c2, e = .returned (.tuple #[.agg #[.int .i64 R.1.1, .bool R.1.2.1, .slice a' L1 c'], .slice a2 L2 c2, .int .i64 R.2.2]) ∧ Owns w' w.heap.size a' L1 c' R.1.2.2 ∧ Owns w' w.heap.size a2 L2 c2 R.2.1 ∧ Parts2 a' a2 ∧ Below w.heap.size w w' := by
    intro s' en' ws hc hd h
    have e : feedR s en zs k f fs ys = ((s', en', ws), [], 0) := by rw [feedR, hc]; exact if_neg hd
    rw [e] at hR
    subst hR
    dsimp only at h1 h2 ⊢
    subst h1 h2
    exact h
  have done : ∀ (s' : Int) (en' : Bool) (ws : List Int), grownR s en zs k f fs ys = .inr (s', en', ws) → ((k = 1 ∨ k = 9) ∧ (bits .and .i64 f 4 != 0) = true) → (Calls Tryd.prog 14 #[.agg #[.int .i64 s, .bool en, .slice a n cap], .agg #[.int .i64 k, .int .i64 f, .int .i64 fs, .slice (some ⟨bb, bo, none⟩) m capb]] w fun e w' => ∃ c2 a2, e = .returned (.tuple #[.agg #[.int .i64 0, .bool false, .slice none 0 0], .slice a2 ws.length c2, .int .i64 1]) ∧ Owns w' w.heap.size a2 ws.length c2 ws ∧ Below w.heap.size w w') → Calls Tryd.prog 14 #[.agg #[.int .i64 s, .bool en, .slice a n cap], .agg #[.int .i64 k, .int .i64 f, .int .i64 fs, .slice (some ⟨bb, bo, none⟩) m capb]] w fun e w' => ∃ a' c' a2 c2, e = .returned (.tuple #[.agg #[.int .i64 R.1.1, .bool R.1.2.1, .slice a' L1 c'], .slice a2 L2 c2, .int .i64 R.2.2]) ∧ Owns w' w.heap.size a' L1 c' R.1.2.2 ∧ Owns w' w.heap.size a2 L2 c2 R.2.1 ∧ Parts2 a' a2 ∧ Below w.heap.size w w' := by
    intro s' en' ws hc hd h
    have e : feedR s en zs k f fs ys = ((0, false, []), ws, 1) := by rw [feedR, hc]; exact if_pos hd
    rw [e] at hR
    subst hR
    dsimp only at h1 h2 ⊢
    subst h1 h2
    refine h.mono ?_
    rintro e w' ⟨c2, a2, he2, ho2, hb2⟩
    exact ⟨none, 0, a2, c2, he2, ⟨World.ownsRow_nil _ _ _ _, by simp⟩, ho2, (fun q hq => nomatch hq), hb2⟩
  cases ho : ordB s en n k f fs m with
  | false =>
    exact err 2 (by rw [grownR, hzl, hyl, if_neg (by rw [ho]; decide)]) (feedS_order s en a n cap zs k f fs bb bo m capb ys w hg hf hcap hl hm ho)
  | true =>
    have eo : grownR s en zs k f fs ys = if k = 1 then (match unpadR (bits .and .i64 f 8 != 0) ((k == 1) && (bits .and .i64 f 32 != 0)) ys with | none => .inl 3 | some b => .inr (fs, bits .and .i64 f 1 != 0, b)) else if k = 9 then (if 3000 < zs.length + ys.length then .inl 4 else .inr (s, en, zs ++ ys)) else .inr (s, en, zs) := by
      rw [grownR, hzl, hyl, if_pos ho]
      rfl
    by_cases hk : k = 1
    · rw [if_pos hk] at eo
      cases hr : unpadR (bits .and .i64 f 8 != 0) ((k == 1) && (bits .and .i64 f 32 != 0)) ys with
      | none =>
        rw [hr] at eo
        exact err 3 eo (feedS_pad s en a n cap zs k f fs bb bo m capb ys w hg hf hcap hl hm ho hk hr)
      | some u =>
        rw [hr] at eo
        cases h4 : (bits .and .i64 f 4 != 0) with
        | true => exact done _ _ _ eo ⟨.inl hk, h4⟩ (feedS_headDone s en a n cap zs k f fs bb bo m capb ys w hg hf hcap hl hm u u.length ho hk hr rfl _ rfl h4)
        | false => exact good _ _ _ eo (fun h => by rw [h4] at h; exact absurd h.2 (by decide)) (feedS_head s en a n cap zs k f fs bb bo m capb ys w hg hf hcap hl hm u u.length ho hk hr rfl _ rfl h4)
    · rw [if_neg hk] at eo
      by_cases hk9 : k = 9
      · rw [if_pos hk9] at eo
        by_cases hbig : 3000 < n + m
        · rw [hzl, hyl, if_pos hbig] at eo
          exact err 4 eo (feedS_big s en a n cap zs k f fs bb bo m capb ys w hg hf hcap hl hm ho hk9 hbig)
        · rw [hzl, hyl, if_neg hbig] at eo
          have hL : n + m = (zs ++ ys).length := by rw [List.length_append]; omega
          cases h4 : (bits .and .i64 f 4 != 0) with
          | true => exact done _ _ _ eo ⟨.inr hk9, h4⟩ (feedS_moreDone s en a n cap zs k f fs bb bo m capb ys w hg hf hcap hl hm _ ho hk9 hbig hL h4)
          | false => exact good _ _ _ eo (fun h => by rw [h4] at h; exact absurd h.2 (by decide)) (feedS_more s en a n cap zs k f fs bb bo m capb ys w hg hf hcap hl hm _ ho hk9 hbig hL h4)
      · rw [if_neg hk9] at eo
        refine good _ _ _ eo (fun h => by rcases h.1 with h | h <;> contradiction) ?_
        rw [hzl]
        exact feedS_other s en a n cap zs k f fs bb bo m capb ys w hg hf hcap hl hm ho hk hk9

end Go.Proofs.YtckpacifimpkgadDoor
