/- The mathematics of ShaParts: cuts, pieces one behind the other, the bytes of a sum; a region at a fork. -/
import Derived.Test.YtgpgolegedfjfaaPk
import Derived.Test.YtgpgolegedfjfaaLiv
namespace Go.Proofs.Ytgpgolegedfjfaa
open Go.RowKit

theorem cut2 (l : List UInt8) (i : Nat) : [l.take i, l.drop i].flatten = l := by simp
theorem cut3 (l : List UInt8) (i k : Nat) (h : i ≤ k) : [l.take i, (l.drop i).take (k - i), l.drop k].flatten = l := by
  have h2 : l.drop k = (l.drop i).drop (k - i) := by rw [List.drop_drop]; congr 1; omega
  simp only [List.flatten_cons, List.flatten_nil, List.append_nil]
  rw [h2, List.take_append_drop, List.take_append_drop]

theorem wordB_at (x : UInt64) : ∀ (t j : Nat), j < t → (wordB t x)[j]? = some (UInt8.ofNat (x.toNat / 2 ^ (56 - 8 * j) % 256))
  | 0, _, h => by omega
  | t + 1, j, h => by
    by_cases hj : j < t
    · rw [wordB, List.getElem?_append_left (by rw [wordB_length]; exact hj)]
      exact wordB_at x t j hj
    · obtain rfl : j = t := by omega
      rw [wordB, List.getElem?_append_right (by rw [wordB_length]; omega), wordB_length, Nat.sub_self]
      rfl
theorem signs_at : ∀ (st : List UInt64) (n : Nat) (x : UInt64), st[n / 8]? = some x → (signsOf st)[n]? = some (UInt8.ofNat (x.toNat / 2 ^ (56 - 8 * (n % 8)) % 256))
  | [], n, x, h => by simp at h
  | y :: st, n, x, h => by
    have hs : signsOf (y :: st) = wordB 8 y ++ signsOf st := rfl
    rw [hs]
    by_cases hn : n < 8
    · have h0 : n / 8 = 0 := by omega
      have hm : n % 8 = n := by omega
      rw [h0] at h
      obtain rfl : y = x := by simpa using h
      rw [hm, List.getElem?_append_left (by rw [wordB_length]; exact hn)]
      exact wordB_at y 8 n hn
    · have h1 : n / 8 = (n - 8) / 8 + 1 := by omega
      have hm : n % 8 = (n - 8) % 8 := by omega
      rw [h1, List.getElem?_cons_succ] at h
      rw [hm, List.getElem?_append_right (by rw [wordB_length]; omega), wordB_length]
      exact signs_at st (n - 8) x h

theorem eat_behind (K : List UInt64) : ∀ (t : Nat) (st : List UInt64) (l : List UInt8), eat K (t + 1) st l = mix K (eat K t st l) ((l.drop (128 * t)).take 128)
  | 0, st, l => by simp [eat]
  | t + 1, st, l => by
    have h := eat_behind K t (mix K st (l.take 128)) (l.drop 128)
    have e : l.drop (128 * (t + 1)) = (l.drop 128).drop (128 * t) := by rw [List.drop_drop]; congr 1; omega
    rw [e]
    exact h
/-- The pieces' words, at their length. -/
theorem eat_whole (K st : List UInt64) (l : List UInt8) : sumOf K st l = signsOf (eat K ((l ++ padB l.length).length / 128) st (l ++ padB l.length)) := rfl

section
variable {P : Program} {ops : Array Oper} {Q : Exit → Act → World → Prop} {R : World → World → Prop}
/-- Two are ready: both ways. -/
theorem reg_two (hR : Stays R) (i j : Nat) {o p : Oper} {fuel : Nat} {listed : Array Bool} {a : Act} {w : World} (hr : Region.ready .any ops listed = [i, j]) (ho : ops[i]? = some o) (hp : ops[j]? = some p)
    (h : ∀ K : Act → World → Prop, Shut (∀ a' w', R w w' → wpAnyH P .any ops Q (R w') fuel (listed.setIfInBounds i true) a' w' → K a' w') →
      if Region.wanted o (yielded ops a.tmps) = true then Oper.wp P o a w K Q else K (a.put o.dst undef) w)
    (k : ∀ K : Act → World → Prop, Shut (∀ a' w', R w w' → wpAnyH P .any ops Q (R w') fuel (listed.setIfInBounds j true) a' w' → K a' w') →
      if Region.wanted p (yielded ops a.tmps) = true then Oper.wp P p a w K Q else K (a.put p.dst undef) w) : wpAnyH P .any ops Q (R w) (fuel + 1) listed a w := by
  refine wpAnyH_all hr (by simp) fun x hx => ?_
  have hx2 : x = i ∨ x = j := by simpa using hx
  rcases hx2 with rfl | rfl
  · have h1 := h (fun a' w' => R w w' ∧ wpAnyH P .any ops Q (R w) fuel (listed.setIfInBounds x true) a' w') (fun a' w' hw hh => ⟨hw, held_weaken (fun W hW => hR.trans hw hW) _ _ _ _ hh⟩)
    unfold wpOp
    simp only [ho]
    split
    · rename_i hw; rw [if_pos hw] at h1; exact .inl h1
    · rename_i hw; rw [if_neg hw] at h1; exact h1
  · have h1 := k (fun a' w' => R w w' ∧ wpAnyH P .any ops Q (R w) fuel (listed.setIfInBounds x true) a' w') (fun a' w' hw hh => ⟨hw, held_weaken (fun W hW => hR.trans hw hW) _ _ _ _ hh⟩)
    unfold wpOp
    simp only [hp]
    split
    · rename_i hw; rw [if_pos hw] at h1; exact .inl h1
    · rename_i hw; rw [if_neg hw] at h1; exact h1
end
end Go.Proofs.Ytgpgolegedfjfaa
