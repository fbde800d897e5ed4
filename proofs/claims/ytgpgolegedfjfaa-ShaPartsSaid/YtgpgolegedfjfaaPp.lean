/- What is padded, of few bytes. -/
import Derived.Test.YtgpgolegedfjfaaPd
namespace Go.Proofs.Ytgpgolegedfjfaa

set_option maxRecDepth 100000 in
theorem word_few : ∀ n : Fin 2001, wordB 8 (UInt64.ofNat (n.val * 8 % 18446744073709551616)) = [0, 0, 0, 0, 0, 0, UInt8.ofNat (n.val * 8 / 256), UInt8.ofNat (n.val * 8 % 256)] := by decide +kernel
theorem word_nil : wordB 8 (UInt64.ofNat 0) = List.replicate 8 0 := by decide +kernel
theorem pad_few (n : Nat) (h : n ≤ 2000) : padB n = 128 :: (List.replicate ((239 - n % 128) % 128 + 14) 0 ++ [UInt8.ofNat (n * 8 / 256), UInt8.ofNat (n * 8 % 256)]) := by
  have h1 := word_few ⟨n, by omega⟩
  simp only at h1
  rw [padB, h1, Nat.div_eq_of_lt (show n * 8 < 18446744073709551616 by omega), word_nil]
  rw [show (239 - n % 128) % 128 + 14 = ((239 - n % 128) % 128 + 8) + 6 from rfl, ← List.replicate_append_replicate, ← List.replicate_append_replicate]
  generalize List.replicate ((239 - n % 128) % 128) (0 : UInt8) = R
  simp [List.replicate_succ]

/-- The law's number behind t of the last four bytes. -/
def nt (n : Nat) : Nat → Nat
  | 0 => 0
  | 1 => 0
  | 2 => 0
  | 3 => n * 8 / 256
  | _ => n * 8

section
variable {l : List UInt8} {n : Nat}
theorem padded_length (h : l.length = n) : (l ++ padB n).length = n + 17 + (239 - n % 128) % 128 := by
  rw [List.length_append, h, padB_length]
  omega
theorem padded_first (h : l.length = n) (hn : n ≤ 2000) : (l ++ padB n)[n]? = some 128 := by
  rw [pad_few n hn, List.getElem?_append_right (by omega), h, Nat.sub_self]
  rfl
theorem padded_zero (h : l.length = n) (hn : n ≤ 2000) (i : Nat) (h1 : n < i) (h2 : i + 2 < (l ++ padB n).length) : (l ++ padB n)[i]? = some 0 := by
  rw [padded_length h] at h2
  rw [pad_few n hn, List.getElem?_append_right (by omega), h, show i - n = (i - n - 1) + 1 from by omega, List.getElem?_cons_succ, List.getElem?_append_left (by simp; omega), List.getElem?_replicate, if_pos (by omega)]
theorem padded_last (h : l.length = n) (hn : n ≤ 2000) (t : Nat) (ht : t < 4) : ∃ b : UInt8, (l ++ padB n)[(l ++ padB n).length - 4 + t]? = some b ∧ nt n t * 256 + b.toNat = nt n (t + 1) := by
  have hL := padded_length h
  have hlt : ∀ k : Nat, k < 256 → (UInt8.ofNat k).toNat = k := fun k hk => by simp; omega
  by_cases h2 : t < 2
  · refine ⟨0, padded_zero h hn _ (by omega) (by omega), ?_⟩
    obtain rfl | rfl : t = 0 ∨ t = 1 := by omega
    · simp [nt]
    · simp [nt]
  · rw [hL, pad_few n hn, List.getElem?_append_right (by omega), h]
    obtain rfl | rfl : t = 2 ∨ t = 3 := by omega
    · refine ⟨UInt8.ofNat (n * 8 / 256), ?_, by rw [hlt _ (by omega)]; simp only [nt]; omega⟩
      rw [show n + 17 + (239 - n % 128) % 128 - 4 + 2 - n = ((239 - n % 128) % 128 + 14) + 1 from by omega, List.getElem?_cons_succ, List.getElem?_append_right (by simp)]
      simp
    · refine ⟨UInt8.ofNat (n * 8 % 256), ?_, by rw [hlt _ (by omega)]; simp only [nt]; omega⟩
      rw [show n + 17 + (239 - n % 128) % 128 - 4 + 3 - n = ((239 - n % 128) % 128 + 15) + 1 from by omega, List.getElem?_cons_succ, List.getElem?_append_right (by simp)]
      simp
end

/-- Unlike bytes are padded unlike. -/
theorem padded_inj {a b : List UInt8} (ha : a.length ≤ 2000) (hb : b.length ≤ 2000) : a ++ padB a.length = b ++ padB b.length ↔ a = b := by
  constructor
  · intro h
    have hl := congrArg List.length h
    obtain ⟨x, hx, ex⟩ := padded_last (l := a) rfl ha 3 (by omega)
    obtain ⟨y, hy, ey⟩ := padded_last (l := b) rfl hb 3 (by omega)
    obtain ⟨x2, hx2, ex2⟩ := padded_last (l := a) rfl ha 2 (by omega)
    obtain ⟨y2, hy2, ey2⟩ := padded_last (l := b) rfl hb 2 (by omega)
    rw [h] at hx hx2
    rw [hx] at hy
    rw [hx2] at hy2
    injection hy with hy
    injection hy2 with hy2
    subst hy hy2
    simp only [nt] at ex ey ex2 ey2
    have hlen : a.length = b.length := by omega
    rw [hlen] at h
    exact List.append_cancel_right h
  · intro h
    rw [h]
end Go.Proofs.Ytgpgolegedfjfaa
