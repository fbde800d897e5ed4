/- OctetOrder: numbers go as their bytes go. -/
import Derived.Test.YtilcgnghhfiflaaLiv
import Derived.Test.YtilcgnghhfiflaaNum
namespace Go.Proofs.Ytilcgnghhfiflaa
open Go.RowKit

/-- What the last line of the law asks of one number: it has the least size that has room. -/
theorem fits (n k : Nat) (hn : n < 2 ^ 64) (hk : k = numSize n) : 1 ≤ k ∧ k ≤ 9 ∧ (k = 9 ∨ n / 2 ^ (7 * k) = 0) ∧ (k = 1 ∨ n / 2 ^ (7 * (k - 1)) ≠ 0) := by
  subst hk
  have hb := numSize_bd n
  refine ⟨hb.1, hb.2, ?_, ?_⟩
  · rcases Nat.lt_or_ge (numSize n) 9 with h | h
    · exact Or.inr (Nat.div_eq_of_lt (numSize_lt n hn (by omega)))
    · exact Or.inl (by omega)
  · rcases Nat.lt_or_ge 1 (numSize n) with h | h
    · refine Or.inr ?_
      have := Nat.div_pos (numSize_ge n (by omega)) (Nat.two_pow_pos _)
      omega
    · exact Or.inl (by omega)

theorem ret_bool {a b : Bool} (h : a = b) : Ending.returned (.bool a) = .returned (.bool b) := by rw [h]

theorem div_cast (n k : Nat) : ((n : Int) / 2 ^ k) = ((n / 2 ^ k : Nat) : Int) := by simp

theorem closeA {N : Nat} (h : 1 ≤ numSize N ∧ numSize N ≤ 9 ∧ (numSize N = 9 ∨ N / 2 ^ (7 * numSize N) = 0) ∧ (numSize N = 1 ∨ N / 2 ^ (7 * (numSize N - 1)) ≠ 0)) (h9 : (numSize N : Int) = 9) :
    ((N : Int) / 72057594037927936 != 0) = true := by
  have h9' : numSize N = 9 := by omega
  have := h.2.2.2
  rw [h9'] at this
  rw [bne_iff_ne]
  simp only [Nat.reduceSub, Nat.reduceMul, Nat.reducePow] at this
  omega
theorem closeC {N : Nat} (h : 1 ≤ numSize N ∧ numSize N ≤ 9 ∧ (numSize N = 9 ∨ N / 2 ^ (7 * numSize N) = 0) ∧ (numSize N = 1 ∨ N / 2 ^ (7 * (numSize N - 1)) ≠ 0)) :
    ((numSize N : Int) == 1 || (N : Int) / 2 ^ (7 * (numSize N - 1)) != 0) = true := by
  rw [div_cast]
  rcases h.2.2.2 with h | h
  · rw [h]; rfl
  · have : (((N / 2 ^ (7 * (numSize N - 1)) : Nat) : Int) != 0) = true := by rw [bne_iff_ne]; omega
    rw [this, Bool.or_true]
theorem closeD {N : Nat} (h : 1 ≤ numSize N ∧ numSize N ≤ 9 ∧ (numSize N = 9 ∨ N / 2 ^ (7 * numSize N) = 0) ∧ (numSize N = 1 ∨ N / 2 ^ (7 * (numSize N - 1)) ≠ 0)) (h9 : ¬ (numSize N : Int) = 9)
    (hz : ¬ (N : Int) / 2 ^ (7 * numSize N) = 0) : False := by
  rw [div_cast] at hz
  have := h.2.2.1
  omega

set_option maxHeartbeats 1000000 in
theorem OctetOrder_core (N M : Nat) (b c : Bool) (w : World) (h1 : N < 18446744073709551616) (h3 : M < 18446744073709551616) (hless : Op.bytesLess (numB N) (numB M) = b) (hdec : decide ((N : Int) < (M : Int)) = b)
    (hne : (numB N == numB M) = c) (hcc : ((N : Int) == (M : Int)) = c) (hm : b = true → ¬ numSize M < numSize N) :
    Calls Try.prog 8 #[.int .u64 (N : Int), .int .u64 (M : Int)] w fun x w' => x = .returned (.bool true) ∧ Below w.heap.size w w' := by
  have HF := Lib.hid (fits N _ (by omega) rfl)
  have hb := numSize_bd N
  rcases b <;> rcases c
  all_goals
    simp only [Bool.false_eq_true, false_implies, true_implies] at hm
    go_enter Try.func8, Try.ntmps8
    go_wp2_with fail
    refine (lives_any _).mono ?_; rintro x w1 ⟨rfl, hb1⟩
    go_wp2_with fail
    refine (Number_any _ _ (Rd.nil _ _ _ _) (by omega) (by omega) (by omega)).mono ?_; rintro x w2 ⟨v2, rfl, ho2, hb2⟩
    rw [List.nil_append, Int.toNat_natCast] at ho2
    obtain ⟨A2, c2, rfl, hr2⟩ := ho2.rdN (numB_length _)
    go_wp2_with fail
    refine (Number_any _ _ (Rd.nil _ _ _ _) (by omega) (by omega) (by omega)).mono ?_; rintro x w3 ⟨v3, rfl, ho3, hb3⟩
    rw [List.nil_append, Int.toNat_natCast] at ho3
    obtain ⟨A3, c3, rfl, hr3⟩ := ho3.rdN (numB_length _)
    have hs2 := run_str (hr2.below hb3)
    have hs3 := run_str hr3
    go_wp2
    all_goals
      go_ret
      refine ⟨ret_bool ?_, bl_call (bl_call hb1 hb2) hb3⟩
      first | rfl | exact closeA HF.out (by assumption) | exact closeC HF.out | exact (closeD HF.out (by assumption) (by assumption)).elim | (exfalso; simp at hdec; omega)

theorem OctetOrder_walk (n m : Int) (w : World) (h0 : 0 ≤ n) (h1 : n ≤ 18446744073709551615) (h2 : 0 ≤ m) (h3 : m ≤ 18446744073709551615) :
    Calls Try.prog 8 #[.int .u64 n, .int .u64 m] w fun x w' => x = .returned (.bool true) ∧ Below w.heap.size w w' := by
  obtain ⟨N, rfl⟩ := Int.eq_ofNat_of_zero_le h0
  obtain ⟨M, rfl⟩ := Int.eq_ofNat_of_zero_le h2
  refine OctetOrder_core N M (decide (N < M)) ((N : Int) == (M : Int)) w (by omega) (by omega) (numB_less N M (by omega) (by omega)) (by congr 1; simp) ?_ rfl ?_
  · rw [Bool.eq_iff_iff, beq_iff_eq, beq_iff_eq]
    constructor
    · intro h
      have := numB_inj N M (by omega) (by omega) h
      omega
    · intro h
      rw [show N = M from by omega]
  · intro h
    have := numSize_mono N M (by omega) (by have := of_decide_eq_true h; omega)
    omega
end Go.Proofs.Ytilcgnghhfiflaa
