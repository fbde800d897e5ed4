/- record: Check, Equal, Same, Size; the kit's Record. -/
import Derived.Test.YtjaoaikcmbfnmaaRn
namespace Go.Proofs.Ytjaoaikcmbfnmaa
set_option maxRecDepth 8192
set_option linter.unusedSimpArgs false
set_option linter.unusedVariables false
open Go.RowKit

theorem k_ne {k : UInt8} (h : k ≠ 0) : ((k.toNat : Int) == 0) = false := by
  rw [beq_eq_false_iff_ne]
  intro e
  apply h
  have : k.toNat = 0 := by omega
  exact UInt8.toNat_inj.1 this

set_option maxHeartbeats 400000 in
theorem Check_good {A : Option Addr} {n c : Nat} {k : UInt8} (w : World) (hk : k ≠ 0) (hn : n ≤ 8192) :
    Calls Try.prog 13 #[.agg #[.int .u8 (k.toNat : Int), .slice A n c]] w fun e w' => e = .returned (.int .i64 0) ∧ Below w.heap.size w w' := by
  have hk := k_ne hk
  go_enter Try.func13, Try.ntmps13
  go_wp2
  go_ret
  exact ⟨rfl, bl_alloc (bl0 w) _⟩
set_option maxHeartbeats 400000 in
theorem Check_bad {A : Option Addr} {n c : Nat} {k : UInt8} (w : World) (h : ¬ (k ≠ 0 ∧ n ≤ 8192)) :
    Calls Try.prog 13 #[.agg #[.int .u8 (k.toNat : Int), .slice A n c]] w fun e w' => e = .returned (.int .i64 2) ∧ Below w.heap.size w w' := by
  by_cases hk : k = 0
  · subst hk
    clear h
    rw [show ((0 : UInt8).toNat : Int) = 0 from rfl]
    go_enter Try.func13, Try.ntmps13
    go_wp2
    go_ret
    exact ⟨rfl, bl_alloc (bl0 w) _⟩
  · have hn : 8192 < n := by
      by_cases h2 : n ≤ 8192
      · exact absurd ⟨hk, h2⟩ h
      · omega
    have hk := k_ne hk
    clear h
    go_enter Try.func13, Try.ntmps13
    go_wp2
    go_ret
    exact ⟨rfl, bl_alloc (bl0 w) _⟩

set_option maxHeartbeats 400000 in
theorem Equal_yes {A A2 : Option Addr} {n c n2 c2 top top2 : Nat} {l l2 : List UInt8} (w : World) (h1 : Rd w top A n c l) (h2 : Rd w top2 A2 n2 c2 l2) (h : l = l2) :
    Calls Try.prog 26 #[.slice A n c, .slice A2 n2 c2] w fun e w' => e = .returned (.bool true) ∧ w = w' := by
  subst h
  have hs1 := run_str h1
  have hs2 := run_str h2
  go_enter Try.func26, Try.ntmps26
  go_wp2
  go_ret
  exact ⟨rfl, rfl⟩
set_option maxHeartbeats 400000 in
theorem Equal_no {A A2 : Option Addr} {n c n2 c2 top top2 : Nat} {l l2 : List UInt8} (w : World) (h1 : Rd w top A n c l) (h2 : Rd w top2 A2 n2 c2 l2) (h : l ≠ l2) :
    Calls Try.prog 26 #[.slice A n c, .slice A2 n2 c2] w fun e w' => e = .returned (.bool false) ∧ w = w' := by
  have hs1 := run_str h1
  have hs2 := run_str h2
  have hd : (l == l2) = false := by rw [beq_eq_false_iff_ne]; exact h
  go_enter Try.func26, Try.ntmps26
  go_wp2
  go_ret
  exact ⟨rfl, rfl⟩

theorem k_neq {k k2 : UInt8} (h : k ≠ k2) : ((k.toNat : Int) == (k2.toNat : Int)) = false := by
  rw [beq_eq_false_iff_ne]
  intro e
  exact h (UInt8.toNat_inj.1 (by omega))
set_option maxHeartbeats 400000 in
theorem Rec_yes {A A2 : Option Addr} {n c n2 c2 : Nat} {l l2 : List UInt8} {k k2 : UInt8} (w : World) (h1 : Rd w w.heap.size A n c l) (h2 : Rd w w.heap.size A2 n2 c2 l2) (h : k = k2 ∧ l = l2) :
    Calls Try.prog 12 #[.agg #[.int .u8 (k.toNat : Int), .slice A n c], .agg #[.int .u8 (k2.toNat : Int), .slice A2 n2 c2]] w fun e w' => e = .returned (.bool true) ∧ Below w.heap.size w w' := by
  obtain ⟨rfl, rfl⟩ := h
  have hb := Lib.hid (bl_alloc (bl_alloc (bl0 w) (.cells #[.int .u8 (k.toNat : Int), .slice A n c] 31)) (.cells #[.int .u8 (k.toNat : Int), .slice A2 n2 c2] 31))
  have hs1 := run_str (h1.top hb.out)
  have hs2 := run_str (h2.top hb.out)
  go_enter Try.func12, Try.ntmps12
  go_wp2
  go_ret
  exact ⟨rfl, hb.out⟩
set_option maxHeartbeats 400000 in
theorem Rec_no {A A2 : Option Addr} {n c n2 c2 : Nat} {l l2 : List UInt8} {k k2 : UInt8} (w : World) (h1 : Rd w w.heap.size A n c l) (h2 : Rd w w.heap.size A2 n2 c2 l2) (h : ¬ (k = k2 ∧ l = l2)) :
    Calls Try.prog 12 #[.agg #[.int .u8 (k.toNat : Int), .slice A n c], .agg #[.int .u8 (k2.toNat : Int), .slice A2 n2 c2]] w fun e w' => e = .returned (.bool false) ∧ Below w.heap.size w w' := by
  have hb := Lib.hid (bl_alloc (bl_alloc (bl0 w) (.cells #[.int .u8 (k.toNat : Int), .slice A n c] 31)) (.cells #[.int .u8 (k2.toNat : Int), .slice A2 n2 c2] 31))
  by_cases hk : k = k2
  · subst hk
    have hd : (l == l2) = false := by rw [beq_eq_false_iff_ne]; exact fun e => h ⟨rfl, e⟩
    have hs1 := run_str (h1.top hb.out)
    have hs2 := run_str (h2.top hb.out)
    go_enter Try.func12, Try.ntmps12
    go_wp2
    go_ret
    exact ⟨rfl, hb.out⟩
  · have hd := k_neq hk
    go_enter Try.func12, Try.ntmps12
    go_wp2
    go_ret
    exact ⟨rfl, hb.out⟩
set_option maxHeartbeats 400000 in
theorem Same_self {A : Option Addr} {n c : Nat} {l : List UInt8} {k : UInt8} (w : World) (h1 : Rd w w.heap.size A n c l) :
    Calls Try.prog 15 #[.agg #[.int .u8 (k.toNat : Int), .slice A n c], .agg #[.int .u8 (k.toNat : Int), .slice A n c]] w fun e w' => e = .returned (.bool true) ∧ Below w.heap.size w w' := by
  have hb := Lib.hid (bl_alloc (bl_alloc (bl0 w) (.cells #[.int .u8 (k.toNat : Int), .slice A n c] 31)) (.cells #[.int .u8 (k.toNat : Int), .slice A n c] 31))
  have hs1 := Lib.hid (h1.top hb.out)
  go_enter Try.func15, Try.ntmps15
  go_wp2_with fail
  refine (Equal_yes _ hs1.out hs1.out rfl).mono ?_; rintro e w1 ⟨rfl, rfl⟩
  go_wp2
  go_ret
  exact ⟨rfl, hb.out⟩

set_option maxHeartbeats 400000 in
theorem Size_good {A : Option Addr} {n c : Nat} {k : UInt8} (w : World) (hk : k ≠ 0) (hn : n ≤ 8192) :
    Calls Try.prog 14 #[.agg #[.int .u8 (k.toNat : Int), .slice A n c]] w fun e w' => e = .returned (.int .i64 ((1 + (numSize n + n) + 8 : Nat) : Int)) ∧ Below w.heap.size w w' := by
  have hs := numSize_bd n
  have hb1 := Lib.hid (bl_alloc (bl0 w) (.cells #[.int .u8 (k.toNat : Int), .slice A n c] 31))
  go_enter Try.func14, Try.ntmps14
  go_wp2_with fail
  refine (Check_good _ hk hn).mono ?_; rintro e w1 ⟨rfl, hb⟩
  have hc := Lib.hid ((Bk.new w [.int .u8 (k.toNat : Int), .slice A n c] 31).keep hb)
  have hb2 := Lib.hid (bl_call hb1.out hb)
  have hc0 := hc.out.cell (k := 0) rfl
  have hc1 := hc.out.cell (k := 1) rfl
  clear hb hb1
  go_wp2_with fail
  refine (Number_any (A := none) (k := 0) (c := 0) (l := []) n w1 (Rd.nil _ _ _ _) (by omega) (by omega) (by omega)).mono ?_; rintro e w2 ⟨v2, rfl, ho2, hb3⟩
  have hl : ([] ++ numB (n : Int).toNat).length = numSize n := by rw [List.nil_append, numB_length]; rfl
  obtain ⟨A2, c2, rfl, hr2⟩ := ho2.rdN hl
  have hc' := Lib.hid (hc.out.keep hb3)
  have hb4 := Lib.hid (bl_call hb2.out hb3)
  have hd0 := hc'.out.cell (k := 0) rfl
  have hd1 := hc'.out.cell (k := 1) rfl
  clear hb3 hc0 hc1 ho2 hr2 hl hb2
  go_wp2
  go_ret
  exact ⟨ret_int (by omega), hb4.out⟩
set_option maxHeartbeats 400000 in
theorem Size_bad {A : Option Addr} {n c : Nat} {k : UInt8} (w : World) (h : ¬ (k ≠ 0 ∧ n ≤ 8192)) :
    Calls Try.prog 14 #[.agg #[.int .u8 (k.toNat : Int), .slice A n c]] w fun e w' => e = .returned (.int .i64 0) ∧ Below w.heap.size w w' := by
  have hb1 := Lib.hid (bl_alloc (bl0 w) (.cells #[.int .u8 (k.toNat : Int), .slice A n c] 31))
  have H := Lib.hid h
  clear h
  go_enter Try.func14, Try.ntmps14
  go_wp2_with fail
  refine (Check_bad _ H.out).mono ?_; rintro e w1 ⟨rfl, hb⟩
  have hb2 := Lib.hid (bl_call hb1.out hb)
  clear hb hb1
  go_wp2
  go_ret
  exact ⟨rfl, hb2.out⟩
end Go.Proofs.Ytjaoaikcmbfnmaa
