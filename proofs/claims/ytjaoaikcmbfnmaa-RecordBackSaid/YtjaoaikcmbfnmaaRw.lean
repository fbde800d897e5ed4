/- record: Read in the words of records; First, lives. -/
import Derived.Test.YtjaoaikcmbfnmaaRv
import Derived.Lib.SlBytesConst
namespace Go.Proofs.Ytjaoaikcmbfnmaa
set_option maxRecDepth 8192
set_option linter.unusedSimpArgs false
set_option linter.unusedVariables false
open Go.RowKit

theorem Read_good {A : Option Addr} {n c : Nat} {C l : List UInt8} (w : World) (hC : C.length = 32) (hr : Rd w w.heap.size A n c l) (hn : n ≤ 1073741824) (k : UInt8) (d t : List UInt8) (hv : Vr k d) (he : l = recB C k d ++ t) :
    Calls Try.prog 9 #[.agg (cs8 C).toArray, .slice A n c] w (ReadOk w (nextR C k d) k d (recB C k d).length) := by
  have hp := (read_put C k d t hv).1
  rw [← he] at hp
  have := Read_ok w hC hr hn (by rw [hp]) (by rw [hp])
  rw [hp] at this
  simp only at this
  rwa [show l.length - t.length = (recB C k d).length from by rw [he, List.length_append]; omega] at this
theorem Read_fail {A : Option Addr} {n c : Nat} {C l : List UInt8} (w : World) (hC : C.length = 32) (hr : Rd w w.heap.size A n c l) (hn : n ≤ 1073741824) (h : readErr C l ≠ 0) :
    Calls Try.prog 9 #[.agg (cs8 C).toArray, .slice A n c] w (ReadBad w (readErr C l)) := by
  unfold readErr at h ⊢
  by_cases he : (parse l).err = 0
  · rw [if_neg (by simp [he])] at h ⊢
    by_cases ht : (parse l).told = (nextR C (parse l).kind (parse l).data).take 8
    · rw [if_pos ht] at h; exact absurd rfl h
    · rw [if_neg ht]
      exact Read_bad2 w hC hr hn he ht
  · rw [if_pos he]
    exact Read_bad1 w hr hn he

def C0 : List UInt8 := List.replicate 32 0
theorem read_zero : readErr C0 [0] = 4 := by rfl
theorem read_none (C : List UInt8) : readErr C [] = 5 := by rfl
theorem Read_zero (w : World) (g : Nat) (hg : g = w.heap.size) : Calls Try.prog 9 #[.agg z36.toArray, .slice (some ⟨g, 0, none⟩) 1 1] (w.alloc (.cells #[.int .u8 0] 5)) (ReadBad (w.alloc (.cells #[.int .u8 0] 5)) 4) := by
  have := Read_fail (w.alloc (.cells #[.int .u8 0] 5)) (C := C0) (by decide) (Rd.one w 0 g hg) (by omega) (by rw [read_zero]; decide)
  rw [read_zero] at this
  exact this
theorem Read_none (w : World) : Calls Try.prog 9 #[.agg z36.toArray, .slice none 0 0] w (ReadBad w 5) := by
  have := Read_fail w (C := C0) (l := []) (by decide) (Rd.nil w w.heap.size 0 none) (by omega) (by rw [read_none]; decide)
  rw [read_none] at this
  exact this

theorem Size_abc {A : Option Addr} {c : Nat} (w : World) : Calls Try.prog 14 #[.agg #[.int .u8 1, .slice A 3 c]] w fun e w' => e = .returned (.int .i64 13) ∧ Below w.heap.size w w' := by
  have := Size_good (A := A) (n := 3) (c := c) (k := 1) w (by decide) (by omega)
  rw [show 1 + (numSize 3 + 3) + 8 = 13 from by decide] at this
  exact this

set_option maxHeartbeats 1600000 in
theorem lives_any (w : World) : Calls Try.prog 11 #[] w fun e w' => e = .returned (.bool true) ∧ Below w.heap.size w w' := by
  have hcv := fun W : World => Lib.run_convert_bytes_const W 26 5 #[.int .u8 97, .int .u8 98, .int .u8 99] 3 3 Try.underlying26 Try.underlying5
  simp only [List.size_toArray, List.length_cons, List.length_nil, Nat.zero_add, Nat.reduceAdd] at hcv
  go_enter Try.func11, Try.ntmps11
  go_wp2_with fail
  refine (Read_zero w _ rfl).mono ?_; rintro e w1 ⟨rfl, hb1⟩
  have HB1 := Lib.hid (bl_call (bl_alloc (bl0 w) _) hb1)
  clear hb1
  have HZ2 : Hid (Bk ((w1.alloc (.cells #[.int .u8 0, .slice none 0 0] 31)).alloc (.cells z36.toArray 23)) (w1.heap.size + 1) z36) := Lib.hid (by
    have := Bk.new (w1.alloc (.cells #[.int .u8 0, .slice none 0 0] 31)) z36 23
    simpa using this)
  have HB2 := Lib.hid (bl_setRow (bl_alloc (bl_alloc HB1.out (.cells #[.int .u8 0, .slice none 0 0] 31)) (.cells z36.toArray 23)) (show w.heap.size ≤ w1.heap.size + 1 by have := HB1.out.size; omega) z36.toArray)
  go_wp2_with (first | (refine wpList_alloc_z rfl 23 rfl z36 zero36 ?_) | (refine wpList_store_bk rfl 23 _ _ rfl (w1.heap.size + 1) rfl z36 z36 rfl HZ2.out (by kernel_rfl) rfl all_z36 ?_))
  generalize ((w1.alloc (.cells #[.int .u8 0, .slice none 0 0] 31)).alloc (.cells z36.toArray 23)).setRow (w1.heap.size + 1) z36.toArray = w2 at HB2 ⊢
  clear HB1 HZ2
  refine (Read_none w2).mono ?_; rintro e w3 ⟨rfl, hb3⟩
  have HB3 := Lib.hid (bl_call HB2.out hb3)
  clear hb3 HB2
  have HZ4 : Hid (Bk ((w3.alloc (.cells #[.int .u8 0, .slice none 0 0] 31)).alloc (.cells z36.toArray 23)) (w3.heap.size + 1) z36) := Lib.hid (by
    have := Bk.new (w3.alloc (.cells #[.int .u8 0, .slice none 0 0] 31)) z36 23
    simpa using this)
  have HB4 := Lib.hid (bl_setRow (bl_alloc (bl_alloc HB3.out (.cells #[.int .u8 0, .slice none 0 0] 31)) (.cells z36.toArray 23)) (show w.heap.size ≤ w3.heap.size + 1 by have := HB3.out.size; omega) z36.toArray)
  have hcv4 := hcv (((w3.alloc (.cells #[.int .u8 0, .slice none 0 0] 31)).alloc (.cells z36.toArray 23)).setRow (w3.heap.size + 1) z36.toArray)
  rw [show (((w3.alloc (.cells #[.int .u8 0, .slice none 0 0] 31)).alloc (.cells z36.toArray 23)).setRow (w3.heap.size + 1) z36.toArray).heap.size = w3.heap.size + 1 + 1 from by simp [World.setRow]] at hcv4
  clear hcv
  go_wp2_with (first | (refine wpList_alloc_z rfl 23 rfl z36 zero36 ?_) | (refine wpList_store_bk rfl 23 _ _ rfl (w3.heap.size + 1) rfl z36 z36 rfl HZ4.out (by kernel_rfl) rfl all_z36 ?_))
  refine (Size_abc _).mono ?_; rintro e w5 ⟨rfl, hb5⟩
  have HB5 := Lib.hid (bl_call (bl_alloc HB4.out _) hb5)
  clear hb5 HB4
  go_wp2
  go_ret
  exact ⟨rfl, HB5.out⟩

theorem numB_lit : numSize 3 = 1 := by decide
set_option maxHeartbeats 800000 in
theorem First_any (n : Int) (w : World) (h0 : 0 ≤ n) (h1 : n ≤ 18446744073709551615) :
    Calls Try.prog 7 #[.int .u64 n] w fun e w' => e = .returned (.agg (cs8 (sumS (OwordB n.toNat 8))).toArray) ∧ Below w.heap.size w w' := by
  have HS := Lib.hid (show (cs8 (sumS (OwordB n.toNat 8))).length = 32 by rw [cs8_length, sumS_length'])
  have HU := Lib.hid (show [OwordB n.toNat 8].flatten = OwordB n.toNat 8 by simp)
  obtain ⟨S, hS⟩ : ∃ S, Hid (sumS (OwordB n.toNat 8) = S) := ⟨_, Lib.hid rfl⟩
  rw [hS.out] at HS ⊢
  have HZ := Lib.hid (Bk.new w z36 23)
  have HB := Lib.hid (bl_alloc (bl0 w) (.cells z36.toArray 23))
  go_enter Try.func7, Try.ntmps7
  go_wp2_with (refine wpList_alloc_z rfl 23 rfl z36 zero36 ?_)
  generalize w.alloc (.cells z36.toArray 23) = w1 at HZ HB ⊢
  refine (OWord_any (A := none) (k := 0) (c := 0) (l := []) n 8 w1 (Rd.nil _ _ _ _) (by omega) h0 h1).mono ?_; rintro e w2 ⟨v2, rfl, ho2, hb2⟩
  rw [show (min (max (8 : Int) 1) 8).toNat = 8 from rfl, List.nil_append] at ho2
  obtain ⟨A2, c2, rfl, hl2⟩ := ho2.sl (n := 8) (by simp [OwordB])
  have HB2 := Lib.hid (bl_call HB.out hb2)
  have HZ2 := Lib.hid (HZ.out.keep hb2)
  have HL2 := Lib.hid hl2
  have hz0 := HZ.out.lt
  have hz2 := HZ2.out.lt
  clear ho2 hb2 HB HZ hl2
  have HR3 := Lib.hid (Rl.of [OwordB n.toNat 8] [.slice A2 8 c2] rfl (fun j x hx => by
    rcases j with _ | j
    · simp only [List.getElem?_cons_zero, Option.some.injEq] at hx; subst hx; exact ⟨_, _, _, rfl, HL2.out⟩
    · simp at hx) 26)
  have HB3 := Lib.hid (bl_alloc HB2.out (.cells #[.slice A2 8 c2] 26))
  have HZ3 := Lib.hid (HZ2.out.old (.cells #[.slice A2 8 c2] 26))
  go_wp2_with fail
  refine (Sum_any _ HR3.out (by simp) (by simp [OwordB])).mono ?_; rintro e w4 ⟨rfl, hb4⟩
  have HB4 := Lib.hid (bl_call HB3.out hb4)
  have HZ4 := Lib.hid (HZ3.out.keep hb4)
  clear hb4 HB3 HZ3 HR3
  rw [HU.out, hS.out]
  go_wp2_with (first | (refine wpList_store_bk rfl 23 _ _ rfl w.heap.size rfl (cs8 S) z36 rfl HZ4.out (by rw [HS.out]; exact info36) (by rw [HS.out]; exact len_z36) (cs8_all _) ?_))
  exact ret_bk rfl w.heap.size _ _ rfl rfl (HZ4.out.setRow (cs8 S)) Try.underlying23 rfl (by rw [HS.out]; exact info36) ⟨rfl, bl_setRow HB4.out (Nat.le_refl _) _⟩
end Go.Proofs.Ytjaoaikcmbfnmaa
