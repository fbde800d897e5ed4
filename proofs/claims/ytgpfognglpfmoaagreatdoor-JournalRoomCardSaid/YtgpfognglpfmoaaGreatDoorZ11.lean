/- Texts of this claim, one behind the other: Rv, Rw, Rr, Pk, Bq, Gi. -/
import Derived.Test.YtgpfognglpfmoaaGreatDoorZ10
import Derived.IntWalk
import Derived.Lib.SlBytesConst
import Derived.Laws.OwnMore
import Derived.RangeFuncNested
import Derived.RangeFuncBound
import Derived.RangeFuncCalls
import Derived.RangeFuncLeaves
import Derived.Shelf.Abstract
import Derived.Shelf.RegionOpen
import Derived.WalkKit
import Derived.OwnWalkIn
import Derived.TacticsInMore
import Derived.LoopNIn
import Derived.LoopIn
set_option linter.unusedSimpArgs false
set_option linter.unusedVariables false
section
/- record: Read of a record that is good. -/
namespace Go.Proofs.YtgpfognglpfmoaaGreatDoor
set_option maxRecDepth 8192
set_option linter.unusedSimpArgs false
set_option linter.unusedVariables false
open Go.RowKit

theorem all_rec (k : Int) (A : Option Addr) (n c : Nat) : ([.int .u8 k, .slice A n c] : List Value).toArray.all (·.oneCell') = true := by simp [Value.oneCell']
/-- Block g and the next may change. -/
def two (g k : Nat) : Prop := k = g ∨ k = g + 1

set_option maxHeartbeats 1600000 in
theorem Read_ok {A : Option Addr} {n c : Nat} {C l : List UInt8} (w : World) (hC : C.length = 32) (hr : Rd w w.heap.size A n c l) (hn : n ≤ 1073741824) (h : (parse l).err = 0) (ht : (parse l).told = (nextR C (parse l).kind (parse l).data).take 8) :
    Calls Tryz.prog 126 #[.agg (cs8 C).toArray, .slice A n c] w (ReadOk w (nextR C (parse l).kind (parse l).data) (parse l).kind (parse l).data (l.length - (parse l).rest.length)) := by
  have HR := Lib.hid hr
  have hln := hr.len
  have HP := Lib.hid (fun (W : World) (g : Nat) (k : Rdr W g l 0) => parts_ok W k (by omega) h)
  have hpb := parse_back l h
  have hd8 := hpb.2.1.2
  have HL := Lib.hid (Laid3.mk0 w C)
  have hrl : (parse l).rest.length ≤ l.length := by
    have := congrArg List.length hpb.1
    simp only [List.length_append] at this
    omega
  generalize parse l = p at HP ht hd8 hrl ⊢
  obtain ⟨k, d, s, t, err⟩ := p
  simp only at HP ht hd8 hrl ⊢
  have hsub : IntKind.i64.wrap ((n : Int) - (t.length : Int)) = ((l.length - t.length : Nat) : Int) := by rw [hln] at hrl; rw [IntWalk.i64_in _ (by omega)]; omega
  have HSUB := Lib.hid hsub
  have HN := Lib.hid (fun (W : World) (B : Option Addr) (m q : Nat) (hh : Rd W W.heap.size B m q d) => Next_any k W hC hh (by have := hh.len; omega))
  have HC8 := Lib.hid (show (cs8 C).length = 32 by rw [cs8_length, hC])
  have HS8 := Lib.hid (show (cs8 (nextR C k d)).length = 32 by rw [cs8_length, nextR_length])
  have HSL := Lib.hid (nextR_length C k d)
  have HT := Lib.hid ht
  generalize nextR C k d = S at HN HS8 HSL HT ⊢
  clear hr h hln ht hpb hC hrl hsub
  go_enter Tryz.func126, Tryz.ntmps126
  go_wp2_with (refine wpList_alloc_z rfl 59 rfl z36 zero36 ?_)
  generalize (((w.alloc (.cells (cs8 C).toArray 59)).alloc (.cells #[.int .u8 0, .slice none 0 0] 33)).alloc (.cells z36.toArray 59)) = w1 at HL ⊢
  refine (Read_any w1 (HR.out.top HL.out.bel) (by omega)).mono ?_; rintro e w2 ⟨g, rfl, hg, hRd, hb⟩
  have HL2 := Lib.hid (HL.out.keep hb)
  have hlt := HL.out.lt
  clear hb HL
  go_wp2_with fail
  refine (HP.out _ _ hRd).mono ?_; rintro e w3 ⟨A3, n3, c3, v3, rfl, hD3, hT3, hR3, hO3⟩
  have HL3 := Lib.hid (HL2.out.only hO3 (by omega))
  have hlt3 := HL3.out.lt
  obtain ⟨A4, c4, rfl, hr4⟩ := hT3.rdN rfl
  obtain ⟨A5, c5, e5, hr5⟩ := hD3.rdN rfl
  injection e5 with e51 e52 e53
  subst e51 e52 e53
  have HL4 := Lib.hid (HL3.out.keep (bl_alloc (bl0 w3) (.cells #[.int .u8 (k.toNat : Int), .slice A3 d.length c3] 33)))
  have HB4 := Lib.hid (Bk.new w3 [.int .u8 (k.toNat : Int), .slice A3 d.length c3] 33)
  have HT4 := Lib.hid (hr4.top (bl_alloc (bl0 w3) (.cells #[.int .u8 (k.toNat : Int), .slice A3 d.length c3] 33)))
  have HD4 := Lib.hid (hr5.top (bl_alloc (bl0 w3) (.cells #[.int .u8 (k.toNat : Int), .slice A3 d.length c3] 33)))
  have HR4 := Lib.hid (hR3.below (bl_alloc (bl0 w3) (.cells #[.int .u8 (k.toNat : Int), .slice A3 d.length c3] 33)))
  have HO4 := Lib.hid (Ow.alloc hD3 (.cells #[.int .u8 (k.toNat : Int), .slice A3 d.length c3] 33))
  have hz2 := hO3.size
  have hg3 := hR3.lt
  have hw2 := HL2.out.lt
  clear hO3 HL2 hRd HL3 hD3 hT3 hr4 hr5 hR3
  go_wp2_with (first | (refine wpList_load_at rfl 59 _ rfl ⟨w.heap.size, 0, none⟩ rfl (cs8 C) _ HL4.out.c.at_ Tryz.underlying59 rfl (by rw [HC8.out]; exact info36) ?_))
  generalize hw4 : w3.alloc (.cells #[.int .u8 (k.toNat : Int), .slice A3 d.length c3] 33) = w4 at HL4 HB4 HT4 HD4 HR4 HO4 ⊢
  generalize w3.heap.size = b9 at hlt3 HB4 hz2 hg3 ⊢
  clear hw4
  refine (HN.out _ _ _ _ HD4.out).mono ?_; rintro e w5 ⟨rfl, hb⟩
  have HL5 := Lib.hid (HL4.out.keep hb)
  have HB5 := Lib.hid (HB4.out.keep hb)
  have HT5 := Lib.hid (HT4.out.top hb)
  have HR5 := Lib.hid (HR4.out.below hb)
  have HO5 := Lib.hid (HO4.out.below hb)
  clear hb HL4 HB4 HT4 HD4 HR4 HO4
  have hN6 := Lib.hid (Bk.new w5 z36 59)
  have hL6 := Lib.hid (hN6.out.setRow (cs8 S))
  have hbb : Below w5.heap.size w5 ((w5.alloc (.cells z36.toArray 59)).setRow w5.heap.size (cs8 S).toArray) := bl_setRow (bl_alloc (bl0 w5) _) (Nat.le_refl _) _
  have HL6 := Lib.hid (HL5.out.keep hbb)
  have HT6 := Lib.hid (HT5.out.top hbb)
  have hb56 := HB5.out.lt
  have hsl := run_slice_hi (g := w5.heap.size) Tryz.underlying59 (show 8 ≤ 32 by decide) (by decide)
  have HR6 := Lib.hid (HR5.out.below hbb)
  have HO6 := Lib.hid (HO5.out.below hbb)
  have HB6 := Lib.hid (HB5.out.keep hbb)
  clear hbb HL5 HT5 HB5 HR5 HO5
  go_wp2_with (first | (refine wpList_alloc_z rfl 59 rfl z36 zero36 ?_) | (refine wpList_store_bk rfl 59 _ _ rfl w5.heap.size rfl (cs8 S) z36 rfl hN6.out (by rw [HS8.out]; exact info36) (by rw [HS8.out]; exact len_z36) (cs8_all _) ?_))
  generalize (w5.alloc (.cells z36.toArray 59)).setRow w5.heap.size (cs8 S).toArray = w6 at hL6 HL6 HT6 HR6 HO6 HB6 ⊢
  generalize w5.heap.size = b12 at hb56 hL6 hsl ⊢
  refine (Equal_yes w6 HT6.out ((hL6.out.sl HSL.out).rd.take_ (k := 8) (by decide)) HT.out).mono ?_; rintro e w' ⟨rfl, rfl⟩
  clear hsl HT6
  go_wp2
  have hw1 := HL6.out.lt
  have hR := Kp.stays (two (w.heap.size + 1))
  refine reg_start (Kp (two (w.heap.size + 1))) follows_mixed ?_
  have HL7 := Lib.hid (HL6.out.keep (Below.refl _ w6).drew)
  have hL7 := Lib.hid hL6.out.drew
  have HB7 := Lib.hid HB6.out.drew
  have HR7 := Lib.hid (HR6.out.below (Below.refl _ w6).drew)
  have HO7 : Hid (Ow w6.drew w2.heap.size (.slice A3 d.length c3) d) := Lib.hid (HO6.out.below (Below.refl _ w6).drew)
  clear HL6 hL6 HB6 HR6 HO6
  generalize w6.drew = w7 at HL7 hL7 HB7 HR7 HO7 ⊢
  generalize w2.heap.size = b2 at hw2 hz2 HO7 ⊢
  refine reg_take (v := .agg #[.int .u8 (k.toNat : Int), .slice A3 d.length c3]) hR 0 rfl (by kernel_rfl) (by kernel_rfl) (by kernel_rfl) (fun _ _ _ h => h) (by rfl) ?_ ?_
  · intro W hW; exact exec_load_at 33 _ rfl ⟨b9, 0, none⟩ rfl [.int .u8 (k.toNat : Int), .slice A3 d.length c3] _ (HB7.out.kp hW (by unfold two; omega)).at_ Tryz.underlying33 rfl info31
  try simp only [Act.put, List.getElem_toArray, List.getElem_cons_succ, List.getElem_cons_zero, List.setIfInBounds_toArray, List.set_cons_zero, List.set_cons_succ]
  refine reg_take (v := .slice A n c) hR 1 rfl (by kernel_rfl) (by kernel_rfl) (by kernel_rfl) (fun _ _ _ h => h) (by rfl) ?_ ?_
  · intro W hW; go_simp; try with_reducible rfl
  try simp only [Act.put, List.getElem_toArray, List.getElem_cons_succ, List.getElem_cons_zero, List.setIfInBounds_toArray, List.set_cons_zero, List.set_cons_succ]
  refine reg_take (v := .int .i64 (n : Int)) hR 2 rfl (by kernel_rfl) (by kernel_rfl) (by kernel_rfl) (fun _ _ _ h => h) (by rfl) ?_ ?_
  · intro W hW; go_simp; try with_reducible rfl
  try simp only [Act.put, List.getElem_toArray, List.getElem_cons_succ, List.getElem_cons_zero, List.setIfInBounds_toArray, List.set_cons_zero, List.set_cons_succ]
  refine reg_take (v := .pointer (some ⟨g, 0, none⟩)) hR 3 rfl (by kernel_rfl) (by kernel_rfl) (by kernel_rfl) (fun _ _ _ h => h) (by rfl) ?_ ?_
  · intro W hW; go_simp; try with_reducible rfl
  try simp only [Act.put, List.getElem_toArray, List.getElem_cons_succ, List.getElem_cons_zero, List.setIfInBounds_toArray, List.set_cons_zero, List.set_cons_succ]
  refine reg_take (v := .agg (cs8 S).toArray) hR 6 rfl (by kernel_rfl) (by kernel_rfl) (by kernel_rfl) (fun _ _ _ h => h) (by rfl) ?_ ?_
  · intro W hW; exact exec_load_at 59 _ rfl ⟨b12, 0, none⟩ rfl (cs8 S) _ (hL7.out.kp hW (by unfold two; omega)).at_ Tryz.underlying59 rfl (by rw [HS8.out]; exact info36)
  try simp only [Act.put, List.getElem_toArray, List.getElem_cons_succ, List.getElem_cons_zero, List.setIfInBounds_toArray, List.set_cons_zero, List.set_cons_succ]
  refine reg_step hR 4 (by kernel_rfl) rfl fun K hK => ?_
  try simp only [Act.put, List.getElem_toArray, List.getElem_cons_succ, List.getElem_cons_zero, List.setIfInBounds_toArray, List.set_cons_zero, List.set_cons_succ]
  go_simp
  refine (RLeft_any HR7.out (by decide)).mono ?_; rintro e w' ⟨rfl, rfl⟩
  refine hK.out _ _ (hR.refl _) ?_
  clear hK K
  try simp only [Act.put, List.getElem_toArray, List.getElem_cons_succ, List.getElem_cons_zero, List.setIfInBounds_toArray, List.set_cons_zero, List.set_cons_succ]
  refine reg_take (v := .int .i64 ((l.length - t.length : Nat) : Int)) hR 5 rfl (by kernel_rfl) (by kernel_rfl) (by kernel_rfl) (fun _ _ _ h => h) (by rfl) ?_ ?_
  · intro W hW
    have := HSUB.out
    go_simp
    try rw [this]
  try simp only [Act.put, List.getElem_toArray, List.getElem_cons_succ, List.getElem_cons_zero, List.setIfInBounds_toArray, List.set_cons_zero, List.set_cons_succ]
  refine reg_step hR 7 (by kernel_rfl) rfl fun K hK => ?_
  try simp only [Act.put, List.getElem_toArray, List.getElem_cons_succ, List.getElem_cons_zero, List.setIfInBounds_toArray, List.set_cons_zero, List.set_cons_succ]
  rw [if_pos (by rfl)]
  refine wp_store_bk 33 _ _ rfl (w.heap.size + 1) rfl [.int .u8 (k.toNat : Int), .slice A3 d.length c3] z31 rfl HL7.out.r info31 rfl (all_rec _ _ _ _) ?_
  refine hK.out _ _ (kp_setRow _ _ _ (by unfold two; omega)) ?_
  have HP8 := Lib.hid (HL7.out.r.setRow [.int .u8 (k.toNat : Int), .slice A3 d.length c3])
  have HZ8 := Lib.hid (HL7.out.d.other (show w.heap.size + 1 + 1 ≠ w.heap.size + 1 by omega) [Value.int .u8 (k.toNat : Int), .slice A3 d.length c3].toArray)
  have HO8 := Lib.hid (HO7.out.setRow (k := w.heap.size + 1) (fun e => by have := (World.ownsRow.lt HO7.out _ e).1; omega) [Value.int .u8 (k.toNat : Int), .slice A3 d.length c3].toArray)
  have HB8 := Lib.hid (bl_setRow HL7.out.bel (show w.heap.size ≤ w.heap.size + 1 by omega) [Value.int .u8 (k.toNat : Int), .slice A3 d.length c3].toArray)
  clear hK K
  try simp only [Act.put, List.getElem_toArray, List.getElem_cons_succ, List.getElem_cons_zero, List.setIfInBounds_toArray, List.set_cons_zero, List.set_cons_succ]
  refine reg_take (v := .int .i64 ((l.length - t.length : Nat) : Int)) hR 8 rfl (by kernel_rfl) (by kernel_rfl) (by kernel_rfl) (fun _ _ _ h => h) (by rfl) ?_ ?_
  · intro W hW; go_simp; try with_reducible rfl
  try simp only [Act.put, List.getElem_toArray, List.getElem_cons_succ, List.getElem_cons_zero, List.setIfInBounds_toArray, List.set_cons_zero, List.set_cons_succ]
  refine reg_step hR 9 (by kernel_rfl) rfl fun K hK => ?_
  try simp only [Act.put, List.getElem_toArray, List.getElem_cons_succ, List.getElem_cons_zero, List.setIfInBounds_toArray, List.set_cons_zero, List.set_cons_succ]
  rw [if_pos (by rfl)]
  refine wp_store_bk 59 _ _ rfl (w.heap.size + 1 + 1) rfl (cs8 S) z36 rfl HZ8.out (by rw [HS8.out]; exact info36) (by rw [HS8.out]; exact len_z36) (cs8_all _) ?_
  refine hK.out _ _ (kp_setRow _ _ _ (by unfold two; omega)) ?_
  clear hK K
  try simp only [Act.put, List.getElem_toArray, List.getElem_cons_succ, List.getElem_cons_zero, List.setIfInBounds_toArray, List.set_cons_zero, List.set_cons_succ]
  refine reg_take (v := .int .i64 0) hR 10 rfl (by kernel_rfl) (by kernel_rfl) (by kernel_rfl) (fun _ _ _ h => h) (by rfl) ?_ ?_
  · intro W hW; go_simp; try with_reducible rfl
  try simp only [Act.put, List.getElem_toArray, List.getElem_cons_succ, List.getElem_cons_zero, List.setIfInBounds_toArray, List.set_cons_zero, List.set_cons_succ]
  refine reg_done (by kernel_rfl) ?_ _
  have HP9 := Lib.hid (HP8.out.other (show w.heap.size + 1 ≠ w.heap.size + 1 + 1 by omega) (cs8 S).toArray)
  have HZ9 := Lib.hid (HZ8.out.setRow (cs8 S))
  have HO9 := Lib.hid (HO8.out.setRow (k := w.heap.size + 1 + 1) (fun e => by have := (World.ownsRow.lt HO8.out _ e).1; omega) (cs8 S).toArray)
  have HB9 := Lib.hid (bl_setRow HB8.out (show w.heap.size ≤ w.heap.size + 1 + 1 by omega) (cs8 S).toArray)
  go_wp2
  refine ret_ctct rfl rfl rfl (load_bk HP9.out Tryz.underlying33 rfl info31) rfl (load_bk HZ9.out Tryz.underlying59 rfl (by rw [HS8.out]; exact info36)) ⟨A3, _, c3, rfl, HO9.out.lower (by omega), HB9.out⟩
end Go.Proofs.YtgpfognglpfmoaaGreatDoor
end
section
/- record: Read in the words of records; First, lives. -/
namespace Go.Proofs.YtgpfognglpfmoaaGreatDoor
set_option maxRecDepth 8192
set_option linter.unusedSimpArgs false
set_option linter.unusedVariables false
open Go.RowKit

theorem Read_good {A : Option Addr} {n c : Nat} {C l : List UInt8} (w : World) (hC : C.length = 32) (hr : Rd w w.heap.size A n c l) (hn : n ≤ 1073741824) (k : UInt8) (d t : List UInt8) (hv : Vr k d) (he : l = recB C k d ++ t) :
    Calls Tryz.prog 126 #[.agg (cs8 C).toArray, .slice A n c] w (ReadOk w (nextR C k d) k d (recB C k d).length) := by
  have hp := (read_put C k d t hv).1
  rw [← he] at hp
  have := Read_ok w hC hr hn (by rw [hp]) (by rw [hp])
  rw [hp] at this
  simp only at this
  rwa [show l.length - t.length = (recB C k d).length from by rw [he, List.length_append]; omega] at this
theorem Read_fail {A : Option Addr} {n c : Nat} {C l : List UInt8} (w : World) (hC : C.length = 32) (hr : Rd w w.heap.size A n c l) (hn : n ≤ 1073741824) (h : readErr C l ≠ 0) :
    Calls Tryz.prog 126 #[.agg (cs8 C).toArray, .slice A n c] w (ReadBad w (readErr C l)) := by
  unfold readErr at h ⊢
  by_cases he : (parse l).err = 0
  · rw [if_neg (by simp [he])] at h ⊢
    by_cases ht : (parse l).told = (nextR C (parse l).kind (parse l).data).take 8
    · rw [if_pos ht] at h; exact absurd rfl h
    · rw [if_neg ht]
      exact Read_bad2 w hC hr hn he ht
  · rw [if_pos he]
    exact Read_bad1 w hr hn he

theorem numB_lit : numSize 3 = 1 := by decide
set_option maxHeartbeats 800000 in
theorem First_any (n : Int) (w : World) (h0 : 0 ≤ n) (h1 : n ≤ 18446744073709551615) :
    Calls Tryz.prog 60 #[.int .u64 n] w fun e w' => e = .returned (.agg (cs8 (sumS (OwordB n.toNat 8))).toArray) ∧ Below w.heap.size w w' := by
  have HS := Lib.hid (show (cs8 (sumS (OwordB n.toNat 8))).length = 32 by rw [cs8_length, sumS_length'])
  have HU := Lib.hid (show [OwordB n.toNat 8].flatten = OwordB n.toNat 8 by simp)
  obtain ⟨S, hS⟩ : ∃ S, Hid (sumS (OwordB n.toNat 8) = S) := ⟨_, Lib.hid rfl⟩
  rw [hS.out] at HS ⊢
  have HZ := Lib.hid (Bk.new w z36 59)
  have HB := Lib.hid (bl_alloc (bl0 w) (.cells z36.toArray 59))
  go_enter Tryz.func60, Tryz.ntmps60
  go_wp2_with (refine wpList_alloc_z rfl 59 rfl z36 zero36 ?_)
  generalize w.alloc (.cells z36.toArray 59) = w1 at HZ HB ⊢
  refine (OWord_any (A := none) (k := 0) (c := 0) (l := []) n 8 w1 (Rd.nil _ _ _ _) (by omega) h0 h1).mono ?_; rintro e w2 ⟨v2, rfl, ho2, hb2⟩
  rw [show (min (max (8 : Int) 1) 8).toNat = 8 from rfl, List.nil_append] at ho2
  obtain ⟨A2, c2, rfl, hl2⟩ := ho2.sl (n := 8) (by simp [OwordB])
  have HB2 := Lib.hid (bl_call HB.out hb2)
  have HZ2 := Lib.hid (HZ.out.keep hb2)
  have HL2 := Lib.hid hl2
  have hz0 := HZ.out.lt
  have hz2 := HZ2.out.lt
  clear ho2 hb2 HB HZ hl2
  have HR3 := Lib.hid (Rl.of [OwordB n.toNat 8] [.slice A2 8 c2] rfl (fun j x hx => by
    rcases j with _ | j
    · simp only [List.getElem?_cons_zero, Option.some.injEq] at hx; subst hx; exact ⟨_, _, _, rfl, HL2.out⟩
    · simp at hx) 31)
  have HB3 := Lib.hid (bl_alloc HB2.out (.cells #[.slice A2 8 c2] 31))
  have HZ3 := Lib.hid (HZ2.out.old (.cells #[.slice A2 8 c2] 31))
  go_wp2_with fail
  refine (Sum_any _ HR3.out (by simp) (by simp [OwordB])).mono ?_; rintro e w4 ⟨rfl, hb4⟩
  have HB4 := Lib.hid (bl_call HB3.out hb4)
  have HZ4 := Lib.hid (HZ3.out.keep hb4)
  clear hb4 HB3 HZ3 HR3
  rw [HU.out, hS.out]
  go_wp2_with (first | (refine wpList_store_bk rfl 59 _ _ rfl w.heap.size rfl (cs8 S) z36 rfl HZ4.out (by rw [HS.out]; exact info36) (by rw [HS.out]; exact len_z36) (cs8_all _) ?_))
  exact ret_bk rfl w.heap.size _ _ rfl rfl (HZ4.out.setRow (cs8 S)) Tryz.underlying59 rfl (by rw [HS.out]; exact info36) ⟨rfl, bl_setRow HB4.out (Nat.le_refl _) _⟩
end Go.Proofs.YtgpfognglpfmoaaGreatDoor
end
section
/- Records that came in. -/
namespace Go.Proofs.YtgpfognglpfmoaaGreatDoor
set_option linter.unusedSimpArgs false
set_option linter.unusedVariables false
open Go.RowKit

/-- A record as a value: its Kind, its Data, where they lie. -/
structure Rv where
  k : UInt8
  d : List UInt8
  A : Option Addr
  c : Nat
/-- Its cells. -/
def Rv.cells (x : Rv) : List Value := [.int .u8 (x.k.toNat : Int), .slice x.A x.d.length x.c]
/-- Its Data read, below block top. -/
def Rv.ok (w : World) (top : Nat) (x : Rv) : Prop := Rd w top x.A x.d.length x.c x.d
/-- The record alone. -/
def Rv.r (x : Rv) : UInt8 × List UInt8 := (x.k, x.d)
/-- The slice (A, n, c) reads, in w, as the records l, and lies below block top. -/
def Rs (w : World) (top : Nat) (A : Option Addr) (n c : Nat) (l : List Rv) : Prop :=
  l.length = n ∧ n ≤ c ∧ (∀ x ∈ l, x.ok w top) ∧ (0 < n → ∃ ad, A = some ad ∧ ad.block < top ∧ ∀ (j : Nat) x, l[j]? = some x → ∀ (i : Nat) v, x.cells[i]? = some v → w.cell? (ad.add (j * 2 + i)) = some v)
section
variable {w w' : World} {top n c : Nat} {A : Option Addr} {l : List Rv}
theorem Rv.ok.below {x : Rv} (h : x.ok w top) (hb : Below top w w') : x.ok w' top := Rd.below h hb
theorem Rv.ok.more {x : Rv} {top' : Nat} (h : x.ok w top) (ht : top ≤ top') : x.ok w top' := Rd.more h ht
theorem Rs.nil (w : World) (top c : Nat) (A : Option Addr) : Rs w top A 0 c [] := ⟨rfl, Nat.zero_le _, by simp, fun h => absurd h (by omega)⟩
theorem Rs.below (h : Rs w top A n c l) (hb : Below top w w') : Rs w' top A n c l :=
  ⟨h.1, h.2.1, fun x hx => (h.2.2.1 x hx).below hb, fun hn => by
    obtain ⟨ad, e, ht, hc⟩ := h.2.2.2 hn
    exact ⟨ad, e, ht, fun j x hx i v hv => (hb.cell (by rw [add_block]; exact ht)).trans (hc j x hx i v hv)⟩⟩
theorem Rs.more {top' : Nat} (h : Rs w top A n c l) (ht : top ≤ top') : Rs w top' A n c l :=
  ⟨h.1, h.2.1, fun x hx => (h.2.2.1 x hx).more ht, fun hn => by
    obtain ⟨ad, e, hb, hc⟩ := h.2.2.2 hn
    exact ⟨ad, e, by omega, hc⟩⟩
theorem Rs.lift (h : Rs w w.heap.size A n c l) (hb : Below w.heap.size w w') : Rs w' w'.heap.size A n c l := (h.below hb).more hb.size
theorem Rs.at_ (h : Rs w top A n c l) {k : Nat} (hk : k < n) : ∃ ad x, A = some ad ∧ l[k]? = some x ∧ x ∈ l ∧ x.ok w top ∧ w.cell? (ad.add (k * 2)) = some (.int .u8 (x.k.toNat : Int)) ∧ w.cell? ⟨(ad.add (k * 2)).block, (ad.add (k * 2)).off + 1, none⟩ = some (.slice x.A x.d.length x.c) := by
  obtain ⟨ad, e, ht, hc⟩ := h.2.2.2 (by omega)
  have hl : k < l.length := by have := h.1; omega
  exact ⟨ad, l[k], e, List.getElem?_eq_getElem hl, List.getElem_mem hl, h.2.2.1 _ (List.getElem_mem hl), hc k _ (List.getElem?_eq_getElem hl) 0 _ rfl,
    by have := hc k _ (List.getElem?_eq_getElem hl) 1 _ rfl; rw [← add_add] at this; exact this⟩
end
end Go.Proofs.YtgpfognglpfmoaaGreatDoor
end
section
/- The kit's Pick. -/
namespace Go.Proofs.YtgpfognglpfmoaaGreatDoor
open Go.RowKit

theorem tmod_cases (n : Int) (m : Nat) (h : 1 ≤ m) : ∃ r : Nat, n % (m : Int) = r ∧ r < m ∧ ((n.tmod m < 0 ∧ n.tmod m = (r : Int) - m) ∨ (0 ≤ n.tmod m ∧ n.tmod m = r)) := by
  have h0 := Int.emod_nonneg n (show (m : Int) ≠ 0 by omega)
  have h1 := Int.emod_lt_of_pos n (show (0 : Int) < m by omega)
  refine ⟨(n % (m : Int)).toNat, by omega, by omega, ?_⟩
  have ht := Int.tmod_eq_emod (a := n) (b := m)
  rw [Int.toNat_of_nonneg h0]
  by_cases hc : 0 ≤ n ∨ (m : Int) ∣ n
  · rw [if_pos hc] at ht
    exact Or.inr ⟨by omega, by omega⟩
  · rw [if_neg hc] at ht
    simp only [Int.natAbs_natCast] at ht
    exact Or.inl ⟨by omega, by omega⟩

set_option maxHeartbeats 800000 in
theorem Pick_any (n : Int) (m : Nat) (h1 : 1 ≤ m) (h2 : m ≤ 1000000) (w : World) : Calls Tryz.prog 19 #[.int .i64 n, .int .i64 (m : Int)] w fun x w' => (∃ r : Nat, r < m ∧ x = .returned (.int .i64 (r : Int))) ∧ w = w' := by
  obtain ⟨r, -, hlt, hs⟩ := tmod_cases n m h1
  have hm0 : (m : Int) ≠ 0 := by omega
  rcases hs with ⟨hs, hq⟩ | ⟨hs, hq⟩
  · go_enter Tryz.func19, Tryz.ntmps19
    go_wp2
    go_ret
    exact ⟨⟨r, hlt, by first | rfl | (congr 3; omega)⟩, rfl⟩
  · go_enter Tryz.func19, Tryz.ntmps19
    go_wp2
    go_ret
    exact ⟨⟨r, hlt, by first | rfl | (congr 3; omega)⟩, rfl⟩
end Go.Proofs.YtgpfognglpfmoaaGreatDoor
end
section
/- RecordBound: the walk of a record that may be. -/
namespace Go.Proofs.YtgpfognglpfmoaaGreatDoor
set_option maxRecDepth 100000
set_option linter.unusedSimpArgs false
set_option linter.unusedVariables false
open Go.RowKit

theorem exec_conv_str {o : Oper} {a : Act} {w : World} (x : Operand) (ho : o.op = .convert 31 9 x) {top n c : Nat} {A : Option Addr} {l : List UInt8} (hx : a.eval x = .slice A n c) (h : Rd w top A n c l) :
    (execOp a.eval o).run Tryz.prog w = .ok (.value (.string (str l))) w := by
  unfold execOp
  simp only [ho, hx, run_str h, Sem.run_bind, Result.andThen_ok, Sem.run_pure]
theorem exec_eq_str {o : Oper} {a : Act} {w : World} (x y : Operand) (ho : o.op = .binOp .eql 9 x y 9) {l l2 : List UInt8} (hx : a.eval x = .string (str l)) (hy : a.eval y = .string (str l2)) {b : Bool} (hb : (l == l2) = b) :
    (execOp a.eval o).run Tryz.prog w = .ok (.value (.bool b)) w := by
  unfold execOp
  simp only [ho, hx, hy]
  go_simp
/-- A record's variable and a chain's, laid and filled. -/
theorem bk_lay (w : World) (R : List Value) : Bk ((w.alloc (.cells R.toArray 33)).alloc (.cells z36.toArray 59)) (w.heap.size + 1) z36 := by
  have := Bk.new (w.alloc (.cells R.toArray 33)) z36 59
  rwa [show (w.alloc (.cells R.toArray 33)).heap.size = w.heap.size + 1 from by simp] at this
structure Lay2 (w w' : World) (R S : List Value) : Prop where
  bel : Below w.heap.size w w'
  r : Bk w' w.heap.size R
  s : Bk w' (w.heap.size + 1) S
theorem lay2 (w : World) (R S : List Value) : Lay2 w (((w.alloc (.cells R.toArray 33)).alloc (.cells z36.toArray 59)).setRow (w.heap.size + 1) S.toArray) R S :=
  ⟨bl_setRow (bl_alloc (bl_alloc (bl0 w) _) _) (by omega) _, ((Bk.new w R 33).old _).other (by omega) _, (bk_lay w R).setRow S⟩
/-- A chain's variable, laid and filled. -/
theorem lay1 (w : World) (S : List Value) : Below w.heap.size w ((w.alloc (.cells z36.toArray 59)).setRow w.heap.size S.toArray) ∧ Bk ((w.alloc (.cells z36.toArray 59)).setRow w.heap.size S.toArray) w.heap.size S :=
  ⟨bl_setRow (bl_alloc (bl0 w) _) (Nat.le_refl _) _, (Bk.new w z36 59).setRow S⟩

end Go.Proofs.YtgpfognglpfmoaaGreatDoor
end
section
/- Steps of the fenced walk on rows in memory. -/
namespace Go.Proofs.YtgpfognglpfmoaaGreatDoor
set_option maxRecDepth 8192
set_option linter.unusedSimpArgs false
set_option linter.unusedVariables false
open Go.RowKit Go.Shelf

section
variable {F : Fence} {n : Nat} {ops : Array Oper} {rest : List Oper} {o : Oper} {a : Act} {w w' : World} {Q : Exit → Act → World → Prop}
theorem inl_val (hg : Region.wanted o (yielded ops a.tmps) = true) (ha : o.about Tryz.prog w a.eval = none) (hd : ∀ c, o.op ≠ .defer c) {v : Value} (he : (execOp a.eval o).run Tryz.prog w = .ok (.value v) w')
    (h : wpListIn F n Tryz.prog ops Q rest (a.put o.dst v) w') : wpListIn F n Tryz.prog ops Q (o :: rest) a w :=
  wpListIn_step fun K hK => by
    rw [if_pos hg]
    unfold Oper.wpIn
    refine ⟨(by rw [ha]; intro f hf; cases hf), ?_⟩
    rw [Oper.semAt_plain F _ _ hd, he]
    exact hK _ _ h
theorem inl_skip (hg : Region.wanted o (yielded ops a.tmps) = true) (ha : o.about Tryz.prog w a.eval = none) (hd : ∀ c, o.op ≠ .defer c) (he : (execOp a.eval o).run Tryz.prog w = .ok .skip w')
    (h : wpListIn F n Tryz.prog ops Q rest (a.put o.dst undef) w') : wpListIn F n Tryz.prog ops Q (o :: rest) a w :=
  wpListIn_step fun K hK => by
    rw [if_pos hg]
    unfold Oper.wpIn
    refine ⟨(by rw [ha]; intro f hf; cases hf), ?_⟩
    rw [Oper.semAt_plain F _ _ hd, he]
    exact hK _ _ h
theorem inl_alloc_z (hg : Region.wanted o (yielded ops a.tmps) = true) (T : TypeId) (ho : o.op = .alloc T) (z : List Value) (hz : ∀ w, (zeroValue T).run Tryz.prog w = .ok (.agg z.toArray) w)
    (h : wpListIn F n Tryz.prog ops Q rest (a.put o.dst (.pointer (some ⟨w.heap.size, 0, none⟩))) (w.alloc (.cells z.toArray T))) : wpListIn F n Tryz.prog ops Q (o :: rest) a w :=
  inl_val hg (by simp [Oper.about, ho]) (by rw [ho]; intro c hc; cases hc) (by
    unfold execOp
    simp only [ho, Sem.run_bind, hz, Result.andThen_ok, Sem.run_pure, go_sem]) h
theorem inl_load_at (hg : Region.wanted o (yielded ops a.tmps) = true) (ty : TypeId) (x : Operand) (ho : o.op = .load ty x)
    (ad : Addr) (hx : a.eval x = .pointer (some ad)) (cs : List Value) (d : TypeDesc) (hc : ∀ j v, cs[j]? = some v → w.cell? (ad.add j) = some v)
    (hu : Tryz.prog.underlying ty = some d) (hd : d.isRow = true) (hi : (Tryz.prog.info? ty).map (·.size) = some cs.length)
    (h : wpListIn F n Tryz.prog ops Q rest (a.put o.dst (.agg cs.toArray)) w) : wpListIn F n Tryz.prog ops Q (o :: rest) a w :=
  inl_val hg (by simp [Oper.about, ho]) (by rw [ho]; intro c hc; cases hc) (exec_load_at ty x ho ad hx cs d hc hu hd hi) h
theorem exec_store_bk (ty : TypeId) (x y : Operand) (ho : o.op = .store ty x y)
    (g : Nat) (hx : a.eval x = .pointer (some ⟨g, 0, none⟩)) (cs old : List Value) (hy : a.eval y = .agg cs.toArray) (hg : Bk w g old) (hi : (Tryz.prog.info? ty).map (·.size) = some cs.length)
    (hold : old.length = cs.length) (h1 : cs.toArray.all (·.oneCell') = true) : (execOp a.eval o).run Tryz.prog w = .ok .skip (w.setRow g cs.toArray) := by
  obtain ⟨t, hg⟩ := hg
  unfold execOp
  simp only [ho, hx, hy, Instr.storeAt, Instr.sureAddr, Sem.run_bind, Sem.run_pure, Result.andThen_ok, run_storeVar_row w g t ty old.toArray cs.toArray hg (by simpa using hi) (by simpa using hold) h1]
theorem inl_store_bk (hg0 : Region.wanted o (yielded ops a.tmps) = true) (ty : TypeId) (x y : Operand) (ho : o.op = .store ty x y)
    (g : Nat) (hx : a.eval x = .pointer (some ⟨g, 0, none⟩)) (cs old : List Value) (hy : a.eval y = .agg cs.toArray) (hg : Bk w g old) (hi : (Tryz.prog.info? ty).map (·.size) = some cs.length)
    (hold : old.length = cs.length) (h1 : cs.toArray.all (·.oneCell') = true) (h : wpListIn F n Tryz.prog ops Q rest (a.put o.dst undef) (w.setRow g cs.toArray)) : wpListIn F n Tryz.prog ops Q (o :: rest) a w :=
  inl_skip hg0 (by simp [Oper.about, ho]) (by rw [ho]; intro c hc; cases hc) (exec_store_bk ty x y ho g hx cs old hy hg hi hold h1) h
end
end Go.Proofs.YtgpfognglpfmoaaGreatDoor
end
