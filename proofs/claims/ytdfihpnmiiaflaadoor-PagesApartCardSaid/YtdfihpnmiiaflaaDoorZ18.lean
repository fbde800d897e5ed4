/- Texts of this claim, one behind the other: Qs, Qt, QRef. -/
import Derived.Test.YtdfihpnmiiaflaaDoorZ17
import Derived.Test.YtdfihpnmiiaflaaDoorZ07
import Derived.Lib.SlBytesConst
set_option linter.unusedSimpArgs false
set_option linter.unusedVariables false
section
/- The document's own SHA-512/256: all pieces, the start, the sum. -/
namespace Go.Proofs.YtdfihpnmiiaflaaDoor
set_option maxRecDepth 8192
set_option linter.unusedSimpArgs false
set_option linter.unusedVariables false
open Go.RowKit

/-- The words of all sums serve as K itself. -/
theorem KK_at (t : Nat) (ht : t < 80) : ALL.getD t 0 = KK.getD t 0 := by
  rw [ALL, List.getD_eq_getElem?_getD, List.getElem?_append_left (by rw [show KK.length = 80 by decide +kernel]; exact ht), List.getD_eq_getElem?_getD]
theorem rounds_KK (W : List UInt64) (s : S8) : ∀ t, t ≤ 80 → rounds ALL W t s = rounds KK W t s
  | 0, _ => rfl
  | t + 1, h => by rw [rounds, rounds, rounds_KK W s t (by omega), KK_at t (by omega)]
theorem mix_KK (st : List UInt64) (p : List UInt8) : mix ALL st p = mix KK st p := by rw [mix, mix, rounds_KK _ _ 80 (Nat.le_refl _)]
theorem eat_KK : ∀ (n : Nat) (st : List UInt64) (l : List UInt8), eat ALL n st l = eat KK n st l
  | 0, _, _ => rfl
  | n + 1, st, l => by rw [eat, eat, mix_KK, eat_KK n]
theorem eat_succ' (K : List UInt64) : ∀ (n : Nat) (st : List UInt64) (l : List UInt8), eat K (n + 1) st l = mix K (eat K n st l) ((l.drop (128 * n)).take 128)
  | 0, st, l => by simp [eat]
  | n + 1, st, l => by
    rw [eat, eat_succ' K n, eat, List.drop_drop, show 128 + 128 * n = 128 * (n + 1) by omega]
theorem pad_len (n : Nat) : (n + (padB n).length) % 128 = 0 := by rw [padB_length]; omega

theorem Kp_setRow (w : World) (g : Nat) (cs : Array Value) : Kp (· = g) w (w.setRow g cs) := ⟨rfl, rfl, rfl, by simp [World.setRow], fun k _ hk => setRow_other w g k cs (fun e => hk (by first | exact e | exact e.symm))⟩
theorem Ow.setRow_ {w : World} {base g : Nat} {v : Value} {l : List UInt8} (h : Ow w base v l) (hg : g < base) (cs : Array Value) : Ow (w.setRow g cs) base v l :=
  World.ownsRow.kept h (row := some g) ⟨rfl, rfl, rfl, by simp [World.setRow], fun k _ hk => setRow_other w g k cs (fun e => hk (by rw [e]))⟩ (.inr (fun e => by have := (World.ownsRow.lt h _ e).1; omega))
theorem Ow.drew {w : World} {base : Nat} {v : Value} {l : List UInt8} (h : Ow w base v l) : Ow w.drew base v l := h.below (Below.refl _ _).drew

set_option maxHeartbeats 1600000 in
theorem Qrun_any {A : Option Addr} {n c : Nat} {l : List UInt8} {st : List UInt64} (w : World) (hs : st.length = 8) (hr : Rd w w.heap.size A n c l) (hn : n ≤ 1073741824) :
    Calls Tryd.prog 52 #[.agg (cs64 st).toArray, .slice A n c] w fun e w' => e = .returned (.agg (cs64 (eat KK ((l ++ padB l.length).length / 128) st (l ++ padB l.length))).toArray) ∧ Below w.heap.size w w' := by
  have hl := hr.len
  have HSL := Lib.hid (show (cs64 st).length = 8 by rw [cs64_length, hs])
  have hb1 := bl_alloc (bl_alloc (bl0 w) (.cells (cs64 st).toArray 87)) (.cells z38.toArray 87)
  have HB1 := Lib.hid hb1
  have HS1 := Lib.hid ((Bk.new w (cs64 st) 87).old (.cells z38.toArray 87))
  have HZ1 : Hid (Bk ((w.alloc (.cells (cs64 st).toArray 87)).alloc (.cells z38.toArray 87)) (w.heap.size + 1) z38) := Lib.hid (by simpa using Bk.new (w.alloc (.cells (cs64 st).toArray 87)) z38 87)
  have HPD := Lib.hid (QPad_any _ ((hr.below hb1).more hb1.size) hn)
  rw [hl]
  have hpl := pad_len n
  rw [← hl] at hpl
  have hpl2 : (l ++ padB n).length % 128 = 0 := by rw [List.length_append]; rw [hl] at hpl; rw [hl]; exact hpl
  have hpb : (l ++ padB n).length ≤ 1073742080 := by rw [List.length_append, padB_length, hl]; omega
  generalize l ++ padB n = P at HPD hpl2 hpb ⊢
  have HPB := Lib.hid hpb
  clear hr hb1 hpl hl hpb
  go_enter Tryd.func52, Tryd.ntmps52
  go_wp2_with (refine wpList_alloc_z rfl 87 rfl z38 zero38 ?_)
  refine HPD.out.mono ?_
  rintro e w2 ⟨v2, rfl, ho2, hb2⟩
  have hs2 : w.heap.size + 2 ≤ w2.heap.size := by have := hb2.size; simp at this; omega
  have HS2 := Lib.hid (HS1.out.keep hb2)
  have HZ2 := Lib.hid (HZ1.out.keep hb2)
  have HB2 := Lib.hid (bl_call HB1.out hb2)
  have ho2' : Ow w2 (w.heap.size + 2) v2 P := ho2.lower (by simp)
  obtain ⟨n2, hn2⟩ : ∃ n2, P.length = n2 := ⟨_, rfl⟩
  obtain ⟨A2, c2, rfl, hr2⟩ := ho2'.rdN hn2
  have HO2 := Lib.hid ho2'
  have HN2 := Lib.hid hn2
  obtain ⟨m, hm⟩ : ∃ m, n2 = 128 * m := ⟨n2 / 128, by omega⟩
  have hm8 : (P.length / 128) = m := by omega
  have HM8 := Lib.hid hm8
  have hmb : (m : Int) ≤ 8388610 := by have := HPB.out; omega
  have hc2 : n2 ≤ c2 := hr2.cap
  clear hb2 ho2 ho2' hr2 hn2 hpl2 hm8 HS1 HZ1 HB1 HPD
  subst hm
  go_wp2
  go_loopw [6] (fun vi wr => ∃ k : Nat, k ≤ m ∧ vi = .int .i64 ((128 * k : Nat) : Int) ∧ Hid (Bk wr w.heap.size (cs64 (eat KK k st P))) ∧ Hid (Bk wr (w.heap.size + 1) z38) ∧ Hid (Ow wr (w.heap.size + 2) (.slice A2 (128 * m) c2) P) ∧ Hid (Below w.heap.size w wr)) (fun vi _ => 128 * m - (intOf vi).toNat)
  case atStart => exact ⟨0, by omega, rfl, HS2, HZ2, HO2, HB2⟩
  case round =>
    clear HS2 HZ2 HO2 HB2
    obtain ⟨k, hk, rfl, HS, HZ, HO, HB⟩ := hrel
    have hel := eat_length KK k st P hs
    by_cases hlt : k < m
    · obtain ⟨A3, c3, e3, hr3⟩ := HO.out.rdN HN2.out
      injection e3 with e3a e3b e3c
      subst e3a
      subst e3c
      have hrk := (hr3.drop_ (k := 128 * k) (by omega)).take_ (k := 128) (by omega)
      obtain ⟨ad, had, _⟩ := hrk.2.2 (by omega)
      have HNX := Lib.hid (eat_succ' KK k st P)
      have hpl3 : ((P.drop (128 * k)).take 128).length = 128 := hrk.len
      have HSLC := Lib.hid (fun (W : World) (a : Act) (o : Oper) (x y z : Operand) (ho : o.op = .slice 30 x (some y) (some z) none) (hx : a.eval x = .slice A2 (128 * m) c2) (hy : a.eval y = .int .i64 ((128 * k : Nat) : Int)) (hz : a.eval z = .int .i64 ((128 * (k + 1) : Nat) : Int)) =>
        show (execOp a.eval o).run Tryd.prog W = .ok (.value (.slice (some ad) 128 (c2 - 128 * k))) W by
          have h := exec_slice31_mid (o := o) (a := a) (w := W) x y z ho hx hy hz (k := 128 * k) (m := 128 * (k + 1)) (by omega) (by omega) rfl rfl
          rw [show 128 * (k + 1) - 128 * k = 128 by omega] at h
          rw [h, show restAt A2 c2 (128 * k) = some ad from had])
      have HRK := Lib.hid (show Rd wr.drew wr.drew.heap.size (some ad) 128 (c2 - 128 * k) ((P.drop (128 * k)).take 128) by rw [had] at hrk; exact hrk)
      have HPC := Lib.hid (fun (W : World) (h : Rd W W.heap.size (some ad) 128 (c2 - 128 * k) ((P.drop (128 * k)).take 128)) => Qpiece_any (eat KK k st P) hel W h)
      have HCL := Lib.hid (show (cs64 (eat KK k st P)).length = 8 by rw [cs64_length, hel])
      have hml := mix_length KK (eat KK k st P) ((P.drop (128 * k)).take 128) hel
      have HNL := Lib.hid (show (cs64 (mix KK (eat KK k st P) ((P.drop (128 * k)).take 128))).length = 8 by rw [cs64_length, hml])
      generalize mix KK (eat KK k st P) ((P.drop (128 * k)).take 128) = nxt at HNX HPC HNL
      generalize eat KK k st P = cur at HS HPC HCL
      clear hr3 hrk had hpl3 hml hel
      have hkI : (k : Int) < 8388610 := by omega
      go_wp2_with fail
      have hR := Kp.stays (· = w.heap.size)
      refine reg_start (Kp (· = w.heap.size)) follows_mixed ?_
      refine reg_take (v := .slice A2 (128 * m) c2) hR 1 rfl (by kernel_rfl) (by kernel_rfl) (by kernel_rfl) (fun _ _ _ h => h) (by rfl) ?_ ?_
      · intro W hW; go_simp; try with_reducible rfl
      try simp only [Act.put, List.getElem_toArray, List.getElem_cons_succ, List.getElem_cons_zero, List.setIfInBounds_toArray, List.set_cons_zero, List.set_cons_succ]
      refine reg_take (v := .int .i64 ((128 * k : Nat) : Int)) hR 2 rfl (by kernel_rfl) (by kernel_rfl) (by kernel_rfl) (fun _ _ _ h => h) (by rfl) ?_ ?_
      · intro W hW; go_simp; try with_reducible rfl
      try simp only [Act.put, List.getElem_toArray, List.getElem_cons_succ, List.getElem_cons_zero, List.setIfInBounds_toArray, List.set_cons_zero, List.set_cons_succ]
      refine reg_take (v := .int .i64 ((128 * k : Nat) : Int)) hR 3 rfl (by kernel_rfl) (by kernel_rfl) (by kernel_rfl) (fun _ _ _ h => h) (by rfl) ?_ ?_
      · intro W hW; go_simp; try with_reducible rfl
      try simp only [Act.put, List.getElem_toArray, List.getElem_cons_succ, List.getElem_cons_zero, List.setIfInBounds_toArray, List.set_cons_zero, List.set_cons_succ]
      refine reg_take (v := .int .i64 ((128 * (k + 1) : Nat) : Int)) hR 4 rfl (by kernel_rfl) (by kernel_rfl) (by kernel_rfl) (fun _ _ _ h => h) (by rfl) ?_ ?_
      · intro W hW; go_simp; rw [IntWalk.i64_in _ (by omega)]; omega
      try simp only [Act.put, List.getElem_toArray, List.getElem_cons_succ, List.getElem_cons_zero, List.setIfInBounds_toArray, List.set_cons_zero, List.set_cons_succ]
      refine reg_take (v := .slice (some ad) 128 (c2 - 128 * k)) hR 5 rfl (by kernel_rfl) (by kernel_rfl) (by kernel_rfl) (fun _ _ _ h => h) (by rfl) ?_ ?_
      · intro W hW; exact HSLC.out W _ _ _ _ _ rfl rfl rfl rfl
      try simp only [Act.put, List.getElem_toArray, List.getElem_cons_succ, List.getElem_cons_zero, List.setIfInBounds_toArray, List.set_cons_zero, List.set_cons_succ]
      refine reg_step hR 0 (by kernel_rfl) rfl fun K hK => ?_
      try simp only [Act.put, List.getElem_toArray, List.getElem_cons_succ, List.getElem_cons_zero, List.setIfInBounds_toArray, List.set_cons_zero, List.set_cons_succ]
      rw [if_pos (by rfl)]
      refine wp_load_at 87 _ rfl ⟨w.heap.size, 0, none⟩ rfl (cs64 cur) _ HS.out.drew.at_ Tryd.underlying87 rfl (by rw [HCL.out]; exact info38) ?_
      refine hK.out _ _ ((Kp.stays _).refl _) ?_
      clear hK K
      try simp only [Act.put, List.getElem_toArray, List.getElem_cons_succ, List.getElem_cons_zero, List.setIfInBounds_toArray, List.set_cons_zero, List.set_cons_succ]
      refine reg_step hR 6 (by kernel_rfl) rfl fun K hK => ?_
      try simp only [Act.put, List.getElem_toArray, List.getElem_cons_succ, List.getElem_cons_zero, List.setIfInBounds_toArray, List.set_cons_zero, List.set_cons_succ]
      rw [if_pos (by rfl)]
      go_simp
      refine (HPC.out _ HRK.out).mono ?_; rintro e w7 ⟨rfl, hb7⟩
      refine hK.out _ _ (Kp.of_old hb7) ?_
      have HS7 := Lib.hid (HS.out.drew.keep hb7)
      have HB7 := Lib.hid (bl_call HB.out.drew hb7)
      have HZ7 := Lib.hid (HZ.out.drew.keep hb7)
      have HO7 := Lib.hid (HO.out.drew.below hb7)
      clear hb7
      clear hK K
      try simp only [Act.put, List.getElem_toArray, List.getElem_cons_succ, List.getElem_cons_zero, List.setIfInBounds_toArray, List.set_cons_zero, List.set_cons_succ]
      refine reg_step hR 7 (by kernel_rfl) rfl fun K hK => ?_
      try simp only [Act.put, List.getElem_toArray, List.getElem_cons_succ, List.getElem_cons_zero, List.setIfInBounds_toArray, List.set_cons_zero, List.set_cons_succ]
      rw [if_pos (by rfl)]
      refine wp_store_bk 87 _ _ rfl w.heap.size rfl (cs64 nxt) (cs64 cur) rfl HS7.out (by rw [HNL.out]; exact info38) (by rw [HNL.out, HCL.out]) (cs64_one _) ?_
      refine hK.out _ _ (Kp_setRow _ _ _) ?_
      clear hK K
      try simp only [Act.put, List.getElem_toArray, List.getElem_cons_succ, List.getElem_cons_zero, List.setIfInBounds_toArray, List.set_cons_zero, List.set_cons_succ]
      refine reg_done (by kernel_rfl) ?_ _
      have HS8 := Lib.hid (HS7.out.setRow (cs64 nxt))
      have HZ8 := Lib.hid (HZ7.out.other (show w.heap.size + 1 ≠ w.heap.size by omega) (cs64 nxt).toArray)
      have HB8 := Lib.hid (bl_setRow HB7.out (Nat.le_refl _) (cs64 nxt).toArray)
      have HO8 := Lib.hid (HO7.out.setRow_ (show w.heap.size < w.heap.size + 2 by omega) (cs64 nxt).toArray)
      clear HS HZ HB HO HS7 HZ7 HB7 HO7
      go_wp2
      go_roundw
      case rel => exact ⟨k + 1, by omega, by go_num, Lib.hid (by rw [HNX.out]; exact HS8.out), HZ8, HO8, HB8⟩
      case measure => simp [intOf]; omega
    · obtain rfl : k = m := by omega
      have HSL8 := Lib.hid (show (cs64 (eat KK k st P)).length = 8 by rw [cs64_length, hel])
      have HEQ := Lib.hid (show eat KK (P.length / 128) st P = eat KK k st P by rw [HM8.out])
      generalize eat KK k st P = cur at HS HSL8 HEQ
      clear hel
      go_wp2_with (first | (refine wpList_load_at rfl 87 _ rfl ⟨w.heap.size, 0, none⟩ rfl (cs64 cur) _ HS.out.at_ Tryd.underlying87 rfl (by rw [HSL8.out]; exact info38) ?_) | (refine wpList_store_bk rfl 87 _ _ rfl (w.heap.size + 1) rfl (cs64 cur) z38 rfl HZ.out (by rw [HSL8.out]; exact info38) (by rw [HSL8.out]; exact len_z38) (cs64_one _) ?_))
      exact ret_bk rfl (w.heap.size + 1) _ _ rfl rfl (HZ.out.setRow _) Tryd.underlying87 rfl (by rw [HSL8.out]; exact info38) ⟨by rw [HEQ.out], bl_setRow HB.out (by omega) _⟩
end Go.Proofs.YtdfihpnmiiaflaaDoor
end
section
/- The document's own SHA-512/256: the start, the sum. -/
namespace Go.Proofs.YtdfihpnmiiaflaaDoor
set_option maxRecDepth 8192
set_option linter.unusedSimpArgs false
set_option linter.unusedVariables false
open Go.RowKit

def MASK : UInt64 := 11936128518282651045
/-- The first t words turned by the mask. -/
def xorT (l : List UInt64) (t : Nat) : List UInt64 := (l.take t).map (· ^^^ MASK) ++ l.drop t
theorem xorT_set (l : List UInt64) (t : Nat) (ht : t < l.length) : (xorT l t).set t (l[t] ^^^ MASK) = xorT l (t + 1) := by
  have hl : ((l.take t).map (· ^^^ MASK)).length = t := by simp; omega
  have e := List.set_append_right (s := (l.take t).map (· ^^^ MASK)) (t := l.drop t) (i := t) (x := l[t] ^^^ MASK) (by omega)
  rw [xorT, e, hl, Nat.sub_self, List.drop_eq_getElem_cons ht, List.set_cons_zero, xorT, List.take_succ_eq_append_getElem ht, List.map_append]
  simp
theorem xorT_at (l : List UInt64) (t : Nat) (ht : t < l.length) : (xorT l t)[t]? = some l[t] := by
  have hl : ((l.take t).map (· ^^^ MASK)).length = t := by simp; omega
  rw [xorT, List.getElem?_append_right (by omega), hl, Nat.sub_self, List.getElem?_drop]
  simp [ht]
theorem xorT_length (l : List UInt64) (t : Nat) : (xorT l t).length = l.length := by simp [xorT]; omega
def shortB : List UInt8 := [83, 72, 65, 45, 53, 49, 50, 47, 50, 53, 54]
set_option maxRecDepth 100000 in
theorem short_eq : eat KK ((shortB ++ padB shortB.length).length / 128) (xorT startL 8) (shortB ++ padB shortB.length) = startS := by decide +kernel
theorem Rd.mark' (w : World) (l : List UInt8) (fr : Nat × Nat) : Rd (w.alloc (.cells (cs8 l).toArray 5 fr)) (w.alloc (.cells (cs8 l).toArray 5 fr)).heap.size (some ⟨w.heap.size, 0, none⟩) l.length l.length l :=
  Rd.of_block (heap_alloc_new w _) (by simp)

set_option maxHeartbeats 1600000 in
theorem QShort_any (w : World) : Calls Tryd.prog 53 #[] w fun e w' => e = .returned (.agg (cs64 startS).toArray) ∧ Below w.heap.size w w' := by
  have HSL := Lib.hid (show (cs64 startL).length = 8 by decide +kernel)
  have HSS := Lib.hid (show (cs64 startS).length = 8 by decide +kernel)
  have HL8 := Lib.hid (show startL.length = 8 by decide +kernel)
  have HXS := Lib.hid (xorT_set startL)
  have HXA := Lib.hid (xorT_at startL)
  have HXL := Lib.hid (xorT_length startL)
  have HX0 := Lib.hid (show xorT startL 0 = startL by simp [xorT])
  have HXE := Lib.hid short_eq
  have hcv := fun W : World => Lib.run_convert_bytes_const W 30 5 #[.int .u8 83, .int .u8 72, .int .u8 65, .int .u8 45, .int .u8 53, .int .u8 49, .int .u8 50, .int .u8 47, .int .u8 50, .int .u8 53, .int .u8 54] 11 11 Tryd.underlying30 Tryd.underlying5
  simp only [List.size_toArray, List.length_cons, List.length_nil, Nat.zero_add, Nat.reduceAdd] at hcv
  have HB1 := Lib.hid (bl_alloc (bl0 w) (.cells z38.toArray 87))
  have HZ1 := Lib.hid (Bk.new w z38 87)
  have HQS : Hid (∀ w, Calls Tryd.prog 63 #[] w fun e w' => e = .returned (.agg (cs64 startL).toArray) ∧ Below w.heap.size w w') := Lib.hid QStart_any
  generalize startL = SL at HSL HL8 HXS HXA HXL HX0 HXE HQS
  go_enter Tryd.func53, Tryd.ntmps53
  go_wp2_with (refine wpList_alloc_z rfl 87 rfl z38 zero38 ?_)
  refine (HQS.out _).mono ?_
  rintro e w2 ⟨rfl, hb2⟩
  have hs2 : w.heap.size + 1 ≤ w2.heap.size := by have := hb2.size; simp at this; omega
  have HZ2 := Lib.hid (HZ1.out.keep hb2)
  have HB2 := Lib.hid (bl_call HB1.out hb2)
  have HE3 := Lib.hid (Bk.new w2 z38 87)
  have HG3 := Lib.hid (HE3.out.setRow (cs64 SL))
  have HZ3 := Lib.hid ((HZ2.out.old (.cells z38.toArray 87)).other (show w.heap.size ≠ w2.heap.size by omega) (cs64 SL).toArray)
  have HB3 := Lib.hid (bl_setRow (bl_alloc HB2.out (.cells z38.toArray 87)) (show w.heap.size ≤ w2.heap.size by omega) (cs64 SL).toArray)
  clear hb2 HZ2 HB2 HB1 HZ1
  go_wp2_with (first | (refine wpList_alloc_z rfl 87 rfl z38 zero38 ?_) | (refine wpList_store_bk rfl 87 _ _ rfl w2.heap.size rfl (cs64 SL) z38 rfl HE3.out (by rw [HSL.out]; exact info38) (by rw [HSL.out]; exact len_z38) (cs64_one _) ?_))
  clear HE3
  generalize (w2.alloc (.cells z38.toArray 87)).setRow w2.heap.size (cs64 SL).toArray = w3 at HG3 HZ3 HB3 ⊢
  obtain ⟨gs, hgs⟩ : ∃ g, g = w2.heap.size := ⟨_, rfl⟩
  rw [← hgs] at HG3 hs2 ⊢
  clear hgs
  go_loopw [2] (fun vi wr => ∃ t : Nat, t ≤ 8 ∧ vi = .int .i64 (t : Int) ∧ Hid (Bk wr w.heap.size z38) ∧ Hid (Bk wr gs (cs64 (xorT SL t))) ∧ Hid (Below w.heap.size w wr)) (fun vi _ => 8 - (intOf vi).toNat)
  case atStart => exact ⟨0, by omega, rfl, HZ3, Lib.hid (by rw [HX0.out]; exact HG3.out), HB3⟩
  case round =>
    clear HZ3 HG3 HB3
    obtain ⟨t, ht, rfl, HZ, HG, HB⟩ := hrel
    by_cases hlt : t < 8
    · have hls : t < SL.length := by have := HL8.out; omega
      have hset := HXS.out t hls
      have hcx : (cs64 (xorT SL t))[t]? = some (.int .u64 ((SL[t]).toNat : Int)) := by rw [cs64, List.getElem?_map, HXA.out t hls]; rfl
      generalize SL[t] = x at hset hcx
      have hx64 : x.toNat < 18446744073709551616 := x.toNat_lt
      have hc := HG.out.cell hcx
      have hf := HG.out.frozen t
      have hxm := xorU x MASK
      rw [show (MASK.toNat : Int) = 11936128518282651045 from by decide +kernel] at hxm
      have HSET := Lib.hid hset
      clear hset hcx
      go_wp2
      rw [← UInt64.toNat_xor]
      refine ⟨⟨t + 1, by omega, by go_num, Lib.hid (HZ.out.setCell_ne (by omega) _ _), ?_, Lib.hid (bl_setCell HB.out (by omega) _ _)⟩, by simp [intOf]; omega⟩
      rw [← HSET.out, show cs64 ((xorT SL t).set t (x ^^^ MASK)) = (cs64 (xorT SL t)).set t (B64 (x ^^^ MASK)) by rw [cs64, cs64, List.map_set]]
      exact Lib.hid (HG.out.setCell _ _)
    · obtain rfl : t = 8 := by omega
      have hrd : Rd (wr.alloc (.cells #[.int .u8 83, .int .u8 72, .int .u8 65, .int .u8 45, .int .u8 53, .int .u8 49, .int .u8 50, .int .u8 47, .int .u8 50, .int .u8 53, .int .u8 54] 5 (11, 12))) (wr.alloc (.cells #[.int .u8 83, .int .u8 72, .int .u8 65, .int .u8 45, .int .u8 53, .int .u8 49, .int .u8 50, .int .u8 47, .int .u8 50, .int .u8 53, .int .u8 54] 5 (11, 12))).heap.size (some ⟨wr.heap.size, 0, none⟩) 11 11 shortB := Rd.mark' wr shortB (11, 12)
      have hb4 := bl_alloc (bl0 wr) (.cells #[.int .u8 83, .int .u8 72, .int .u8 65, .int .u8 45, .int .u8 53, .int .u8 49, .int .u8 50, .int .u8 47, .int .u8 50, .int .u8 53, .int .u8 54] 5 (11, 12))
      have hx8 : (xorT SL 8).length = 8 := by rw [HXL.out]; exact HL8.out
      have HRUN := Lib.hid (Qrun_any (st := xorT SL 8) _ hx8 hrd (by omega))
      rw [HXE.out] at HRUN
      have HX8 := Lib.hid (show (cs64 (xorT SL 8)).length = 8 by rw [cs64_length, hx8])
      have HB4 := Lib.hid (bl_call HB.out hb4)
      have HZ4 := Lib.hid (HZ.out.keep hb4)
      clear hrd hb4 hx8 HB HZ
      go_wp2_with (refine wpList_load_at rfl 87 _ rfl ⟨gs, 0, none⟩ rfl (cs64 (xorT SL 8)) _ HG.out.at_ Tryd.underlying87 rfl (by rw [HX8.out]; exact info38) ?_)
      refine HRUN.out.mono ?_
      rintro e w5 ⟨rfl, hb5⟩
      have HZ5 := Lib.hid (HZ4.out.keep hb5)
      have HB5 := Lib.hid (bl_call HB4.out hb5)
      clear hb5
      go_wp2_with (refine wpList_store_bk rfl 87 _ _ rfl w.heap.size rfl (cs64 startS) z38 rfl HZ5.out (by rw [HSS.out]; exact info38) (by rw [HSS.out]; exact len_z38) (cs64_one _) ?_)
      exact ret_bk rfl w.heap.size _ _ rfl rfl (HZ5.out.setRow _) Tryd.underlying87 rfl (by rw [HSS.out]; exact info38) ⟨rfl, bl_setRow HB5.out (Nat.le_refl _) _⟩

theorem exec_slice59_all {o : Oper} {a : Act} {w : World} (x : Operand) (ho : o.op = .slice 75 x none none none) {g : Nat} (hx : a.eval x = .pointer (some ⟨g, 0, none⟩)) :
    (execOp a.eval o).run Tryd.prog w = .ok (.value (.slice (some ⟨g, 0, none⟩) 32 32)) w := by
  unfold execOp
  simp only [ho, hx, Option.map_none]
  simp [Instr.sliceAt, Instr.sureAddr, run_underlying Tryd.underlying75, Instr.sliceBounds, run_sliceBound, Tryd.sizeOf5, add_zero_mid, go_sem]
theorem exec_slice_32 {o : Oper} {a : Act} {w : World} (x : Operand) (ho : o.op = .slice 85 x none (some (.const (.int .i64 32))) none) {g : Nat} (hx : a.eval x = .pointer (some ⟨g, 0, none⟩)) :
    (execOp a.eval o).run Tryd.prog w = .ok (.value (.slice (some ⟨g, 0, none⟩) 32 64)) w := by
  have hr := run_slice_hi (g := g) Tryd.underlying85 (show 32 ≤ 64 by decide) (by decide) w
  have hk : a.eval (.const (.int .i64 32)) = .int .i64 32 := rfl
  unfold execOp
  simp only [ho, hx, Option.map_none, Option.map_some, hk]
  rw [show ((32 : Nat) : Int) = 32 from rfl] at hr
  simp [hr, go_sem]
theorem size5' : (Tryd.prog.info? 5).map (·.size) = some 1 := by kernel_rfl
/-- copy of 32 bytes over a block of 32. -/
theorem wp_copy32 {o : Oper} {a : Act} {w : World} {K : Act → World → Prop} {Q : Exit → Act → World → Prop} (d s : Operand) (ho : o.op = .call { callee := .builtin .copy, args := #[d, s], argTypes := #[30, 30] })
    {g c : Nat} {ad : Addr} {l : List UInt8} (hd : a.eval d = .slice (some ⟨g, 0, none⟩) 32 32) (hs : a.eval s = .slice (some ad) 32 c) (hg : Bk w g z36) (hc : ∀ j u, (cs8 l)[j]? = some u → w.cell? (ad.add j) = some u) (hl : (cs8 l).length = 32)
    (h : K (a.put o.dst (goInt 32)) (w.setRow g (cs8 l).toArray)) : o.wp Tryd.prog a w K Q := by
  obtain ⟨t, hg⟩ := hg
  have hcp := run_copy_row (P := Tryd.prog) w 30 30 o.type 5 g 0 32 32 ad 32 c _ t (cs8 l) Tryd.underlying30 size5' hg (by rw [hl]; rfl) hc (by rw [hl]; simp [z36, cs8]) (cs8_one l)
  have hnew : (z36.toArray.toList.take 0 ++ cs8 l ++ z36.toArray.toList.drop (0 + (cs8 l).length)).toArray = (cs8 l).toArray := by
    congr 1
    rw [List.take_zero, List.nil_append, hl, List.drop_eq_nil_of_le (by simp [z36, cs8]), List.append_nil]
  rw [hnew, hl] at hcp
  unfold Oper.wp execOp
  simp only [ho, resolve, invoke, builtin, Sem.run_bind, Sem.run_pure, Result.andThen_ok, List.map_toArray, List.map_cons, List.map_nil, hd, hs, hcp]
  exact h
theorem QsumS_eq (l : List UInt8) : (signsOf (eat KK ((l ++ padB l.length).length / 128) startS (l ++ padB l.length))).take 32 = sumS l := by
  rw [sumS, sumOf, eat_KK]
set_option maxHeartbeats 1600000 in
theorem QSum_any {B : Option Addr} {m c : Nat} {L : List (List UInt8)} (w : World) (hL : Rl w w.heap.size B m L) (hm : m ≤ 1073741824) (hT : L.flatten.length ≤ 1073741824) :
    Calls Tryd.prog 37 #[.slice B m c] w fun e w' => e = .returned (.agg (cs8 (sumS L.flatten)).toArray) ∧ Below w.heap.size w w' := by
  have HL := Lib.hid hL
  have HT := Lib.hid hT
  have HQ := Lib.hid (QsumS_eq L.flatten)
  have hel : (eat KK ((L.flatten ++ padB L.flatten.length).length / 128) startS (L.flatten ++ padB L.flatten.length)).length = 8 := eat_length _ _ _ _ startS_length
  have HRUN := Lib.hid (fun (W : World) (A : Option Addr) (n c : Nat) (h : Rd W W.heap.size A n c L.flatten) (hn : n ≤ 1073741824) => Qrun_any (st := startS) W startS_length h hn)
  generalize eat KK ((L.flatten ++ padB L.flatten.length).length / 128) startS (L.flatten ++ padB L.flatten.length) = E at HQ hel HRUN
  have HQSH : Hid (∀ w, Calls Tryd.prog 53 #[] w fun e w' => e = .returned (.agg (cs64 startS).toArray) ∧ Below w.heap.size w w') := Lib.hid QShort_any
  generalize startS = SS at HRUN HQSH
  have hsg : (signsOf E).length = 64 := by rw [signs_length, hel]
  have HSG := Lib.hid (show (cs8 (signsOf E)).length = 64 by rw [cs8_length, hsg])
  have HBY := Lib.hid (Qbytes_any E hel)
  have h32 : (sumS L.flatten).length = 32 := by rw [← HQ.out, List.length_take, hsg]; rfl
  have HTL := Lib.hid (show (cs8 (sumS L.flatten)).length = 32 by rw [cs8_length, h32])
  have hmI : (m : Int) ≤ 1073741824 := by omega
  have HMM := Lib.hid hm
  have HLJ := Lib.hid (fun (W : World) (h : Rl W W.heap.size B m L) => Qjoin_any (c := c) W h hm hT)
  have HE1 := Lib.hid (Bk.new w z36 75)
  have HB1 := Lib.hid (bl_alloc (bl0 w) (.cells z36.toArray 75))
  clear hL hT hm h32
  generalize hF : L.flatten = F at HT HRUN HQ HTL HLJ ⊢
  clear hF
  generalize sumS F = R at HQ HTL ⊢
  go_enter Tryd.func37, Tryd.ntmps37
  go_wp2_with (refine wpList_alloc_z rfl 75 rfl z36 zero36 ?_)
  refine (HQSH.out _).mono ?_
  rintro e w2 ⟨rfl, hb2⟩
  have HE2 := Lib.hid (HE1.out.keep hb2)
  have HB2 := Lib.hid (bl_call HB1.out hb2)
  clear hb2 HE1 HB1
  go_wp2_with fail
  refine (HLJ.out w2 ((HL.out.below HB2.out).more HB2.out.size)).mono ?_
  rintro e w3 ⟨v3, rfl, ho3, hb3⟩
  obtain ⟨A3, c3, rfl, hr3⟩ := ho3.rd
  have HE3 := Lib.hid (HE2.out.keep hb3)
  have HB3 := Lib.hid (bl_call HB2.out hb3)
  have HR3 := Lib.hid hr3
  clear ho3 hb3 hr3 HE2 HB2
  go_wp2_with fail
  have HRN := Lib.hid (HRUN.out w3 A3 F.length c3 HR3.out HT.out)
  refine HRN.out.mono ?_
  rintro e w4 ⟨rfl, hb4⟩
  have HE4 := Lib.hid (HE3.out.keep hb4)
  have HB4 := Lib.hid (bl_call HB3.out hb4)
  clear hb4 HE3 HB3
  go_wp2_with fail
  refine (HBY.out w4).mono ?_
  rintro e w5 ⟨rfl, hb5⟩
  have hew := HE4.out.lt
  have hs5 := hb5.size
  have HE5 := Lib.hid (HE4.out.keep hb5)
  have HB5 := Lib.hid (bl_call HB4.out hb5)
  clear hb5 HE4 HB4
  have HX5 := Lib.hid (Bk.new w5 z33 85)
  have HX6 := Lib.hid (HX5.out.setRow (cs8 (signsOf E)))
  have HE6 := Lib.hid ((HE5.out.old (.cells z33.toArray 85)).other (show w.heap.size ≠ w5.heap.size by omega) (cs8 (signsOf E)).toArray)
  have HB6 := Lib.hid (bl_setRow (bl_alloc HB5.out (.cells z33.toArray 85)) (show w.heap.size ≤ w5.heap.size by omega) (cs8 (signsOf E)).toArray)
  have hs6 : ((w5.alloc (.cells z33.toArray 85)).setRow w5.heap.size (cs8 (signsOf E)).toArray).heap.size = w5.heap.size + 1 := by simp
  go_wp2_with (first | (refine wpList_alloc_z rfl 85 rfl z33 zero33 ?_) | (refine wpList_store_bk rfl 85 _ _ rfl w5.heap.size rfl (cs8 (signsOf E)) z33 rfl HX5.out (by rw [HSG.out]; exact info33) (by rw [HSG.out]; exact len_z33) (cs8_all _) ?_) | (refine wpList_alloc_z rfl 75 rfl z36 zero36 ?_))
  have hcu : ∀ j u, (cs8 R)[j]? = some u → ((w5.alloc (.cells z33.toArray 85)).setRow w5.heap.size (cs8 (signsOf E)).toArray).cell? ((⟨w5.heap.size, 0, none⟩ : Addr).add j) = some u := HX6.out.range (fun j u hj => by
    rw [← HQ.out, cs8, List.map_take, List.getElem?_take] at hj
    split at hj
    · rw [Nat.zero_add]; exact hj
    · cases hj)
  obtain ⟨w6, hw6⟩ : ∃ w6, w6 = (w5.alloc (.cells z33.toArray 85)).setRow w5.heap.size (cs8 (signsOf E)).toArray := ⟨_, rfl⟩
  rw [← hw6] at hcu HX6 HE6 HB6 hs6 ⊢
  have HN7 := Lib.hid (Bk.new w6 z36 75)
  have hb7 := bl_alloc (bl0 w6) (.cells z36.toArray 75)
  have HE7 := Lib.hid (HE6.out.keep hb7)
  have HB7 := Lib.hid (bl_call HB6.out hb7)
  have HCU := Lib.hid (fun j u (hj : (cs8 R)[j]? = some u) => show (w6.alloc (.cells z36.toArray 75)).drew.cell? ((⟨w5.heap.size, 0, none⟩ : Addr).add j) = some u from (hb7.cell (by rw [add_block]; simp only; omega)).trans (hcu j u hj))
  obtain ⟨w7, hw7⟩ : ∃ w7, w7 = w6.alloc (.cells z36.toArray 75) := ⟨_, rfl⟩
  obtain ⟨g4, hg4⟩ : ∃ g, g = w6.heap.size := ⟨_, rfl⟩
  rw [← hw7] at HN7 HE7 HB7 HCU ⊢
  rw [← hg4] at HN7 hs6 ⊢
  clear hw6 hw7 hg4 hb7 hcu HX5 HX6 HE6 HB6 HE5 HB5
  have hR := Kp.stays (· = g4)
  refine reg_start (Kp (· = g4)) follows_mixed ?_
  refine reg_take (v := .slice (some ⟨g4, 0, none⟩) 32 32) hR 0 rfl (by kernel_rfl) (by kernel_rfl) (by kernel_rfl) (fun _ _ _ h => h) (by rfl) ?_ ?_
  · intro W hW; exact exec_slice59_all _ rfl rfl
  try simp only [Act.put, List.getElem_toArray, List.getElem_cons_succ, List.getElem_cons_zero, List.setIfInBounds_toArray, List.set_cons_zero, List.set_cons_succ]
  refine reg_take (v := .slice (some ⟨w5.heap.size, 0, none⟩) 32 64) hR 1 rfl (by kernel_rfl) (by kernel_rfl) (by kernel_rfl) (fun _ _ _ h => h) (by rfl) ?_ ?_
  · intro W hW; exact exec_slice_32 _ rfl rfl
  try simp only [Act.put, List.getElem_toArray, List.getElem_cons_succ, List.getElem_cons_zero, List.setIfInBounds_toArray, List.set_cons_zero, List.set_cons_succ]
  refine reg_step hR 2 (by kernel_rfl) rfl fun K hK => ?_
  try simp only [Act.put, List.getElem_toArray, List.getElem_cons_succ, List.getElem_cons_zero, List.setIfInBounds_toArray, List.set_cons_zero, List.set_cons_succ]
  rw [if_pos (by rfl)]
  refine wp_copy32 _ _ rfl rfl rfl HN7.out.drew HCU.out HTL.out ?_
  refine hK.out _ _ (Kp_setRow _ _ _) ?_
  clear hK K
  try simp only [Act.put, List.getElem_toArray, List.getElem_cons_succ, List.getElem_cons_zero, List.setIfInBounds_toArray, List.set_cons_zero, List.set_cons_succ]
  refine reg_done (by kernel_rfl) ?_ _
  have HN8 := Lib.hid (HN7.out.drew.setRow (cs8 R))
  have HE8 := Lib.hid (HE7.out.drew.other (show w.heap.size ≠ g4 by omega) (cs8 R).toArray)
  have HB8 := Lib.hid (bl_setRow HB7.out.drew (show w.heap.size ≤ g4 by omega) (cs8 R).toArray)
  clear HN7 HE7 HB7 HCU
  go_wp2_with (first | (refine wpList_load_at rfl 75 _ rfl ⟨g4, 0, none⟩ rfl (cs8 R) _ HN8.out.at_ Tryd.underlying75 rfl (by rw [HTL.out]; exact info36) ?_) | (refine wpList_store_bk rfl 75 _ _ rfl w.heap.size rfl (cs8 R) z36 rfl HE8.out (by rw [HTL.out]; exact info36) (by rw [HTL.out]; exact len_z36) (cs8_all _) ?_))
  exact ret_bk rfl w.heap.size _ _ rfl rfl (HE8.out.setRow _) Tryd.underlying75 rfl (by rw [HTL.out]; exact info36) ⟨rfl, bl_setRow HB8.out (Nat.le_refl _) _⟩
end Go.Proofs.YtdfihpnmiiaflaaDoor
end
section
/- The document's own answers for numbers, blocks and words as bytes. -/
namespace Go.Proofs.YtdfihpnmiiaflaaDoor
set_option linter.unusedSimpArgs false
set_option linter.unusedVariables false
open Go.RowKit

theorem numSize_is (n k : Nat) (hn : n < 2 ^ 64) (h1 : 1 ≤ k) (h9 : k ≤ 9) (ha : k = 1 ∨ n / 2 ^ (7 * (k - 1)) ≠ 0) (hb : k = 9 ∨ n / 2 ^ (7 * k) = 0) : k = numSize n := by
  have hd := numSize_bd n
  rcases Nat.lt_trichotomy k (numSize n) with h | h | h
  · have h2 := numSize_ge n (by omega)
    have hp : 2 ^ (7 * k) ≤ 2 ^ (7 * (numSize n - 1)) := Nat.pow_le_pow_right (by decide) (by omega)
    have := Nat.div_pos (Nat.le_trans hp h2) (Nat.two_pow_pos (7 * k))
    omega
  · exact h
  · have h2 := numSize_lt n hn (by omega)
    have hp : 2 ^ (7 * numSize n) ≤ 2 ^ (7 * (k - 1)) := Nat.pow_le_pow_right (by decide) (by omega)
    have := Nat.div_eq_of_lt (Nat.lt_of_lt_of_le h2 hp)
    omega

theorem div_castR (n k : Nat) : ((n : Int) / 2 ^ k) = ((n / 2 ^ k : Nat) : Int) := by simp

theorem byte_atN (n i : Nat) : ((n : Int) / 2 ^ (8 * i) % 256) = ((n / 2 ^ (8 * i) % 256 : Nat) : Int) := by simp

theorem lead_wrap : ∀ (k : Fin 9), 1 ≤ k.val → IntKind.u64.wrap (256 - IntKind.u64.wrap (2 ^ (9 - k.val))) = (leadOf k.val : Int) := by decide +kernel

set_option maxHeartbeats 400000 in
theorem QWord_any {A : Option Addr} {k c : Nat} {l : List UInt8} (n : Nat) (m : Int) (w : World) (hr : Rd w w.heap.size A k c l) (hk : k ≤ 2147483648) (_h1 : n < 18446744073709551616) :
    Calls Tryd.prog 38 #[.slice A k c, .int .u64 (n : Int), .int .i64 m] w (OGives w (l ++ OwordB n (min (max m 1) 8).toNat)) := by
  have hl := hr.len
  obtain ⟨j, hj, hj1, hj8⟩ : ∃ j : Nat, (j : Int) = min (max m 1) 8 ∧ 1 ≤ j ∧ j ≤ 8 := ⟨(min (max m 1) 8).toNat, by omega, by omega, by omega⟩
  rw [← hj]
  have hJ : min (max m 1) 8 = (j : Int) := hj.symm
  clear hj
  have hb0 : Below w.heap.size w (w.alloc (.cells #[] 5)) := bl_alloc (bl0 w) _
  go_enter Tryd.func38, Tryd.ntmps38
  go_wp2_with (at_builtin; refine wpList_app rfl _ _ rfl rfl (Ow.lit w #[] [] rfl (by simp)) rfl (hr.below hb0) (by simp; omega) (by simp) ?_; intro v2 w2 ho2 hg2 hv2)
  rw [List.nil_append] at ho2
  have hb2 : Below w.heap.size w w2 := hb0.grown hg2 hb0.size (fun g hg => (World.ownsRow.lt (Ow.lit w #[] [] rfl (by simp)) g hg).1)
  clear hg2 hv2 hb0
  go_loopw [7, 8] (fun v i wr => ∃ t : Nat, t ≤ j ∧ i = .int .i64 (t : Int) ∧ Ow wr w.heap.size v (l ++ OwordB n t) ∧ Below w.heap.size w wr) (fun _ i _ => j - (intOf i).toNat)
  case atStart => exact ⟨0, by omega, rfl, by simpa [OwordB] using ho2, hb2⟩
  case round =>
    obtain ⟨t, ht, rfl, ho, hb⟩ := hrel
    have hbs := hb.size
    by_cases hlt : t < j
    · have hx0 : 0 ≤ (n : Int) / 2 ^ (8 * t) % 256 := Int.emod_nonneg _ (by omega)
      have hx1 : (n : Int) / 2 ^ (8 * t) % 256 < 256 := Int.emod_lt_of_pos _ (by omega)
      have hstep : Hid (l ++ OwordB n t ++ [UInt8.ofNat ((n : Int) / 2 ^ (8 * t) % 256).toNat] = l ++ OwordB n (t + 1)) := by
        rw [byte_atN, Int.toNat_natCast, OwordB, OwordB, List.range_succ, List.map_append, List.append_assoc]
        exact Lib.hid rfl
      have hw : (OwordB n t).length = t := by simp [OwordB]
      go_wp2_with (at_builtin; refine wpList_app rfl _ _ rfl rfl (ho.alloc _) rfl (Rd.lit1 wr _ hx0 hx1) (by simp; omega) (by simp; omega) ?_; intro v2 w2 ho2 hg2 hv2)
      go_roundw
      case rel => exact ⟨t + 1, by omega, by go_num, by rw [← hstep.out]; exact ho2, (bl_alloc hb _).grown hg2 (bl_alloc hb _).size (fun g hg => (World.ownsRow.lt ho g hg).1)⟩
      case measure => simp [intOf]; omega
    · obtain rfl : t = j := by omega
      go_wp2
      go_ret
      exact OGives.mk ho hb
end Go.Proofs.YtdfihpnmiiaflaaDoor
end
