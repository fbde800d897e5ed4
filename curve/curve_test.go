package curve

import (
	"bytes"
	"crypto/ed25519"
	"crypto/sha512"
	"encoding/hex"
	"math/big"
	"slices"
	"testing"

	"headwater/api"
)

var (
	one   = big.NewInt(1)
	p     = new(big.Int).Sub(new(big.Int).Lsh(one, 255), big.NewInt(19))
	full  = new(big.Int).Sub(new(big.Int).Lsh(one, 256), one)
	order = orderOf()
	d     = line(big.NewInt(-121665), big.NewInt(121666))
)

// orderOf is the base's order as chapter 4 tells it, in decimal.
func orderOf() *big.Int {
	n, _ := new(big.Int).SetString("27742317777372353535851937790883648493", 10)
	return n.Add(n, new(big.Int).Lsh(one, 252))
}

func mod(n *big.Int) *big.Int { return n.Mod(n, p) }

// line is above by below, modulo p.
func line(above, below *big.Int) *big.Int {
	n := new(big.Int).ModInverse(mod(new(big.Int).Set(below)), p)
	return mod(n.Mul(n, above))
}

func by(a, b *big.Int) *big.Int { return mod(new(big.Int).Mul(a, b)) }

func and(a, b *big.Int) *big.Int { return new(big.Int).Add(a, b) }

func less(a, b *big.Int) *big.Int { return new(big.Int).Sub(a, b) }

func more(n *big.Int, by int64) *big.Int { return and(n, big.NewInt(by)) }

func power(at uint) *big.Int { return new(big.Int).Lsh(one, at) }

// number is what bytes are, the low one first.
func number(b [32]byte) *big.Int {
	slices.Reverse(b[:])
	return new(big.Int).SetBytes(b[:])
}

func num(n *big.Int) api.Num {
	b := n.FillBytes(make([]byte, 32))
	slices.Reverse(b)
	return api.Num(b)
}

// spot is a point as the chapter tells of it, of whole numbers: what the package answers is held against it.
type spot struct{ x, y *big.Int }

func (s spot) String() string { return s.x.Text(16) + ", " + s.y.Text(16) }

func nought() spot { return spot{new(big.Int), one} }

func spotOf(p api.Point) spot { return spot{number(p.X), number(p.Y)} }

func (s spot) point() api.Point { return api.Point{X: num(s.x), Y: num(s.y)} }

func (s spot) there() bool {
	xx, yy := by(s.x, s.x), by(s.y, s.y)
	return mod(less(yy, xx)).Cmp(mod(more(by(d, by(xx, yy)), 1))) == 0
}

func (s spot) add(t spot) spot {
	all := by(d, by(by(s.x, t.x), by(s.y, t.y)))
	x := line(and(by(s.x, t.y), by(s.y, t.x)), more(all, 1))
	y := line(and(by(s.y, t.y), by(s.x, t.x)), less(one, all))
	return spot{x, y}
}

func (s spot) neg() spot { return spot{mod(new(big.Int).Neg(s.x)), s.y} }

// doubles are s, twice s, four times s, and so on.
func (s spot) doubles() []spot {
	list := []spot{s}
	for range 255 {
		s = s.add(s)
		list = append(list, s)
	}
	return list
}

// times is the first of doubles, k times.
func times(k *big.Int, doubles []spot) spot {
	sum := nought()
	for i := range k.BitLen() {
		if k.Bit(i) == 1 {
			sum = sum.add(doubles[i])
		}
	}
	return sum
}

// read is the point with that Y, if there is one.
func read(y *big.Int, odd uint) (spot, bool) {
	if y.Cmp(p) >= 0 {
		return spot{}, false
	}
	yy := by(y, y)
	x := new(big.Int).ModSqrt(line(more(yy, -1), more(by(d, yy), 1)), p)
	if x == nil {
		return spot{}, false
	}
	if x.Bit(0) != odd {
		x = mod(x.Neg(x))
	}
	return spot{x, y}, x.Bit(0) == odd
}

func base() spot {
	s, _ := read(line(big.NewInt(4), big.NewInt(5)), 0)
	return s
}

// thrown are bytes of which all bits are thrown about.
func thrown(i int) [32]byte { return sha512.Sum512_256([]byte{byte(i), byte(i >> 8), 13}) }

// others are points that nobody chose: most of them no multiples of the base.
func others(n int) []spot {
	var out []spot
	for i := 0; len(out) < n; i++ {
		b := thrown(i)
		odd := uint(b[31] >> 7)
		b[31] &= 127
		if s, ok := read(number(b), odd); ok {
			out = append(out, s)
		}
	}
	return out
}

// smalls are the eight multiples of a point of which eight are nought, and no fewer.
func smalls() []spot {
	for _, s := range others(20) {
		s = times(order, s.doubles())
		list := []spot{nought()}
		for range 7 {
			list = append(list, list[len(list)-1].add(s))
		}
		if list[4].x.Sign() != 0 || list[4].y.Cmp(one) != 0 {
			return list
		}
	}
	panic("there are points whose order goes by 8")
}

// points are all kinds: nought, the small ones, the base and its kin, others, and others with small ones.
func points() []spot {
	list, b := smalls(), base()
	list = append(list, b, b.neg(), b.add(b), b.add(list[1]), b.add(list[4]).neg())
	return append(list, others(4)...)
}

// wrong are those that may not be a point: not on the curve, or with a coordinate that is not canonical, though it stands for a point's.
func wrong() []api.Point {
	list := []api.Point{{}, {X: num(one)}, {X: num(one), Y: num(one)}, {Y: num(big.NewInt(2))}, {X: num(full), Y: num(full)},
		{X: num(new(big.Int).Lsh(p, 1)), Y: num(one)}, {Y: num(more(new(big.Int).Lsh(p, 1), 1))}}
	for _, s := range points() {
		list = append(list, api.Point{X: num(and(s.x, p)), Y: num(s.y)}, api.Point{X: num(s.x), Y: num(and(s.y, p))}, api.Point{X: num(and(s.x, p)), Y: num(and(s.y, p))})
		for _, t := range []spot{{mod(more(s.x, 1)), s.y}, {s.x, mod(more(s.y, 1))}, {s.y, s.x}, {by(s.x, big.NewInt(2)), s.y}} {
			if !t.there() {
				list = append(list, t.point())
			}
		}
	}
	return list
}

// counts are how often: the edges, the order's, and others.
func counts() []*big.Int {
	list := []*big.Int{full, more(full, -1), p, more(p, -1), power(255), power(254), more(power(255), -1), power(128), power(64), power(8)}
	for _, n := range []*big.Int{order, new(big.Int).Lsh(order, 1), new(big.Int).Lsh(order, 3)} {
		list = append(list, n, more(n, -1), more(n, 1))
	}
	for i := range 12 {
		list = append(list, big.NewInt(int64(i)), number(thrown(i)))
	}
	return list
}

func TestP51D(t *testing.T) {
	if D() != num(d) {
		t.Errorf("D: %x", number(D()))
	}
	if n := by(number(D()), big.NewInt(121666)); n.Cmp(more(p, -121665)) != 0 {
		t.Errorf("D by 121666: %x", n)
	}
}

func TestP51Zero(t *testing.T) {
	if Zero() != (api.Point{Y: api.Num{1}}) {
		t.Errorf("Zero: %x", Zero())
	}
}

func TestP51Base(t *testing.T) {
	b := spotOf(Base())
	if !b.there() || b.x.Bit(0) != 0 || b.x.Cmp(p) >= 0 || b.y.Cmp(line(big.NewInt(4), big.NewInt(5))) != 0 {
		t.Errorf("Base: %v", b)
	}
}

func TestP51Check(t *testing.T) {
	for _, s := range append(points(), others(100)...) {
		if e := Check(s.point()); e != api.OK {
			t.Errorf("Check of %v: %d", s, e)
		}
	}
	for _, w := range wrong() {
		if e := Check(w); e != api.ErrArg {
			t.Errorf("Check of %x: %d", w, e)
		}
	}
}

// TestP51CheckOfEachBit changes the base in one bit: only that of no bit is a point.
func TestP51CheckOfEachBit(t *testing.T) {
	for i := range 256 {
		for _, y := range []bool{false, true} {
			q := Base()
			if y {
				q.Y[i/8] ^= 1 << (i % 8)
			} else {
				q.X[i/8] ^= 1 << (i % 8)
			}
			if Check(q) != api.ErrArg {
				t.Errorf("the base with another bit %d", i)
			}
		}
	}
}

func TestOfNoPoint(t *testing.T) {
	good := []api.Point{Base(), Zero(), others(1)[0].point()}
	for _, w := range wrong() {
		if b, e := Bytes(w); e != api.ErrArg || b != ([32]byte{}) {
			t.Errorf("Bytes of %x: %x, %d", w, b, e)
		}
		if Small(w) {
			t.Errorf("Small of %x", w)
		}
		if Neg(w) != Zero() || Add(w, w) != Zero() {
			t.Errorf("Neg, Add of %x", w)
		}
		for _, k := range []api.Num{{}, {1}, {2}, num(full)} {
			if Mul(k, w) != Zero() || Mul2(k, w, k, w) != Zero() {
				t.Errorf("Mul, Mul2 of %x", w)
			}
		}
		for _, g := range good {
			if Add(w, g) != Zero() || Add(g, w) != Zero() {
				t.Errorf("Add of %x and a point", w)
			}
			for _, k := range []api.Num{{}, {1}} {
				if Mul2(k, w, api.Num{1}, g) != Zero() || Mul2(api.Num{1}, g, k, w) != Zero() {
					t.Errorf("Mul2 of %x and a point", w)
				}
			}
		}
	}
}

func TestP51Add(t *testing.T) {
	list := append(points(), base().add(base()).neg())
	for _, s := range list {
		for _, u := range list {
			if got := Add(s.point(), u.point()); got != s.add(u).point() {
				t.Fatalf("Add of %v and %v: %x", s, u, got)
			}
		}
	}
}

func TestP51Neg(t *testing.T) {
	for _, s := range append(points(), others(40)...) {
		got := Neg(s.point())
		if got != s.neg().point() || Neg(got) != s.point() || Add(got, s.point()) != Zero() {
			t.Errorf("Neg of %v: %x", s, got)
		}
	}
	if Neg(Zero()) != Zero() {
		t.Error("Neg of nought")
	}
	two := smalls()[4].point()
	if Neg(two) != two || two == Zero() {
		t.Error("Neg of what is nought twice")
	}
}

func TestP51MulOfFew(t *testing.T) {
	for _, s := range points() {
		sum := nought()
		for k := range 20 {
			if got := Mul(api.Num{byte(k)}, s.point()); got != sum.point() {
				t.Fatalf("%d times %v: %x", k, s, got)
			}
			sum = sum.add(s)
		}
	}
}

// TestP51Mul has the numbers as they stand: no rest is taken, as the small points show.
func TestP51Mul(t *testing.T) {
	list := smalls()
	for _, s := range []spot{nought(), list[1], list[4], base(), base().add(list[1]), others(1)[0]} {
		doubles := s.doubles()
		for _, k := range counts() {
			if got := Mul(num(k), s.point()); got != times(k, doubles).point() {
				t.Fatalf("%x times %v: %x", k, s, got)
			}
		}
	}
	if Mul(num(order), list[1].point()) != list[5].point() || Mul(num(full), list[1].point()) != list[7].point() {
		t.Error("a number was taken modulo L")
	}
}

// TestP51MulOfEachBit has the powers of two, one by one.
func TestP51MulOfEachBit(t *testing.T) {
	s := others(2)[1]
	for i, want := range s.doubles() {
		k := num(power(uint(i)))
		if got := Mul(k, s.point()); got != want.point() {
			t.Fatalf("2^%d times %v: %x", i, s, got)
		}
		if Mul2(k, s.point(), api.Num{}, Base()) != want.point() || Mul2(api.Num{}, Base(), k, s.point()) != want.point() {
			t.Fatalf("2^%d times %v, and nought", i, s)
		}
	}
}

func TestP51Mul2(t *testing.T) {
	list := smalls()
	pairs := [][2]spot{{base(), others(1)[0]}, {base(), base()}, {base(), base().neg()}, {nought(), base()}, {others(1)[0], nought()}, {list[1], list[3]}, {nought(), nought()}, {base().add(list[2]), list[6]}}
	numbers := counts()
	for i, pair := range pairs {
		first, second := pair[0].doubles(), pair[1].doubles()
		for k := range numbers {
			a, b := numbers[k], numbers[(k*7+i)%len(numbers)]
			if got := Mul2(num(a), pair[0].point(), num(b), pair[1].point()); got != times(a, first).add(times(b, second)).point() {
				t.Fatalf("%x times %v and %x times %v: %x", a, pair[0], b, pair[1], got)
			}
		}
	}
}

// TestP51Mul2OfFew has each pair of bits, each way round.
func TestP51Mul2OfFew(t *testing.T) {
	s, u := others(2)[0], others(2)[1]
	first := nought()
	for a := range 8 {
		second := nought()
		for b := range 8 {
			if got := Mul2(api.Num{byte(a)}, s.point(), api.Num{byte(b)}, u.point()); got != first.add(second).point() {
				t.Fatalf("%d times one, %d times another: %x", a, b, got)
			}
			second = second.add(u)
		}
		first = first.add(s)
	}
}

func TestP52Bytes(t *testing.T) {
	odd := 0
	for _, s := range append(points(), others(60)...) {
		want := [32]byte(num(s.y))
		want[31] |= byte(s.x.Bit(0)) << 7
		if b, e := Bytes(s.point()); e != api.OK || b != want {
			t.Errorf("Bytes of %v: %x, %d", s, b, e)
		}
		if want[31] >= 128 {
			odd++
		}
	}
	if odd < 20 || odd > 57 {
		t.Errorf("%d points of which X is Odd", odd)
	}
}

func readsAs(t *testing.T, b [32]byte) bool {
	t.Helper()
	y := b
	y[31] &= 127
	s, ok := read(number(y), uint(b[31]>>7))
	got, e := Read(b)
	if !ok {
		if e != api.ErrBad || got != (api.Point{}) {
			t.Errorf("Read of %x, which are no point's bytes: %x, %d", b, got, e)
		}
		return false
	}
	if e != api.OK || got != s.point() {
		t.Errorf("Read of %x: %x, %d", b, got, e)
	}
	if back, e := Bytes(got); e != api.OK || back != b {
		t.Errorf("Bytes of what was read from %x: %x, %d", b, back, e)
	}
	return true
}

// bothBits has the bytes of one Y, with the bit and without.
func bothBits(y *big.Int) [][32]byte {
	b := [32]byte(num(y))
	c := b
	c[31] |= 128
	return [][32]byte{b, c}
}

func TestP52Read(t *testing.T) {
	good := 0
	for i := range 300 {
		b := thrown(i)
		if readsAs(t, b) {
			good++
		}
		b[31] ^= 128
		readsAs(t, b)
	}
	if good < 100 || good > 200 {
		t.Errorf("%d of 300 are a point's bytes", good)
	}
	for i := range int64(200) {
		for _, y := range []*big.Int{big.NewInt(i), more(p, -1-i), more(power(254), i-100)} {
			for _, b := range bothBits(y) {
				readsAs(t, b)
			}
		}
	}
}

// TestP52ReadOfNotCanonical has each Y from p to 2^255 - 1: some stand for a point's Y, and are refused.
func TestP52ReadOfNotCanonical(t *testing.T) {
	stands := 0
	for i := range int64(19) {
		for odd, b := range bothBits(more(p, i)) {
			if got, e := Read(b); e != api.ErrBad || got != (api.Point{}) {
				t.Errorf("Read of %x: %x, %d", b, got, e)
			}
			if _, ok := read(big.NewInt(i), uint(odd)); ok {
				stands++
			}
		}
	}
	if stands < 10 {
		t.Errorf("only %d would be points", stands)
	}
}

func TestP52ReadOfXNought(t *testing.T) {
	for _, y := range []*big.Int{one, more(p, -1)} {
		both := bothBits(y)
		if got, e := Read(both[0]); e != api.OK || got != (api.Point{Y: num(y)}) {
			t.Errorf("Read of %x: %x, %d", both[0], got, e)
		}
		if got, e := Read(both[1]); e != api.ErrBad || got != (api.Point{}) {
			t.Errorf("Read of %x: %x, %d", both[1], got, e)
		}
	}
}

func TestP52ReadOfNoX(t *testing.T) {
	for _, b := range bothBits(big.NewInt(2)) {
		if _, ok := read(big.NewInt(2), 0); ok {
			t.Fatal("there is an X to 2")
		}
		if got, e := Read(b); e != api.ErrBad || got != (api.Point{}) {
			t.Errorf("Read of 2: %x, %d", got, e)
		}
	}
}

func TestP52Small(t *testing.T) {
	list := smalls()
	for i, s := range list {
		if !Small(s.point()) {
			t.Errorf("%d times a point of order 8 is not Small", i)
		}
		for _, k := range list[:i] {
			if k.point() == s.point() {
				t.Errorf("only %d small points", i)
			}
		}
	}
	for _, s := range append(others(30), base(), base().neg()) {
		for _, u := range list {
			if s = s.add(u); Small(s.point()) {
				t.Errorf("%v is Small", s)
			}
		}
	}
	doubles := base().doubles()
	for _, k := range []int64{2, 4, 8, 16} {
		if Small(times(big.NewInt(k), doubles).point()) {
			t.Errorf("%d times the base is Small", k)
		}
	}
}

func TestP53AnyOrder(t *testing.T) {
	var list []api.Point
	for _, s := range points() {
		list = append(list, s.point())
	}
	for _, a := range list {
		if Add(a, Zero()) != a || Add(Zero(), a) != a || Add(a, Neg(a)) != Zero() || Check(a) != api.OK {
			t.Fatalf("%x and nought", a)
		}
		for _, b := range list {
			sum := Add(a, b)
			if sum != Add(b, a) || Add(sum, Neg(b)) != a || Check(sum) != api.OK || Neg(sum) != Add(Neg(a), Neg(b)) {
				t.Fatalf("%x and %x in another order", a, b)
			}
			for _, c := range list[5:12] {
				if Add(sum, c) != Add(a, Add(b, c)) {
					t.Fatalf("%x, %x, %x by other parts", a, b, c)
				}
			}
		}
	}
}

func TestP53MulByParts(t *testing.T) {
	list := []api.Point{Base(), smalls()[1].point(), others(1)[0].point(), base().add(smalls()[3]).point()}
	for i, q := range list {
		r := list[(i+1)%len(list)]
		for k := range 12 {
			a, b := number(thrown(k)), number(thrown(k+100))
			a.Rsh(a, 1)
			b.Rsh(b, 1)
			whole := Mul(num(and(a, b)), q)
			if whole != Add(Mul(num(a), q), Mul(num(b), q)) || whole != Mul2(num(a), q, num(b), q) {
				t.Fatalf("%x and %x times %x by parts", a, b, q)
			}
			if Mul(num(a), Add(q, r)) != Add(Mul(num(a), q), Mul(num(a), r)) || Mul2(num(a), q, num(b), r) != Mul2(num(b), r, num(a), q) {
				t.Fatalf("%x times the sum of %x and %x", a, q, r)
			}
			if Mul(num(a), Neg(q)) != Neg(Mul(num(a), q)) || Mul2(num(a), q, num(a), Neg(q)) != Zero() {
				t.Fatalf("%x times the negative of %x", a, q)
			}
		}
	}
}

func TestP53Order(t *testing.T) {
	l := num(order)
	if Mul(l, Base()) != Zero() || Mul(num(more(order, -1)), Base()) != Neg(Base()) || Mul(num(more(order, 1)), Base()) != Base() {
		t.Error("L times the base")
	}
	for i, s := range others(10) {
		if !Small(Mul(l, s.point())) || Mul(num(new(big.Int).Lsh(order, 3)), s.point()) != Zero() {
			t.Errorf("point %d: L times it is not Small", i)
		}
	}
}

// TestP53BytesAreOnesOwn: bytes changed in any bit are another point's, or nobody's.
func TestP53BytesAreOnesOwn(t *testing.T) {
	for _, s := range append(others(2), nought(), base()) {
		b, _ := Bytes(s.point())
		for i := range 256 {
			c := b
			c[i/8] ^= 1 << (i % 8)
			readsAs(t, c)
			if got, e := Read(c); e == api.OK && got == s.point() {
				t.Errorf("%x and %x are read as one", b, c)
			}
		}
		if b[31] ^= 128; s.x.Sign() != 0 {
			if got, e := Read(b); e != api.OK || got != Neg(s.point()) {
				t.Errorf("Read of the negative's bytes: %x, %d", got, e)
			}
		}
	}
}

// TestKeys holds multiples of the base against keys of the library, and of RFC 8032's first example.
func TestKeys(t *testing.T) {
	seeds := [][32]byte{}
	first, _ := hex.DecodeString("9d61b19deffd5a60ba844af492ec2cc44449c5697b326919703bac031cae7f60")
	seeds = append(seeds, [32]byte(first))
	for i := range 20 {
		seeds = append(seeds, thrown(i))
	}
	for i, seed := range seeds {
		h := sha512.Sum512(seed[:])
		secret := api.Num(h[:32])
		secret[0] &= 248
		secret[31] = secret[31]&127 | 64
		got, e := Bytes(Mul(secret, Base()))
		if want := ed25519.NewKeyFromSeed(seed[:]).Public().(ed25519.PublicKey); e != api.OK || !bytes.Equal(got[:], want) {
			t.Errorf("the key of %x: %x, %d, want %x", seed, got, e, want)
		}
		if i == 0 && hex.EncodeToString(got[:8]) != "d75a980182b10ab7" {
			t.Errorf("the key of RFC 8032's first example: %x", got)
		}
	}
}

func TestExamples(t *testing.T) {
	want := [32]byte(bytes.Repeat([]byte{0x66}, 32))
	want[0] = 0x58
	if b, e := Bytes(Base()); e != api.OK || b != want {
		t.Errorf("Bytes of Base: %x, %d", b, e)
	}
	if q, e := Read(want); e != api.OK || q != Base() {
		t.Errorf("Read of the base's bytes: %x, %d", q, e)
	}
	if q, e := Read([32]byte{0: 1, 31: 128}); e != api.ErrBad || q != (api.Point{}) {
		t.Errorf("Read of 1, then 30 noughts, 128: %x, %d", q, e)
	}
}

// TestT6AnyArguments: every call ends at whatever bytes, and what it answers is a point or nothing.
func TestT6AnyArguments(t *testing.T) {
	for i := range 60 {
		a, b := api.Num(thrown(i)), api.Num(thrown(i+1))
		q := api.Point{X: api.Num(thrown(i + 2)), Y: api.Num(thrown(i + 3))}
		if Check(q) != api.ErrArg || Add(q, Base()) != Zero() || Neg(q) != Zero() || Mul(a, q) != Zero() || Mul2(a, q, b, Base()) != Zero() || Small(q) {
			t.Errorf("of %x, which is no point", q)
		}
		r, e := Read(q.Y)
		if (e == api.OK) != (Check(r) == api.OK) {
			t.Errorf("Read of %x: %x, %d", q.Y, r, e)
		}
		if sum := Mul2(a, r, b, r); Check(sum) != api.OK {
			t.Errorf("Mul2 of %x: %x", r, sum)
		}
	}
}
