package curve

import (
	"bytes"
	"crypto/ed25519"
	"crypto/sha512"
	"math/big"
	"math/rand"
	"testing"

	"pawl/field"
)

// pair is a point by its two numbers.
type pair struct{ x, y *big.Int }

func mod(n *big.Int) *big.Int { return n.Mod(n, modulus()) }

func product(l ...*big.Int) *big.Int {
	out := whole(1)
	for _, n := range l {
		out = mod(out.Mul(out, n))
	}
	return out
}

func plus(a, b *big.Int) *big.Int { return mod(new(big.Int).Add(a, b)) }

func minus(a *big.Int) *big.Int { return mod(new(big.Int).Neg(a)) }

func inverse(a *big.Int) *big.Int { return new(big.Int).ModInverse(a, modulus()) }

// twist is the curve's d.
func twist() *big.Int { return product(whole(-121665), inverse(whole(121666))) }

func (p pair) on() bool {
	left := plus(minus(product(p.x, p.x)), product(p.y, p.y))
	return left.Cmp(plus(whole(1), product(twist(), p.x, p.x, p.y, p.y))) == 0
}

// sum is written as the document writes it.
func (p pair) sum(q pair) pair {
	turn := product(twist(), p.x, q.x, p.y, q.y)
	return pair{
		product(plus(product(p.x, q.y), product(p.y, q.x)), inverse(plus(whole(1), turn))),
		product(plus(product(p.y, q.y), product(p.x, q.x)), inverse(plus(whole(1), minus(turn)))),
	}
}

func (p pair) equals(q pair) bool { return p.x.Cmp(q.x) == 0 && p.y.Cmp(q.y) == 0 }

// tell returns the two numbers of a point, and sees that all four of its parts agree.
func tell(t *testing.T, what string, p Point) pair {
	t.Helper()
	if field.Zero(p.Z) || !field.Same(field.Mul(p.T, p.Z), field.Mul(p.X, p.Y)) {
		t.Fatalf("%s: the parts of %x do not agree", what, p)
	}
	over := field.Inv(p.Z)
	out := pair{value(field.Mul(p.X, over)), value(field.Mul(p.Y, over))}
	if !out.on() {
		t.Fatalf("%s: %v, %v is not on the curve", what, out.x, out.y)
	}
	return out
}

func read(s string) Point {
	p, ok := Read(plain(s))
	if !ok {
		panic("no point has the bytes " + s)
	}
	return p
}

// eighth is a point that 8 times is Origin, and no fewer times.
func eighth() Point {
	return read("c7176a703d4dd84fba3c0b760d10670f2a2053fa2c39ccc64ec7fd7792ac037a")
}

// several has points of all small orders, multiples of Start, and sums of both.
func several() []Point {
	l := []Point{Origin()}
	for range 7 {
		l = append(l, Add(l[len(l)-1], eighth()))
	}
	source := rand.New(rand.NewSource(13))
	for i := range 16 {
		var n [32]byte
		source.Read(n[:])
		p := Times(Start(), n)
		l = append(l, p)
		if i%2 == 1 {
			l = append(l, Add(p, l[i%8]), Neg(p))
		}
	}
	return append(l, Start(), Neg(Start()))
}

func TestOriginAndStart(t *testing.T) {
	if p := tell(t, "Origin", Origin()); p.x.Sign() != 0 || p.y.Cmp(whole(1)) != 0 {
		t.Errorf("Origin = %v", p)
	}
	p := tell(t, "Start", Start())
	if p.y.Cmp(product(whole(4), inverse(whole(5)))) != 0 || p.x.Bit(0) != 0 {
		t.Errorf("Start = %v", p)
	}
	same(t, "Bytes of Start", Bytes(Start()), "5866666666666666666666666666666666666666666666666666666666666666")
	same(t, "Bytes of Origin", Bytes(Origin()), "0100000000000000000000000000000000000000000000000000000000000000")
}

// heights has numbers that are the y of a point, and others.
func heights() []*big.Int {
	p := modulus()
	l := []*big.Int{new(big.Int).Sub(p, whole(1)), new(big.Int).Sub(p, whole(2)), product(whole(4), inverse(whole(5)))}
	for i := range int64(20) {
		l = append(l, whole(i))
	}
	source := rand.New(rand.NewSource(17))
	for range 40 {
		l = append(l, new(big.Int).Rand(source, p))
	}
	return l
}

func TestAt(t *testing.T) {
	var some, none int
	for _, y := range heights() {
		over := plus(product(y, y), whole(-1))
		under := plus(whole(1), product(twist(), y, y))
		x := new(big.Int).ModSqrt(product(over, inverse(under)), modulus())
		for _, odd := range []bool{false, true} {
			p, ok := At(elem(y), odd)
			if x == nil || x.Sign() == 0 && odd {
				none++
				if ok || p != (Point{}) {
					t.Errorf("At(%v, %v) = %v, %v, but there is none", y, odd, p, ok)
				}
				continue
			}
			some++
			want := pair{x, y}
			if (x.Bit(0) == 1) != odd {
				want.x = minus(x)
			}
			if got := tell(t, "At", p); !ok || !got.equals(want) {
				t.Errorf("At(%v, %v) = %v, %v, not %v", y, odd, got, ok, want)
			}
		}
	}
	if some < 20 || none < 20 {
		t.Errorf("too few of a kind: %d, %d", some, none)
	}
}

func TestAtWithoutX(t *testing.T) {
	for _, y := range []field.Elem{field.Num(1), field.Neg(field.Num(1))} {
		if p, ok := At(y, true); ok || p != (Point{}) {
			t.Errorf("0 is not odd: %v, %v", p, ok)
		}
		p, ok := At(y, false)
		if got := tell(t, "At", p); !ok || got.x.Sign() != 0 || got.y.Cmp(value(y)) != 0 {
			t.Errorf("At = %v, %v", got, ok)
		}
	}
}

func TestAdd(t *testing.T) {
	l := several()
	for _, p := range l {
		for _, q := range l {
			got := tell(t, "Add", Add(p, q))
			if want := tell(t, "p", p).sum(tell(t, "q", q)); !got.equals(want) {
				t.Fatalf("Add(%x, %x) = %v, not %v", Bytes(p), Bytes(q), got, want)
			}
		}
		if !Same(Add(p, Origin()), p) || !Same(Add(Origin(), p), p) {
			t.Errorf("%x and Origin", Bytes(p))
		}
		if !Same(Add(p, Neg(p)), Origin()) {
			t.Errorf("%x and its negative", Bytes(p))
		}
	}
}

func TestNeg(t *testing.T) {
	for _, p := range several() {
		was, got := tell(t, "p", p), tell(t, "Neg", Neg(p))
		if !got.equals(pair{minus(was.x), was.y}) {
			t.Errorf("Neg of %v = %v", was, got)
		}
		if !Same(Neg(Neg(p)), p) {
			t.Errorf("Neg twice of %v", was)
		}
	}
}

func TestTimesSmall(t *testing.T) {
	for _, p := range several() {
		sum := Origin()
		for i := range 40 {
			got := Times(p, [32]byte{byte(i)})
			tell(t, "Times", got)
			if !Same(got, sum) {
				t.Fatalf("%x times %d = %x", Bytes(p), i, Bytes(got))
			}
			sum = Add(sum, p)
		}
	}
}

// TestTimesBits sees that each of the 256 bits counts what it should.
func TestTimesBits(t *testing.T) {
	p := Add(Start(), eighth())
	for i := range 256 {
		var n [32]byte
		n[i/8] = 1 << (i % 8)
		if !Same(Times(Add(Start(), eighth()), n), p) {
			t.Fatalf("the bit %d", i)
		}
		p = Add(p, p)
	}
	var most [32]byte
	for i := range most {
		most[i] = 0xff
	}
	if !Same(Add(Times(Start(), most), Start()), Times(Start(), little(new(big.Int).Mod(new(big.Int).Lsh(whole(1), 256), order())))) {
		t.Error("the greatest number")
	}
}

func TestTimesOrder(t *testing.T) {
	n := order()
	next := new(big.Int).Add(n, whole(1))
	if !Same(Times(Start(), little(n)), Origin()) || !Same(Times(Start(), little(next)), Start()) {
		t.Error("Start times the order")
	}
	// The number is not to be taken modulo the order: this point has another one.
	if Same(Times(eighth(), little(n)), Origin()) || !Same(Times(eighth(), [32]byte{8}), Origin()) || Same(Times(eighth(), [32]byte{4}), Origin()) {
		t.Error("a point of order 8")
	}
	for _, p := range several() {
		if !Same(Times(p, [32]byte{}), Origin()) || !Same(Times(p, little(new(big.Int).Lsh(n, 3))), Origin()) {
			t.Errorf("%x times 0, or times 8 orders", Bytes(p))
		}
	}
}

// TestTimesKnown is held against the Go library: what it tells of a key is a multiple of Start.
func TestTimesKnown(t *testing.T) {
	for i := range 20 {
		seed := bytes.Repeat([]byte{byte(i)}, ed25519.SeedSize)
		wide := sha512.Sum512(seed)
		want := ed25519.NewKeyFromSeed(seed).Public().(ed25519.PublicKey)
		if got := Bytes(Times(Start(), Clamp(wide[:]))); !bytes.Equal(got, want) {
			t.Errorf("Times = %x, not %x", got, want)
		}
	}
}

func TestSame(t *testing.T) {
	l := several()
	for _, p := range l {
		// The same point, come by in another way.
		again := Add(Add(p, Start()), Neg(Start()))
		if !Same(p, again) || !Same(again, p) {
			t.Errorf("%x is not itself", Bytes(p))
		}
		for _, q := range l {
			if want := tell(t, "p", p).equals(tell(t, "q", q)); Same(p, q) != want {
				t.Errorf("Same(%x, %x) = %v", Bytes(p), Bytes(q), !want)
			}
		}
	}
	// -x, -y: the sum with the point 0, -1.
	lower, _ := At(field.Neg(field.Num(1)), false)
	across := Add(Start(), lower)
	if Same(Start(), Neg(Start())) || Same(Start(), across) || Same(Start(), Neg(across)) || Same(Origin(), lower) {
		t.Error("points of which one number is the same")
	}
}

func TestBytes(t *testing.T) {
	for _, p := range several() {
		is := tell(t, "p", p)
		want := little(is.y)
		if is.x.Bit(0) == 1 {
			want[31] |= 0x80
		}
		if got := Bytes(p); !bytes.Equal(got, want[:]) {
			t.Errorf("Bytes = %x, not %x", got, want)
		}
	}
}

func TestRead(t *testing.T) {
	for _, p := range several() {
		got, ok := Read(Bytes(p))
		tell(t, "Read", got)
		if !ok || !Same(got, p) {
			t.Errorf("Read(%x) = %x, %v", Bytes(p), Bytes(got), ok)
		}
	}
	for _, y := range heights() {
		for _, odd := range []bool{false, true} {
			b := little(y)
			if odd {
				b[31] |= 0x80
			}
			want, is := At(elem(y), odd)
			got, ok := Read(b[:])
			if ok != is || ok && !Same(got, want) || !ok && got != (Point{}) {
				t.Errorf("Read(%x) = %v, %v", b, got, ok)
			}
		}
	}
}

// TestReadBeyond has numbers from the modulus on, of which those below have points.
func TestReadBeyond(t *testing.T) {
	some := 0
	for i := range int64(19) {
		for _, bit := range []byte{0, 0x80} {
			b := little(new(big.Int).Add(modulus(), whole(i)))
			b[31] |= bit
			if p, ok := Read(b[:]); ok || p != (Point{}) {
				t.Errorf("Read(%x) = %v, %v", b, p, ok)
			}
			if _, ok := At(field.Num(uint32(i)), bit != 0); ok {
				some++
			}
		}
	}
	if some < 10 {
		t.Errorf("only %d of them have a point", some)
	}
}

func TestReadWithoutX(t *testing.T) {
	for _, s := range []string{
		"0100000000000000000000000000000000000000000000000000000000000080",
		"ecffffffffffffffffffffffffffffffffffffffffffffffffffffffffffffff",
	} {
		if p, ok := Read(plain(s)); ok || p != (Point{}) {
			t.Errorf("Read(%s) = %v, %v, but 0 is not odd", s, p, ok)
		}
	}
}

func TestReadOtherLengths(t *testing.T) {
	long := append(Bytes(Start()), make([]byte, 40)...)
	for n := range long {
		if p, ok := Read(long[:n]); ok != (n == 32) || !ok && p != (Point{}) {
			t.Errorf("Read of %d bytes = %v, %v", n, p, ok)
		}
	}
	if p, ok := Read(nil); ok || p != (Point{}) {
		t.Errorf("Read(nil) = %v, %v", p, ok)
	}
}
