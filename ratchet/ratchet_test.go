package ratchet

import (
	"bytes"
	"crypto/ecdh"
	"crypto/hkdf"
	"crypto/sha256"
	"encoding/hex"
	"math"
	"slices"
	"strconv"
	"testing"

	"pawl/api"
	"pawl/chain"
	"pawl/prim"
	"pawl/term"
	"pawl/wire"
)

var modes = []byte{api.Real, api.Terms}

var with = []byte("with")

// start returns a Prim of a mode.
func start(t *testing.T, mode byte) *prim.Prim {
	t.Helper()
	p, e := prim.New(mode, []byte("seed"))
	if e != api.OK {
		t.Fatalf("New(%d): %d", mode, e)
	}
	return p
}

func plain(s string) []byte {
	p, err := hex.DecodeString(s)
	if err != nil {
		panic(err)
	}
	return p
}

func expectBytes(t *testing.T, what string, got, want []byte) {
	t.Helper()
	if !bytes.Equal(got, want) {
		t.Errorf("%s = %x, not %x", what, got, want)
	}
}

func laid(s State) []byte {
	var w wire.Writer
	Lay(&w, s)
	return w.Done()
}

// expectState compares by Lay too: it does not rely on Same.
func expectState(t *testing.T, what string, got, want State) {
	t.Helper()
	if !Same(got, want) || !bytes.Equal(laid(got), laid(want)) {
		t.Errorf("%s = %v, not %v", what, got, want)
	}
}

// message is a sealed one, on its way.
type message struct {
	head   api.Head
	sealed []byte
	text   string
}

// talk is a test's two parties. The first one sends first.
type talk struct {
	*testing.T
	p     *prim.Prim
	sides [2]State
}

func begin(t *testing.T, mode byte) *talk {
	t.Helper()
	p := start(t, mode)
	own, secret := p.Fresh(), p.Fresh()
	return &talk{t, p, [2]State{Begin(p, secret, p.Public(own)), Await(secret, own)}}
}

// seal lets a side seal a text.
func (k *talk) seal(side int, text string) message {
	k.Helper()
	s, h, sealed, e := Seal(k.p, k.sides[side], with, []byte(text))
	if e != api.OK {
		k.Fatalf("Seal of %q: %d", text, e)
	}
	k.sides[side] = s
	return message{h, sealed, text}
}

// several lets a side seal n texts.
func (k *talk) several(side, n int) []message {
	k.Helper()
	all := make([]message, n)
	for i := range all {
		all[i] = k.seal(side, "text "+strconv.Itoa(i))
	}
	return all
}

// open lets a side open messages, which must succeed.
func (k *talk) open(side int, all ...message) {
	k.Helper()
	for _, m := range all {
		s, text, e := Open(k.p, k.sides[side], with, m.head, m.sealed)
		if e != api.OK || string(text) != m.text {
			k.Fatalf("Open of %q: %q, %d", m.text, text, e)
		}
		k.sides[side] = s
	}
}

// refuse lets a side open a message, which must fail with that error and change nothing.
func (k *talk) refuse(side int, m message, want api.Errno) {
	k.Helper()
	s := k.sides[side]
	before, made := laid(s), k.p.Made()
	got, text, e := Open(k.p, s, with, m.head, m.sealed)
	if e != want || len(text) != 0 {
		k.Errorf("Open of %q, which is to be refused: %q, %d, not %d", m.text, text, e, want)
	}
	expectState(k.T, "the state after a refusal", got, s)
	expectBytes(k.T, "the state given to Open", laid(s), before)
	if k.p.Made() != made {
		k.Errorf("what was refused has made %d keys", k.p.Made()-made)
	}
}

// exchange lets both sides send a message, so that both have turned.
func (k *talk) exchange() {
	k.Helper()
	k.open(1, k.seal(0, "there"))
	k.open(0, k.seal(1, "and back"))
}

// turn is a ratchet step as the chapter says it, by prim alone.
func turn(p *prim.Prim, root, secret, public []byte) ([]byte, chain.Chain) {
	keys := p.Derive(root, [][]byte{p.Agree(secret, public)}, "root", 2)
	return keys[0], chain.Chain{Key: keys[1]}
}

func TestBegin(t *testing.T) {
	for _, mode := range modes {
		p := start(t, mode)
		secret, their := p.Fresh(), p.Public(p.Fresh())
		got := Begin(p, secret, their)
		if p.Made() != 3 {
			t.Errorf("Begin has made %d keys", p.Made()-2)
		}
		other := start(t, mode)
		other.Fresh()
		other.Public(other.Fresh())
		want := State{Own: other.Fresh(), Their: their}
		want.Root, want.Send = turn(p, secret, want.Own, their)
		expectState(t, "Begin", got, want)
		expectStore(t, got)
	}
}

// TestBeginReal holds Begin against the Go library.
func TestBeginReal(t *testing.T) {
	p := start(t, api.Real)
	secret, their := p.Fresh(), p.Public(p.Fresh())
	s := Begin(p, secret, their)
	own, err := ecdh.X25519().NewPrivateKey(s.Own)
	if err != nil {
		t.Fatal(err)
	}
	public, err := ecdh.X25519().NewPublicKey(their)
	if err != nil {
		t.Fatal(err)
	}
	both, err := own.ECDH(public)
	if err != nil {
		t.Fatal(err)
	}
	want, err := hkdf.Key(sha256.New, both, secret, "root", 64)
	if err != nil {
		t.Fatal(err)
	}
	expectBytes(t, "the Root of Begin", s.Root, want[:32])
	expectBytes(t, "the chain key of Begin", s.Send.Key, want[32:])
}

func TestBeginTerms(t *testing.T) {
	p := start(t, api.Terms)
	table := p.Table()
	secret, other := p.Fresh(), p.Fresh()
	s := Begin(p, secret, p.Public(other))
	both := table.Agree(table.Read(s.Own), table.Read(p.Public(other)))
	for i, got := range [][]byte{s.Root, s.Send.Key} {
		at, ok := table.Find(term.Term{Kind: term.Derive, Of: []int{table.Read(secret), both}, Text: "root", N: i})
		if !ok {
			t.Fatalf("there is no Derive root with the N %d", i)
		}
		expectBytes(t, "a key of Begin", got, term.Bytes(at))
	}
}

func TestAwait(t *testing.T) {
	for _, secret := range [][]byte{nil, []byte("secret")} {
		for _, own := range [][]byte{nil, []byte("own")} {
			got := Await(secret, own)
			expectState(t, "Await", got, State{Own: own, Root: secret})
			expectStore(t, got)
		}
	}
}

// expectStore: a caller can put keys into the store of s.
func expectStore(t *testing.T, s State) {
	t.Helper()
	s.Skips.Put(chain.Skip{N: 1})
	if s.Skips.Len() != 1 {
		t.Error("the state has no store")
	}
}

func TestBytes(t *testing.T) {
	for _, r := range []struct {
		h    api.Head
		want string
	}{
		{api.Head{}, "00000000" + "00000000" + "00000000"},
		{api.Head{Key: []byte("ab"), Prev: 0x01020304, N: 0x05060708}, "00000002" + "6162" + "01020304" + "05060708"},
		{api.Head{Key: make([]byte, 32), Prev: math.MaxUint32, N: 1}, "00000020" + "0000000000000000000000000000000000000000000000000000000000000000" + "ffffffff" + "00000001"},
		{api.Head{Key: bytes.Repeat([]byte{7}, 258), N: math.MaxUint32}, "00000102" + hex.EncodeToString(bytes.Repeat([]byte{7}, 258)) + "00000000" + "ffffffff"},
	} {
		expectBytes(t, "Bytes", Bytes(r.h), plain(r.want))
	}
}

func TestWith(t *testing.T) {
	expectBytes(t, "With of nothing", With(nil, api.Head{}), plain("00000000"+"0000000c"+"000000000000000000000000"))
	h := api.Head{Key: []byte("k"), Prev: 2, N: 3}
	expectBytes(t, "With", With([]byte("ab"), h), plain("00000002"+"6162"+"0000000d"+"00000001"+"6b"+"00000002"+"00000003"))
}

func TestSeal(t *testing.T) {
	for _, mode := range modes {
		k := begin(t, mode)
		k.exchange()
		k.several(0, 2)
		k.exchange() // now Prev is 3
		for n := range uint32(5) {
			s := k.sides[0]
			if s.Send.N != n || s.Prev != 3 {
				t.Fatalf("the state before the message %d has N %d, Prev %d", n, s.Send.N, s.Prev)
			}
			before, made := laid(s), k.p.Made()
			next, h, sealed, e := Seal(k.p, s, with, []byte("text"))
			want := api.Head{Key: k.p.Public(s.Own), Prev: 3, N: n}
			if e != api.OK || !bytes.Equal(h.Key, want.Key) || h.Prev != want.Prev || h.N != want.N {
				t.Errorf("Seal: %v, %d, not %v", h, e, want)
			}
			key, send := chain.Step(k.p, s.Send)
			expectBytes(t, "what is sealed", sealed, k.p.Seal(key, With(with, want), []byte("text")))
			expected := Copy(s)
			expected.Send = send
			expectState(t, "the state after Seal", next, expected)
			expectBytes(t, "the state given to Seal", laid(s), before)
			if k.p.Made() != made {
				t.Errorf("Seal has made %d keys", k.p.Made()-made)
			}
			k.sides[0] = next
		}
	}
}

func TestSealOfNothing(t *testing.T) {
	for _, mode := range modes {
		k := begin(t, mode)
		s, h, sealed, e := Seal(k.p, k.sides[0], nil, nil)
		if e != api.OK {
			t.Fatalf("Seal: %d", e)
		}
		next, text, e := Open(k.p, k.sides[1], nil, h, sealed)
		if e != api.OK || len(text) != 0 || next.Take.N != 1 || s.Send.N != 1 {
			t.Errorf("Open: %q, %d", text, e)
		}
	}
}

// TestSealWithoutChain: who awaits can't send before it has opened a message.
func TestSealWithoutChain(t *testing.T) {
	for _, mode := range modes {
		k := begin(t, mode)
		refused := func(p *prim.Prim, s State) {
			t.Helper()
			before := laid(s)
			got, h, sealed, e := Seal(p, s, with, []byte("text"))
			if e != api.ErrNone || len(h.Key) != 0 || h.Prev != 0 || h.N != 0 || len(sealed) != 0 {
				t.Errorf("Seal: %v, %x, %d", h, sealed, e)
			}
			expectState(t, "the state of an error", got, State{})
			expectBytes(t, "the state given to Seal", laid(s), before)
		}
		refused(k.p, k.sides[1])
		refused(k.p, State{})
		refused(nil, State{})
		m := k.seal(0, "text")
		k.refuse(1, message{m.head, []byte("no text"), m.text}, api.ErrAuth)
		refused(k.p, k.sides[1])
		k.open(1, m)
		k.seal(1, "text")
	}
}

func TestThereAndBack(t *testing.T) {
	for _, mode := range modes {
		k := begin(t, mode)
		for range 5 {
			k.exchange()
		}
		k.open(1, k.several(0, 3)...)
		k.open(1, k.several(0, 3)...)
		k.open(0, k.several(1, 3)...)
	}
}

// TestTalkKnown has values of another program.
func TestTalkKnown(t *testing.T) {
	k := begin(t, api.Real)
	expectSum := func(what string, s State, want string) {
		t.Helper()
		sum := sha256.Sum256(laid(s))
		expectBytes(t, "the digest of "+what, sum[:], plain(want))
	}
	expectSum("Begin", k.sides[0], "b0a6d98bb16f34a549fc043d666b6072315ee78f2f97a6f41d353784bbbfa0c3")
	expectSum("Await", k.sides[1], "04f6ec7b8c782ad2c2861a4f080e157552c4f882051ce554759fc8cfaf35360e")
	expectBytes(t, "the Root of Begin", k.sides[0].Root, plain("7c905ea1e95b135b61cab92d582a0fdbe363a2fa199476d7fb318667cd6cd897"))
	expectBytes(t, "the chain key of Begin", k.sides[0].Send.Key, plain("1e0dd49b95b6238017885491a78119fea43de0a2896a82e33e3f81d2f599c08c"))
	one := k.seal(0, "one")
	expectBytes(t, "the first head", Bytes(one.head), plain("00000020aee7180631c477bfdfa7dc5e6a1c79884467eb5f38ad8d4d59a3d34e9032b9320000000000000000"))
	expectBytes(t, "the first message", one.sealed, plain("ca5a8d0ee0d36f26721a95ba361a9710fd938c"))
	k.open(1, one)
	two, _, four, five := k.seal(0, "two"), k.seal(0, "three"), k.seal(0, "four"), k.seal(0, "five")
	k.open(1, four)
	b1, _, b3 := k.seal(1, "b1"), k.seal(1, "b2"), k.seal(1, "b3")
	k.open(0, b3)
	k.open(1, two)
	six, seven := k.seal(0, "six"), k.seal(0, "seven")
	k.open(1, seven)
	k.open(0, b1)
	k.open(0, k.seal(1, "b4"))
	k.open(1, five, six)
	eight := k.seal(0, "eight")
	k.open(1, eight)
	expectBytes(t, "the last head", Bytes(eight.head), plain("000000205c8828e1985971bbdc00e430a7a1d42e35585564b6ad20baa602aa5c24554d4c0000000200000000"))
	expectBytes(t, "the last message", eight.sealed, plain("fce819835af66f1aa8650f46ab0842e87c743723e1"))
	expectSum("the first side", k.sides[0], "2baa235f5bb50f7ee190d49c16e4f09d56f76ddffae67dfcfe4c5887f0061aa7")
	expectSum("the second side", k.sides[1], "57613908281671d28697caedd2ad604615533b36d266cd2921aad43ada3d0a09")
	if k.p.Made() != 8 {
		t.Errorf("%d keys were made", k.p.Made())
	}
}

// walk lets both sides seal, lose, open, open once more and open what was changed, by dice.
type walk struct {
	dice                        uint32
	sides, sends, ahead, b1, b2 int
}

func (x *walk) throw(n int) int {
	x.dice = (x.dice*1103515245 + 12345) % (1 << 31)
	return int(x.dice>>16) % n
}

// run returns the digest of all states and errors on the way, and how often each error came.
func (x *walk) run(k *talk) ([]byte, map[api.Errno]int) {
	trail, errors := sha256.New(), make(map[api.Errno]int)
	var sent [2][]message
	var reach [2]int
	for range 3000 {
		who := x.throw(2)
		if x.throw(x.sides) < x.sends {
			text := "text " + strconv.Itoa(len(sent[who]))
			s, h, sealed, e := Seal(k.p, k.sides[who], with, []byte(text))
			if e != api.OK {
				errors[e]++
				trail.Write([]byte{byte(e)})
				continue
			}
			trail.Write(sealed)
			sent[who] = append(sent[who], message{h, sealed, text})
			k.sides[who] = s
		} else {
			at := reach[1-who] + x.throw(x.ahead)
			at -= x.throw(x.b1) * x.throw(x.b2)
			bad := x.throw(16)
			if at < 0 || at >= len(sent[1-who]) {
				continue
			}
			m := sent[1-who][at].changed(bad)
			s, text, e := Open(k.p, k.sides[who], with, m.head, m.sealed)
			if e == api.OK && string(text) != m.text || e != api.OK && len(text) != 0 {
				k.Fatalf("Open of %q: %q, %d", m.text, text, e)
			}
			errors[e]++
			trail.Write([]byte{byte(e)})
			if e == api.OK {
				reach[1-who] = max(reach[1-who], at+1)
			}
			k.sides[who] = s
		}
		trail.Write(laid(k.sides[who]))
		k.again(who)
	}
	return trail.Sum(nil), errors
}

// changed returns m with something changed, for bad from 0 to 2.
func (m message) changed(bad int) message {
	m.sealed = slices.Clone(m.sealed)
	switch bad {
	case 0:
		m.sealed[0] ^= 1
	case 1:
		m.head.Prev++
	case 2:
		m.head.N++
	}
	return m
}

// again lets a side go on with its state as it was read from its bytes.
func (k *talk) again(side int) {
	k.Helper()
	s, ok := Read(wire.Read(laid(k.sides[side])))
	if !ok || !Same(s, k.sides[side]) {
		k.Fatalf("Read of a state: %v, %v", s, ok)
	}
	k.sides[side] = s
}

// TestWalkKnown has digests of another program: of the states and errors of whole walks.
func TestWalkKnown(t *testing.T) {
	for _, r := range []struct {
		walk
		want string
		made int
	}{
		{walk{1, 5, 2, 5, 7, 7}, "04c0409528d2d9a959634080ac42e8bce597a644827f00634a7297517f4955b0", 28},
		{walk{1, 4, 1, 4, 2, 30}, "aa62a961f9dca29327f1960ffb5aae2921d05d6f86650159c37335fe1586493b", 149},
	} {
		k := begin(t, api.Real)
		got, errors := r.run(k)
		expectBytes(t, "the digest of the walk", got, plain(r.want))
		if k.p.Made() != r.made {
			t.Errorf("%d keys were made, not %d; %v", k.p.Made(), r.made, errors)
		}
	}
}

// TestWalkOfBothModes: what happens does not depend on the mode, as both have the same keys in other bytes.
func TestWalkOfBothModes(t *testing.T) {
	for _, x := range []walk{{1, 5, 2, 5, 7, 7}, {2, 4, 1, 4, 2, 30}, {3, 3, 1, 9, 3, 9}} {
		var counts [2]string
		for i, mode := range modes {
			k, y := begin(t, mode), x
			_, errors := y.run(k)
			for e := api.OK; e <= api.ErrUsed; e++ {
				counts[i] += strconv.Itoa(errors[e]) + " "
			}
			counts[i] += "made " + strconv.Itoa(k.p.Made())
		}
		if counts[0] != counts[1] {
			t.Errorf("walk %v: %s, and with terms %s", x, counts[0], counts[1])
		}
	}
}
