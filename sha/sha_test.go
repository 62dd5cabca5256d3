package sha

import (
	"bytes"
	"encoding/hex"
	"math/rand"
	"strings"
	"testing"
)

// summed: the sum of b is the one that is known, in hex.
func summed(t *testing.T, name string, b []byte, want string) {
	t.Helper()
	if got := hex.EncodeToString(One(b)); got != want {
		t.Errorf("P3.1: One of %s: %s, not %s", name, got, want)
	}
}

// stripe has n bytes, such that no two lengths begin alike.
func stripe(n int) []byte {
	b := make([]byte, n)
	for i := range b {
		b[i] = byte(7*i + n)
	}
	return b
}

// plainly is salt, a byte 0, word, in memory of its own.
func plainly(salt, word []byte) []byte {
	return []byte(string(salt) + "\x00" + string(word))
}

func spoil(b []byte) {
	b = b[:cap(b)]
	for i := range b {
		b[i] = 'X'
	}
}

// TestKnownSums has the sums that are told beside FIPS 180-4.
func TestKnownSums(t *testing.T) {
	for _, c := range []struct{ name, text, sum string }{
		{"nothing", "", "e3b0c44298fc1c149afbf4c8996fb92427ae41e4649b934ca495991b7852b855"},
		{"abc", "abc", "ba7816bf8f01cfea414140de5dae2223b00361a396177a9cb410ff61f20015ad"},
		{"56 letters", "abcdbcdecdefdefgefghfghighijhijkijkljklmklmnlmnomnopnopq", "248d6a61d20638b8e5c026930c3e6039a33ce45964ff2167f6ecedd419db06c1"},
		{"112 letters", "abcdefghbcdefghicdefghijdefghijkefghijklfghijklmghijklmnhijklmnoijklmnopjklmnopqklmnopqrlmnopqrsmnopqrstnopqrstu", "cf5b16a778af8380036ce59e7b0492370b249b11e8f07a51afac45037afee9d1"},
		{"one byte", "\xbd", "68325720aabd7c82f30f554b313d0570c95accbb7dc4b5aae11204c08ffe732b"},
		{"four bytes", "\xc9\x8c\x8e\x55", "7abc22c0ae5af26ce93dbb94433a0e0b2e119d014f8e7f65bd56c61ccccd9504"},
		{"55 zeros", strings.Repeat("\x00", 55), "02779466cdec163811d078815c633f21901413081449002f24aa3e80f0b88ef7"},
		{"56 zeros", strings.Repeat("\x00", 56), "d4817aa5497628e7c77e6b606107042bbba3130888c5f47a375e6179be789fbb"},
		{"57 zeros", strings.Repeat("\x00", 57), "65a16cb7861335d5ace3c60718b5052e44660726da4cd13bb745381b235a1785"},
		{"64 zeros", strings.Repeat("\x00", 64), "f5a5fd42d16a20302798ef6ed309979b43003d2320d9f0e8ea9831a92759fb4b"},
		{"1000 zeros", strings.Repeat("\x00", 1000), "541b3e9daa09b20bf85fa273e5cbd3e80185aa4ec298e765db87742b70138a53"},
		{"1000 A", strings.Repeat("A", 1000), "c2e686823489ced2017f6059b8b239318b6364f6dcd835d0a519105a1eadd6e4"},
		{"1005 U", strings.Repeat("U", 1005), "f4d62ddec0f3dd90ea1380fa16a5ff8dc4c54b21740650f24afc4120903552b0"},
		{"a million a", strings.Repeat("a", 1000000), "cdc76e5c9914fb9281a1c7e284d73e67f1809a48a497200e046d39ccc7112cd0"},
		{"a million zeros", strings.Repeat("\x00", 1000000), "d29751f2649b32ff572b5e0a9f541ea660a50f94ff0beedfb0b692b924cc8025"},
	} {
		summed(t, c.name, []byte(c.text), c.sum)
	}
}

func TestNoBytesAtAll(t *testing.T) {
	const none = "e3b0c44298fc1c149afbf4c8996fb92427ae41e4649b934ca495991b7852b855"
	summed(t, "nil", nil, none)
	summed(t, "the empty list", []byte{}, none)
	summed(t, "none of three", []byte("abc")[:0], none)
}

// TestAboutBlockEnds has the lengths at which the ending begins to need a
// block more, and those about a block's end, of three blocks.
func TestAboutBlockEnds(t *testing.T) {
	for _, c := range []struct {
		n   int
		sum string
	}{
		{1, "4bf5122f344554c53bde2ebb8cd2b7e3d1600ad631c385a5d7cce23c7785459a"},
		{32, "70b25e78a713fbc17ba3f5e9b25c16200202a776ddb67fffb745d54b9eee7f29"},
		{54, "1ad616be707a2b269ecfe28bdea4a4284a4f78a221287d45b98004231f501c77"},
		{55, "81afe5b788dc2ce138ff83d9b20164db75a94d75d2b2432eea4a0ef605088c72"},
		{56, "2aba54f0ac632420a2b502431408866e40e1d5e430df4cd822642c78ab2eb9c1"},
		{57, "903284efbf9100e8ba1614ec65eacacad125e03f857cae7acbf8b73b23e0fdfe"},
		{63, "733d3d4ee79ee67145bf73da13588f6f235d37414fc64b14a2f00f1762792f5e"},
		{64, "79322907b3e9d013d7dc2c2f256674dbf733045cde01df3539271c6f5605feb8"},
		{65, "d85c007c6eb440f085afa2b84f6f2bce4658b240e9f62cb1364bf0485a57e720"},
		{119, "6c87eedf096b345de205b702e5223b73b447a3207791ded3ea007ba15ed6736e"},
		{120, "42500cf6a1e3936d6b9e0bcfe296d654b63255e525487d3634d0b15fde591c4d"},
		{127, "68f6ff710276900c0ffbbc57426f67e00c2e01f0750c7edc25ac06b8ce7a8095"},
		{128, "489d55fea9a73af36b6dd0be7b4117d8e5683386d39544e8a44c99a87f368707"},
		{129, "4e1556b2e9a50a3cc9478f3254727b01065f9ac5d2c3a8b4cd538ae7240bb87d"},
		{183, "d5569223a34f844867a0472755c7e51a0f947e822f876d6c1ef65f980640e968"},
		{184, "8beeb42ffc89512dc989bc554ab51c629498bb00ce29bd0ad136e00ee5024ef9"},
		{191, "335b3bf2c22790fea5a53aeb3bc5964e315479ea95077e3425e53031703c6ef0"},
		{192, "8670a48b392a0d3059954d2bd00de898822e9581ab3f85145e5183d9ad740dea"},
		{193, "895db6b112ddbfcbda85094a9591fd28a61479fad9895b0e0c48c6c0d842d0dc"},
	} {
		summed(t, "a stripe", stripe(c.n), c.sum)
	}
}

// TestEachLength has the sums of all lengths in one: the sum of them all is
// known.
func TestEachLength(t *testing.T) {
	var all []byte
	for n := range 1100 {
		sum := One(stripe(n))
		if len(sum) != 32 {
			t.Fatalf("P3.3: One of %d bytes has %d", n, len(sum))
		}
		all = append(all, sum...)
	}
	summed(t, "the sums of 0 to 1099 bytes", all, "67b1564ceebafb689b27c863f303b3c5c2f592a559577e834a8c4be3dd786e99")
}

// TestChain has sums of sums, so that many words of all kinds come by.
func TestChain(t *testing.T) {
	var b []byte
	for range 9999 {
		b = One(b)
	}
	summed(t, "a chain", b, "4808f48cc972177e4e7d4f916bedc508f3e3846e009ac0b8635ae0dd6aa9dae5")
}

// TestEndingOfManyBytes: from 2^29 bytes on the count of bits is beyond 32
// bits. A text as long as that would take too much memory here.
func TestEndingOfManyBytes(t *testing.T) {
	for _, c := range []struct {
		length uint64
		count  string
	}{
		{1<<29 - 1, "00000000fffffff8"},
		{1 << 29, "0000000100000000"},
		{1<<29 + 1, "0000000100000008"},
		{1<<31 - 1, "00000003fffffff8"},
	} {
		rest := stripe(int(c.length % 64))
		b := ending(rest, c.length)
		if len(b)%64 != 0 || !bytes.HasPrefix(b, append(bytes.Clone(rest), 0x80)) || hex.EncodeToString(b[len(b)-8:]) != c.count {
			t.Errorf("P3.1: the ending of %d bytes: %x", c.length, b)
		}
	}
}

func TestSaltedSums(t *testing.T) {
	for _, c := range []struct{ salt, word, sum string }{
		{"", "", "6e340b9cffb37a989ca544e6bb780a2c78901d3fb33738768511a30617afa01d"},
		{"salt", "", "5da1af2bed4c70944d5fe6a055f1256d30545f0eea1f4c59cfa8ab1c7150e94b"},
		{"", "word", "3bbaf8b6ee7652d8b753c4f2b2ad5e7419189f58da465a0386fec343c5af025e"},
		{"salt", "word", "86e2fd98ed5640baeb997917f5cee3cbd9e42796c9b25c776b765220b15657ee"},
		{"a\x00", "b", "2d8dbcddf40617a662bcf1f1c70eb5232f26fa6055e7aa69a90432d2dd8a12b0"},
		{"a", "\x00b", "2d8dbcddf40617a662bcf1f1c70eb5232f26fa6055e7aa69a90432d2dd8a12b0"},
		{"\x00", "\x00", "709e80c88487a2411e1ee4dfb9f22a861492d20c4765150c0c794abd70f8147c"},
		{"\x00\x00", "", "709e80c88487a2411e1ee4dfb9f22a861492d20c4765150c0c794abd70f8147c"},
		{strings.Repeat("s", 31), strings.Repeat("w", 32), "1a91a942feb49671b76c85737c1698e53b12275d4c9f883e03ba8409bffc38ba"},
		{strings.Repeat("s", 32), strings.Repeat("w", 256), "7b68f2e4c669193628fb6ca3eb565445403433c99a23b39d259d5987eba66e39"},
	} {
		if got := hex.EncodeToString(Salted([]byte(c.salt), []byte(c.word))); got != c.sum {
			t.Errorf("P3.1: Salted(%q, %q): %s, not %s", c.salt, c.word, got, c.sum)
		}
	}
}

func TestSaltedIsOneOfAll(t *testing.T) {
	for n := range 70 {
		for m := range 70 {
			salt, word := stripe(n), stripe(m)
			if got := Salted(salt, word); !bytes.Equal(got, One(plainly(salt, word))) {
				t.Errorf("P3.1: Salted of %d and %d bytes: %x", n, m, got)
			}
		}
	}
	for _, c := range [][2]string{
		{"", "\x00"}, {"", "\x00\x00\x00"}, {"\x00", ""}, {"\x00\x00\x00", "\x00\x00"}, {"a\x00b", "c\x00d"},
		{strings.Repeat("\x00", 63), ""}, {strings.Repeat("\x00", 64), strings.Repeat("\x00", 64)},
	} {
		salt, word := []byte(c[0]), []byte(c[1])
		if got := Salted(salt, word); !bytes.Equal(got, One(plainly(salt, word))) {
			t.Errorf("P3.1: Salted(%q, %q): %x", salt, word, got)
		}
	}
}

func TestSaltedOfNil(t *testing.T) {
	some := []byte("some")
	for _, none := range [][]byte{nil, {}, some[:0]} {
		for _, c := range [][2][]byte{{none, none}, {none, nil}, {nil, none}, {none, some}, {some, none}} {
			if got := Salted(c[0], c[1]); !bytes.Equal(got, One(plainly(c[0], c[1]))) {
				t.Errorf("P3.1: Salted(%q, %q): %x", c[0], c[1], got)
			}
		}
	}
}

// told: what Equal answers of two, both ways round.
func told(t *testing.T, a, b []byte, want bool) {
	t.Helper()
	if Equal(a, b) != want || Equal(b, a) != want {
		t.Errorf("P3.1: Equal(%x, %x): not %v", a, b, want)
	}
}

func TestEqualOfAlike(t *testing.T) {
	for n := range 200 {
		b := stripe(n)
		told(t, b, b, true)
		told(t, b, bytes.Clone(b), true)
	}
	told(t, Salted([]byte("salt"), []byte("word")), Salted([]byte("salt"), []byte("word")), true)
	told(t, bytes.Repeat([]byte("a"), 1<<20), bytes.Repeat([]byte("a"), 1<<20), true)
}

func TestEqualOfOneBitOther(t *testing.T) {
	for _, n := range []int{1, 2, 3, 7, 8, 9, 31, 32, 33, 64, 65, 300} {
		a := stripe(n)
		for i := range n {
			for bit := range 8 {
				b := bytes.Clone(a)
				b[i] ^= 1 << bit
				told(t, a, b, false)
			}
		}
	}
}

// TestEqualOfSeveralOther: two that differ in such a way that the differences
// taken together, by exclusive or or as a sum, are nothing.
func TestEqualOfSeveralOther(t *testing.T) {
	zeros := make([]byte, 256)
	for x := 1; x < 256; x++ {
		told(t, []byte{0, 0}, []byte{byte(x), byte(x)}, false)
		told(t, []byte{0, 0}, []byte{byte(x), byte(-x)}, false)
		told(t, zeros, bytes.Repeat([]byte{byte(x)}, 256), false)
	}
	told(t, []byte{1, 2, 3}, []byte{3, 2, 1}, false)
	told(t, []byte{1, 2, 3}, []byte{2, 3, 1}, false)
}

func TestEqualOfOtherLengths(t *testing.T) {
	zeros := make([]byte, 70)
	for n := range 70 {
		for m := range 70 {
			told(t, zeros[:n], zeros[:m], n == m)
			told(t, stripe(70)[:n], stripe(70)[:m], n == m)
		}
	}
	told(t, zeros[:1], make([]byte, 257), false)
	told(t, nil, make([]byte, 256), false)
}

func TestEqualOfNil(t *testing.T) {
	told(t, nil, nil, true)
	told(t, nil, []byte{}, true)
	told(t, []byte{}, []byte{}, true)
	told(t, nil, []byte("abc")[:0], true)
	told(t, nil, []byte{0}, false)
	told(t, []byte{}, []byte{0}, false)
}

// TestEqualReadsNotOn: what lies behind the length is no part of it.
func TestEqualReadsNotOn(t *testing.T) {
	told(t, []byte("abcX")[:3], []byte("abcY")[:3], true)
	told(t, []byte("abc")[:2], []byte("abd")[:2], true)
	told(t, []byte("abc")[:2], []byte("abc"), false)
}

// TestWhatIsHandedIn: salt and word lie in one memory, the word right behind
// the salt, with more behind both.
func TestWhatIsHandedIn(t *testing.T) {
	for n := range 140 {
		room := stripe(300)
		was := bytes.Clone(room)
		salt, word := room[:n], room[n:n+9]
		one, salted := One(salt), Salted(salt, word)
		Equal(salt, room[100:100+n])
		if !bytes.Equal(room, was) {
			t.Fatalf("P3.2: with %d bytes the memory handed in was changed", n)
		}
		spoil(room)
		if !bytes.Equal(one, One(was[:n])) || !bytes.Equal(salted, One(plainly(was[:n], was[n:n+9]))) {
			t.Errorf("P3.2: the answers of %d bytes hang on what was handed in", n)
		}
		again := stripe(300)
		if !bytes.Equal(one, One(bytes.Clone(again[:n]))) || !bytes.Equal(salted, Salted(again[:n], again[n:n+9])) {
			t.Errorf("P3.2: the answers of %d bytes hang on the calls before", n)
		}
	}
}

// TestWhatIsAnswered writes into an answer, and into its spare room; nothing
// else may show it.
func TestWhatIsAnswered(t *testing.T) {
	calls := map[string]func(b []byte) []byte{
		"One":                 One,
		"Salted by the salt":  func(b []byte) []byte { return Salted(b, nil) },
		"Salted by the word":  func(b []byte) []byte { return Salted(nil, b) },
		"Salted by one twice": func(b []byte) []byte { return Salted(b, b) },
	}
	for name, call := range calls {
		for _, n := range []int{0, 1, 31, 32, 55, 56, 63, 64, 65, 128} {
			b := stripe(n)
			first, second := call(b), call(b)
			was := bytes.Clone(first)
			if !bytes.Equal(first, second) || len(first) != 32 {
				t.Errorf("P3.2: %s of %d bytes: %x, then %x", name, n, first, second)
			}
			spoil(first)
			if !bytes.Equal(second, was) || !bytes.Equal(call(b), was) || !bytes.Equal(b, stripe(n)) {
				t.Errorf("P3.2: %s of %d bytes shares its memory", name, n)
			}
			if spare := second[len(second):cap(second)]; bytes.ContainsRune(spare, 'X') {
				t.Errorf("P3.2: %s of %d bytes shares its spare room", name, n)
			}
		}
	}
}

// TestOrderOfCalls: what is answered does not hang on what was asked before.
func TestOrderOfCalls(t *testing.T) {
	r := rand.New(rand.NewSource(3))
	known := make([][]byte, 200)
	for n := range known {
		known[n] = One(stripe(n))
	}
	for range 2000 {
		n := r.Intn(len(known))
		if got := One(stripe(n)); !bytes.Equal(got, known[n]) {
			t.Fatalf("P0.5: One of %d bytes: %x, then %x", n, known[n], got)
		}
	}
}
