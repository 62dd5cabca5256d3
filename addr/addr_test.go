package addr

import (
	"fmt"
	"math"
	"math/rand"
	"regexp"
	"strconv"
	"strings"
	"testing"

	"wayleave/api"
)

// The document's error, written out.
const noForm = 2

// ahead is ten bytes 0 and two ff, written out.
const ahead = "\x00\x00\x00\x00\x00\x00\x00\x00\x00\x00\xff\xff"

// noughts is n bytes 0.
func noughts(n int) string {
	return strings.Repeat("\x00", n)
}

func TestErrno(t *testing.T) {
	if api.ErrForm != noForm || api.OK != 0 {
		t.Errorf("ErrForm, OK: %d, %d", api.ErrForm, api.OK)
	}
}

// A plain model: by what stands between the signs, and bits as texts of 0 and 1.

var (
	number = regexp.MustCompile(`\A(0|[1-9][0-9]*)\z`)
	digits = regexp.MustCompile(`\A[0-9a-fA-F]{1,4}\z`)
)

// upTo is a number of 0 to most, and whether s is one.
func upTo(s string, most int) (int, bool) {
	n, err := strconv.Atoi(s)
	return n, number.MatchString(s) && err == nil && n <= most
}

// wantFour is the four bytes of a text with dots.
func wantFour(s string) (string, bool) {
	parts := strings.Split(s, ".")
	var b []byte
	for _, part := range parts {
		n, ok := upTo(part, 255)
		if !ok {
			return "", false
		}
		b = append(b, byte(n))
	}
	return string(b), len(parts) == 4
}

// wantGroups is the bytes of groups parted by one colon: none of the empty text.
func wantGroups(s string) (string, bool) {
	if s == "" {
		return "", true
	}
	var b []byte
	for _, part := range strings.Split(s, ":") {
		if !digits.MatchString(part) {
			return "", false
		}
		n, _ := strconv.ParseUint(part, 16, 16)
		b = append(b, byte(n/256), byte(n%256))
	}
	return string(b), true
}

// wantSixteen is the sixteen bytes of a text with colons.
func wantSixteen(s string) (string, bool) {
	if strings.Count(s, ":") > 16 {
		return "", false
	}
	sides := strings.Split(s, "::")
	left, ok := wantGroups(sides[0])
	if len(sides) == 1 {
		return left, ok && len(left) == 16
	}
	right, also := wantGroups(sides[1])
	if len(sides) > 2 || !ok || !also || len(left)+len(right) > 14 {
		return "", false
	}
	return left + noughts(16-len(left)-len(right)) + right, true
}

// want is what Parse should answer.
func want(s string) (string, api.Errno) {
	if ip, ok := wantFour(s); ok {
		return ip, 0
	}
	if ip, ok := wantSixteen(s); ok {
		return strings.TrimPrefix(ip, ahead), 0
	}
	return "", noForm
}

// bitsOf is ip's bits as a text of 0 and 1.
func bitsOf(ip string) string {
	var b strings.Builder
	for _, c := range []byte(ip) {
		fmt.Fprintf(&b, "%08b", c)
	}
	return b.String()
}

// wantNet is what ParseNet should answer.
func wantNet(s string) (Net, api.Errno) {
	parts := strings.SplitN(s, "/", 2)
	ip, e := want(parts[0])
	if e != 0 {
		return Net{}, noForm
	}
	all := bitsOf(ip)
	if len(parts) == 1 {
		return Net{IP: ip, Bits: len(all)}, 0
	}
	n, ok := upTo(parts[1], len(all))
	if !ok || strings.Contains(all[n:], "1") {
		return Net{}, noForm
	}
	return Net{IP: ip, Bits: n}, 0
}

// wantPrint is what Print should answer.
func wantPrint(ip string) string {
	var parts []string
	switch len(ip) {
	case 4:
		return fmt.Sprintf("%d.%d.%d.%d", ip[0], ip[1], ip[2], ip[3])
	case 16:
		for i := 0; i < 16; i += 2 {
			parts = append(parts, fmt.Sprintf("%x", 256*int(ip[i])+int(ip[i+1])))
		}
	}
	return strings.Join(parts, ":")
}

// wantIn is what In should answer.
func wantIn(n Net, ip string) bool {
	of, all := bitsOf(n.IP), bitsOf(ip)
	if len(of) != 32 && len(of) != 128 || len(all) != len(of) || n.Bits < 0 || n.Bits > len(of) {
		return false
	}
	return all[:n.Bits] == of[:n.Bits]
}

// checkParse holds Parse and ParseNet of s against the model.
func checkParse(t *testing.T, s string) {
	t.Helper()
	ip, e := Parse(s)
	if wanted, no := want(s); ip != wanted || e != no {
		t.Fatalf("P15.1: Parse(%s): %x, %d, not %x, %d", told(s), ip, e, wanted, no)
	}
	if again, no := Parse(s); again != ip || no != e {
		t.Fatalf("P0.5: Parse(%s) anew: %x, %d", told(s), again, no)
	}
	checkNet(t, s)
}

// checkNet holds ParseNet of s against the model, and what follows of a net.
func checkNet(t *testing.T, s string) {
	t.Helper()
	n, e := ParseNet(s)
	if wanted, no := wantNet(s); n != wanted || e != no {
		t.Fatalf("P15.2: ParseNet(%s): %x/%d, %d, not %x/%d, %d", told(s), n.IP, n.Bits, e, wanted.IP, wanted.Bits, no)
	}
	if again, no := ParseNet(s); again != n || no != e {
		t.Fatalf("P0.5: ParseNet(%s) anew: %x, %d", told(s), again, no)
	}
	if e == 0 {
		if back, no := ParseNet(PrintNet(n)); back != n || no != 0 {
			t.Fatalf("P15.3: ParseNet(%s): %x, %d", told(PrintNet(n)), back, no)
		}
	}
}

// checkPrint holds Print of ip against the model, and Parse of it.
func checkPrint(t *testing.T, ip string) {
	t.Helper()
	s := Print(ip)
	if s != wantPrint(ip) {
		t.Fatalf("P15.1: Print(%x): %s, not %s", ip, told(s), wantPrint(ip))
	}
	wanted, no := strings.TrimPrefix(ip, ahead), api.Errno(0)
	if len(ip) != 4 && len(ip) != 16 {
		wanted, no = "", noForm
	}
	if back, e := Parse(s); back != wanted || e != no {
		t.Fatalf("P15.3: Parse of Print(%x): %x, %d", ip, back, e)
	}
}

// told is a text, shortened.
func told(s string) string {
	if len(s) > 80 {
		return fmt.Sprintf("%q.. of %d bytes", s[:80], len(s))
	}
	return fmt.Sprintf("%q", s)
}

// is asks for an address by its text.
func is(t *testing.T, s, wanted string) {
	t.Helper()
	if ip, e := Parse(s); ip != wanted || e != 0 {
		t.Errorf("P15.1: Parse(%s): %x, %d, not %x", told(s), ip, e, wanted)
	}
	if ip, e := want(s); ip != wanted || e != 0 {
		t.Errorf("the model, of %s: %x, %d, not %x", told(s), ip, e, wanted)
	}
}

// isNone asks that a text is no address, and no net.
func isNone(t *testing.T, s string) {
	t.Helper()
	if ip, e := Parse(s); ip != "" || e != noForm {
		t.Errorf("P15.1: Parse(%s): %x, %d, not ErrForm", told(s), ip, e)
	}
	if _, e := want(s); e != noForm {
		t.Errorf("the model, of %s: %d, not ErrForm", told(s), e)
	}
	if n, e := ParseNet(s); !strings.Contains(s, "/") && (n != Net{} || e != noForm) {
		t.Errorf("P15.2: ParseNet(%s): %x, %d, not ErrForm", told(s), n, e)
	}
}

// isNet asks for a net by its text.
func isNet(t *testing.T, s, ip string, bits int) {
	t.Helper()
	wanted := Net{IP: ip, Bits: bits}
	if n, e := ParseNet(s); n != wanted || e != 0 {
		t.Errorf("P15.2: ParseNet(%s): %x/%d, %d, not %x/%d", told(s), n.IP, n.Bits, e, ip, bits)
	}
	if n, e := wantNet(s); n != wanted || e != 0 {
		t.Errorf("the model, of net %s: %x/%d, %d, not %x/%d", told(s), n.IP, n.Bits, e, ip, bits)
	}
}

// isNoNet asks that a text is no net.
func isNoNet(t *testing.T, s string) {
	t.Helper()
	if n, e := ParseNet(s); n != (Net{}) || e != noForm {
		t.Errorf("P15.2: ParseNet(%s): %x/%d, %d, not ErrForm", told(s), n.IP, n.Bits, e)
	}
	if _, e := wantNet(s); e != noForm {
		t.Errorf("the model, of net %s: %d, not ErrForm", told(s), e)
	}
}

// The chapter's examples.

func TestExamples(t *testing.T) {
	isNone(t, "::ffff:10.0.0.1")
	is(t, "::ffff:a00:1", "\x0a\x00\x00\x01")
}

// Four bytes.

func TestFour(t *testing.T) {
	is(t, "0.0.0.0", noughts(4))
	is(t, "1.2.3.4", "\x01\x02\x03\x04")
	is(t, "10.1.2.255", "\x0a\x01\x02\xff")
	is(t, "127.0.0.1", "\x7f\x00\x00\x01")
	is(t, "192.168.100.99", "\xc0\xa8\x64\x63")
	is(t, "255.255.255.255", "\xff\xff\xff\xff")
}

func TestFourEachPlace(t *testing.T) {
	for place := range 4 {
		for n := range 1100 {
			parts := []string{"7", "70", "170", "0"}
			ip := []byte{7, 70, 170, 0}
			parts[place] = strconv.Itoa(n)
			s := strings.Join(parts, ".")
			if n > 255 {
				isNone(t, s)
				continue
			}
			ip[place] = byte(n)
			is(t, s, string(ip))
			for _, zeros := range []string{"0", "00", "000"} {
				parts[place] = zeros + strconv.Itoa(n)
				isNone(t, strings.Join(parts, "."))
			}
		}
	}
}

func TestFourWrongParts(t *testing.T) {
	wrong := []string{
		"", "-0", "-1", "+0", "+1", " 1", "1 ", "\t1", "1\n", "0x1", "0X1", "1e1", "1_0", "a", "f", "ff", "1a", "a1", "g", "/", ":",
		"00", "01", "007", "0255", "256", "257", "260", "300", "511", "512", "999", "1000", "2550", "2551", "65536", "65537",
		"4294967295", "4294967296", "4294967297", "9223372036854775807", "9223372036854775808", "18446744073709551615",
		"18446744073709551616", "18446744073709551617", "340282366920938463463374607431768211456", "\u0661", "\uff11", "\x00", "1\x00", "\xff",
	}
	for place := range 4 {
		for _, part := range wrong {
			parts := []string{"1", "20", "255", "0"}
			parts[place] = part
			isNone(t, strings.Join(parts, "."))
		}
	}
}

func TestFourHowMany(t *testing.T) {
	for n := range 40 {
		parts := strings.Split(strings.Repeat("1.", n)+"1", ".")
		s := strings.Join(parts, ".")
		if len(parts) == 4 {
			is(t, s, "\x01\x01\x01\x01")
		} else {
			isNone(t, s)
		}
		isNone(t, s+".")
		isNone(t, "."+s)
	}
	for _, s := range []string{
		"", ".", "..", "...", "....", "1", "1.2", "1.2.3", "1.2.3.4.5", "1.2.3.", ".1.2.3", "1..2.3", "1.2..3", "1.2.3..4", "..1.2",
		"1.2.3.4.", ".1.2.3.4", "1.2.3.4 ", " 1.2.3.4", "1. 2.3.4", "1 .2.3.4", "1.2.3.4\n", "1.2.3.4\x00", "1.2.3.4:80", "1.2.3.4/32",
		"1:2:3:4", "1,2,3,4", "1.2.3:4", "1.2:3.4", "[1.2.3.4]", "[1.2.3.4", "1.2.3.4]", "1.2.3.4%0", "167772161", "0xa000001", "10.1", "a.b.c.d", "localhost",
	} {
		isNone(t, s)
	}
}

// Sixteen bytes.

func TestSixteen(t *testing.T) {
	is(t, "::", noughts(16))
	is(t, "::0", noughts(16))
	is(t, "0::", noughts(16))
	is(t, "0::0", noughts(16))
	is(t, "0:0:0:0:0:0:0:0", noughts(16))
	is(t, "::1", noughts(15)+"\x01")
	is(t, "1::", "\x00\x01"+noughts(14))
	is(t, "1::1", "\x00\x01"+noughts(13)+"\x01")
	is(t, "2001:db8::1", "\x20\x01\x0d\xb8"+noughts(11)+"\x01")
	is(t, "2001:DB8::aBc", "\x20\x01\x0d\xb8"+noughts(10)+"\x0a\xbc")
	is(t, "fe80::1:2", "\xfe\x80"+noughts(11)+"\x01\x00\x02")
	is(t, "1:2:3:4:5:6:7:8", "\x00\x01\x00\x02\x00\x03\x00\x04\x00\x05\x00\x06\x00\x07\x00\x08")
	is(t, "1:2:3:4:5:6:7::", "\x00\x01\x00\x02\x00\x03\x00\x04\x00\x05\x00\x06\x00\x07\x00\x00")
	is(t, "::2:3:4:5:6:7:8", "\x00\x00\x00\x02\x00\x03\x00\x04\x00\x05\x00\x06\x00\x07\x00\x08")
	is(t, "1:2:3::5:6:7:8", "\x00\x01\x00\x02\x00\x03\x00\x00\x00\x05\x00\x06\x00\x07\x00\x08")
	is(t, "0123:4567:89ab:cdef:0123:4567:89AB:CDEF", "\x01\x23\x45\x67\x89\xab\xcd\xef\x01\x23\x45\x67\x89\xab\xcd\xef")
	is(t, "FFFF:ffff:FfFf:fFfF:ffff:ffff:ffff:ffff", strings.Repeat("\xff", 16))
	is(t, "0000:0:00:000::ffff", noughts(14)+"\xff\xff")
}

// Each number of groups, with : or :: between any two, and :, :: or nothing at
// either end.
func TestColons(t *testing.T) {
	for groups := range 11 {
		for mask := range 1 << max(groups-1, 0) {
			var middle strings.Builder
			for i := range groups {
				if i > 0 {
					middle.WriteString([]string{":", "::"}[mask>>(i-1)&1])
				}
				fmt.Fprintf(&middle, "%x", 3*i+1)
			}
			for _, begin := range []string{"", ":", "::", ":::"} {
				for _, end := range []string{"", ":", "::", ":::"} {
					checkParse(t, begin+middle.String()+end)
				}
			}
		}
	}
}

// Where a :: stands for how many groups: written out for each place.
func TestGap(t *testing.T) {
	for before := range 10 {
		for behind := range 10 {
			left := strings.TrimSuffix(strings.Repeat("a1:", before), ":")
			right := strings.TrimSuffix(strings.Repeat("B:", behind), ":")
			s := left + "::" + right
			if before+behind > 7 {
				isNone(t, s)
				continue
			}
			is(t, s, strings.Repeat("\x00\xa1", before)+noughts(16-2*before-2*behind)+strings.Repeat("\x00\x0b", behind))
			isNone(t, ":"+s)
			isNone(t, s+":")
			if behind > 0 {
				isNone(t, left+":::"+right)
				isNone(t, s+"::")
			}
			if before > 0 {
				isNone(t, "::"+s)
			}
		}
	}
	for groups := range 20 {
		s := strings.TrimSuffix(strings.Repeat("5:", groups), ":")
		if groups == 8 {
			is(t, s, strings.Repeat("\x00\x05", 8))
		} else {
			isNone(t, s)
		}
		isNone(t, s+":")
		isNone(t, ":"+s)
	}
}

// Every number of up to four digits in each place, in either case, and with
// zeros ahead; none of five and more.
func TestGroups(t *testing.T) {
	for n := range 65536 {
		place := n % 8
		parts := strings.Split("1:2:3:4:5:6:7:8", ":")
		ip := []byte("\x00\x01\x00\x02\x00\x03\x00\x04\x00\x05\x00\x06\x00\x07\x00\x08")
		ip[2*place], ip[2*place+1] = byte(n>>8), byte(n)
		for _, form := range []string{"%x", "%X", "%04x", "%04X", "%02x", "%03X"} {
			parts[place] = fmt.Sprintf(form, n)
			is(t, strings.Join(parts, ":"), string(ip))
		}
		for _, form := range []string{"%05x", "%06X", "1%04x", "%04xf"} {
			parts[place] = fmt.Sprintf(form, n)
			isNone(t, strings.Join(parts, ":"))
		}
		if t.Failed() {
			return
		}
	}
}

func TestWrongGroups(t *testing.T) {
	wrong := []string{
		"", "g", "G", "z", "fffg", "gfff", "-1", "+1", " 1", "1 ", "1\t", "\n1", "0x1", "x1", "1_0", "1.2", "1.2.3.4", "0.0.0.0", ".", "/", "@", "`", "[", "]",
		"00000", "00001", "10000", "fffff", "12345", "100000000", "ffffffffffffffff", "10000000000000000", "10000000000000001",
		"\u0661", "\uff21", "\xc3", "\x00", "1\x00", "\x80", "\xff",
	}
	for place := range 8 {
		for _, part := range wrong {
			parts := strings.Split("1:2:3:4:5:6:7:8", ":")
			parts[place] = part
			s := strings.Join(parts, ":")
			if part == "" && place > 0 && place < 7 {
				// That is a ::, for one group.
				b := []byte("\x00\x01\x00\x02\x00\x03\x00\x04\x00\x05\x00\x06\x00\x07\x00\x08")
				b[2*place+1] = 0
				is(t, s, string(b))
				continue
			}
			isNone(t, s)
		}
	}
	for _, s := range []string{
		":", ":::", "::::", ":::::", "1::2::3", "::1::", "::1::2", "1::2::", "1:::2", ":1::2", "1::2:", "1:", ":1", ":1:", "12345::", "::12345", "g::", "::g",
		"1:2:3:4:5:6:7", "1:2:3:4:5:6:7:", ":1:2:3:4:5:6:7", "1:2:3:4:5:6:7:8:9", "1:2:3:4:5:6:7:8:", ":1:2:3:4:5:6:7:8",
		"1:2:3:4:5:6:7:8::", "::1:2:3:4:5:6:7:8", "1:2:3:4::5:6:7:8", "1::2:3:4:5:6:7:8", "1:2:3:4:5:6:7::8", "1:2:3:4:5:6:7:8::9",
		"::10.0.0.1", "::ffff:0.0.0.0", "::ffff:10.0.0.1", "::FFFF:255.255.255.255", "1:2:3:4:5:6:1.2.3.4", "1:2:3:4:5:6:7:1.2.3.4", "1.2.3.4::", "1.2.3.4:1::", "64:ff9b::1.2.3.4", "0:0:0:0:0:ffff:a.0.0.1",
		"[::1]", "[::1", "::1]", "[::]", "[]", "::1%0", "::1%", "::%eth0", "fe80::1%eth0", "%::1", "::1/128", "::/0", "::1 ", " ::1", ":: 1", "::1\n", "::1\x00", "\x00::1",
		"0:0:0:0:0:0:0:00000", "00000:0:0:0:0:0:0:0", "0:0:0:0:0:0:0:0x0", "::-1", "::+1", "1;2;3;4;5;6;7;8", "1:2:3:4:5:6:7;8", "1-2-3-4-5-6-7-8", "1.2.3.4.5.6.7.8",
	} {
		isNone(t, s)
	}
}

// Mapped ones.

func TestMapped(t *testing.T) {
	is(t, "::ffff:0:0", noughts(4))
	is(t, "::ffff:102:304", "\x01\x02\x03\x04")
	is(t, "0:0:0:0:0:FFFF:102:304", "\x01\x02\x03\x04")
	is(t, "0::ffff:0102:0304", "\x01\x02\x03\x04")
	is(t, "::FfFf:ffff:ffff", "\xff\xff\xff\xff")
	is(t, "::ffff:0", noughts(12)+"\xff\xff\x00\x00")
	is(t, "::ffff:0:0:0", noughts(8)+"\xff\xff"+noughts(6))
	is(t, "0:0:0:0:0:ffff::", noughts(4))
	is(t, "0:0:0:0:0:ffff:1::", "\x00\x01\x00\x00")
	is(t, "::102:304", noughts(12)+"\x01\x02\x03\x04")
	is(t, "::fffe:a00:1", noughts(10)+"\xff\xfe\x0a\x00\x00\x01")
	is(t, "::fff:a00:1", noughts(10)+"\x0f\xff\x0a\x00\x00\x01")
	is(t, "::1:ffff:a00:1", noughts(8)+"\x00\x01\xff\xff\x0a\x00\x00\x01")
	is(t, "64:ff9b::ffff:a00:1", "\x00\x64\xff\x9b"+noughts(6)+"\xff\xff\x0a\x00\x00\x01")
	is(t, "::ffff:ffff:a00:1", noughts(8)+"\xff\xff\xff\xff\x0a\x00\x00\x01")
}

// Any bit of the first twelve bytes makes it another address; any bit of the
// four behind another mapped one. So does any byte.
func TestNearlyMapped(t *testing.T) {
	for place := range 16 {
		for c := range 256 {
			b := []byte(ahead + "\x0a\x00\x80\x01")
			changed := b[place] != byte(c)
			b[place] = byte(c)
			wanted := string(b)
			if place >= 12 || !changed {
				wanted = string(b[12:])
			}
			is(t, wantPrint(string(b)), wanted)
			is(t, strings.ToUpper(wantPrint(string(b))), wanted)
		}
	}
}

// Any texts.

func TestShortTexts(t *testing.T) {
	for a := range 256 {
		isNone(t, string([]byte{byte(a)}))
		isNoNet(t, string([]byte{byte(a)}))
		for b := range 256 {
			s := string([]byte{byte(a), byte(b)})
			if s == "::" {
				is(t, s, noughts(16))
				isNet(t, s, noughts(16), 128)
				continue
			}
			if ip, e := Parse(s); ip != "" || e != noForm {
				t.Fatalf("P15.1: Parse(%q): %x, %d", s, ip, e)
			}
			if n, e := ParseNet(s); n != (Net{}) || e != noForm {
				t.Fatalf("P15.2: ParseNet(%q): %x, %d", s, n, e)
			}
		}
	}
}

// All texts of up to so many of these signs.
func TestAllTexts(t *testing.T) {
	all := func(signs string, most int) {
		var walk func(s string)
		walk = func(s string) {
			checkParse(t, s)
			if len(s) < most {
				for _, c := range []byte(signs) {
					walk(s + string([]byte{c}))
				}
			}
		}
		walk("")
	}
	all("01:./", 7)
	all("1:", 15)
	all("0.2", 9)
}

// bases has addresses and nets to be spoilt.
func bases() []string {
	return []string{
		"0.0.0.0", "1.2.3.4", "10.20.30.40", "255.255.255.255", "99.100.9.109",
		"::", "::1", "1::", "1::2", "1:2:3:4:5:6:7:8", "1:2:3:4:5:6:7::", "::2:3:4:5:6:7:8", "2001:db8::abcd:0",
		"FFFF:ffff:FFFF:ffff:0000:1111:2222:9999", "::ffff:a00:1", "0:0:0:0:0:ffff:0:0", "fe80::1:22:333:4444",
		"10.0.0.0/8", "0.0.0.0/0", "1.2.3.4/32", "1.2.3.0/24", "128.0.0.0/1", "::/0", "::/128", "::1/128", "8000::/1", "2001:db8::/32", "::ffff:a00:0/8", "::ffff:a00:0/19",
	}
}

// Each base with any byte in each place, with any byte more, with one less, and
// cut at each place.
func TestSpoilt(t *testing.T) {
	for _, s := range bases() {
		checkParse(t, s)
		for i := range len(s) + 1 {
			checkParse(t, s[:i])
			checkParse(t, s[i:])
			if i < len(s) {
				checkParse(t, s[:i]+s[i+1:])
				checkParse(t, s[:i]+s[i:i+1]+s[i:])
			}
			for c := range 256 {
				one := string([]byte{byte(c)})
				checkParse(t, s[:i]+one+s[i:])
				if i < len(s) {
					checkParse(t, s[:i]+one+s[i+1:])
				}
			}
		}
	}
}

// Any base's beginning and any one's end.
func TestCrossed(t *testing.T) {
	for _, a := range bases() {
		for _, b := range bases() {
			for i := range len(a) + 1 {
				for j := range len(b) + 1 {
					checkParse(t, a[:i]+b[j:])
				}
			}
		}
	}
}

func TestRandomTexts(t *testing.T) {
	r := rand.New(rand.NewSource(151))
	signs := "0123456789abcdefABCDEF::::....//"
	good := 0
	for range 300000 {
		s := randomText(r)
		for range r.Intn(3) {
			i := r.Intn(len(s) + 1)
			c := string(signs[r.Intn(len(signs))])
			switch r.Intn(3) {
			case 0:
				s = s[:i] + c + s[i:]
			case 1:
				s = s[:i] + c + s[min(i+1, len(s)):]
			case 2:
				s = s[:i] + s[min(i+1, len(s)):]
			}
		}
		checkParse(t, s)
		if _, e := Parse(s); e == 0 {
			good++
		}
	}
	if good < 30000 {
		t.Errorf("only %d texts were addresses", good)
	}
}

// randomText is a text that may be an address, or a net.
func randomText(r *rand.Rand) string {
	var s string
	if r.Intn(3) == 0 {
		s = wantPrint(randomIP(r, 4))
	} else {
		groups := 7 + r.Intn(2)
		if r.Intn(2) == 0 {
			groups = r.Intn(10)
		}
		parts := make([]string, groups)
		for i := range parts {
			form := []string{"%x", "%X", "%04x", "%03X"}[r.Intn(4)]
			parts[i] = fmt.Sprintf(form, r.Intn(1<<(1+r.Intn(16))))
		}
		s = strings.Join(parts, ":")
		if groups < 8 || r.Intn(8) == 0 {
			i := r.Intn(groups + 1)
			s = strings.Join(parts[:i], ":") + "::" + strings.Join(parts[i:], ":")
		}
	}
	if r.Intn(4) == 0 {
		s += "/" + strconv.Itoa(r.Intn(140))
	}
	return s
}

// randomIP is so many bytes, many of them 0 or ff.
func randomIP(r *rand.Rand, size int) string {
	b := make([]byte, size)
	for i := range b {
		switch r.Intn(4) {
		case 0:
			b[i] = 0
		case 1:
			b[i] = 0xff
		default:
			b[i] = byte(r.Intn(256))
		}
	}
	if size == 16 && r.Intn(8) == 0 {
		copy(b, ahead)
	}
	return string(b)
}

func TestLongTexts(t *testing.T) {
	for _, size := range []int{100, 4096, 100000} {
		for _, part := range []string{"0", "1", "9", "f", ":", ".", "/", "1.", ".1", "1:", ":1", "::", "0:", "1.2.3.4", "1:2:3:4:5:6:7:8", "::1", "10.0.0.0/8", "::/0", " ", "\x00", "\xff", "%"} {
			s := strings.Repeat(part, size/len(part))
			for _, long := range []string{s, "::" + s, s + "::", "1.2.3.4" + s, s + "1.2.3.4", "1.2.3." + s, "::/" + s, "0.0.0.0/" + s, "::%" + s, s + "/0", "1:2:3:4:5:6:7:8" + s} {
				checkParse(t, long)
				isNone(t, long)
				isNoNet(t, long)
			}
		}
	}
}

// Print.

func TestPrint(t *testing.T) {
	for ip, wanted := range map[string]string{
		"\x00\x00\x00\x00": "0.0.0.0", "\x0a\x01\x02\xff": "10.1.2.255", "\xff\xff\xff\xff": "255.255.255.255", "\x09\x63\x64\x0a": "9.99.100.10",
		noughts(16):                                                        "0:0:0:0:0:0:0:0",
		noughts(15) + "\x01":                                               "0:0:0:0:0:0:0:1",
		strings.Repeat("\xff", 16):                                         "ffff:ffff:ffff:ffff:ffff:ffff:ffff:ffff",
		"\x20\x01\x0d\xb8" + noughts(11) + "\x01":                          "2001:db8:0:0:0:0:0:1",
		"\x00\x0f\x00\xf0\x0f\x00\xf0\x00abcdefgh":                         "f:f0:f00:f000:6162:6364:6566:6768",
		"\x01\x23\x45\x67\x89\xab\xcd\xef23456789":                         "123:4567:89ab:cdef:3233:3435:3637:3839",
		"\x00\x01\x00\x10\x01\x00\x10\x00\x00\x00\x00\x0a\x00\xa0\x0a\x00": "1:10:100:1000:0:a:a0:a00",
		ahead + "abcd":                                                     "0:0:0:0:0:ffff:6162:6364", ahead + noughts(4): "0:0:0:0:0:ffff:0:0",
		"": "", "a": "", "1.2.3.4": "", "::": "", "1234567812345678x": "",
	} {
		if s := Print(ip); s != wanted {
			t.Errorf("P15.1: Print(%x): %s, not %s", ip, s, wanted)
		}
	}
}

func TestPrintSizes(t *testing.T) {
	for size := range 70 {
		for _, c := range []string{"\x00", "\x01", "\x7f", "\xff", "1", "."} {
			ip := strings.Repeat(c, size)
			if s := Print(ip); (s == "") != (size != 4 && size != 16) {
				t.Errorf("P15.1: Print of %d bytes: %s", size, s)
			}
			checkPrint(t, ip)
		}
	}
	if s := Print(strings.Repeat("1", 1<<20)); s != "" {
		t.Errorf("P15.1: Print of 2^20 bytes: %s", told(s))
	}
}

// Every byte in each place, and any bytes: printed, and read back.
func TestPrintBack(t *testing.T) {
	for _, base := range []string{noughts(4), "\x01\x02\x03\x04", noughts(16), ahead + "abcd", "0123456789abcdef", strings.Repeat("\xff", 16)} {
		for place := range len(base) {
			for c := range 256 {
				b := []byte(base)
				b[place] = byte(c)
				checkPrint(t, string(b))
			}
		}
	}
	r := rand.New(rand.NewSource(152))
	for range 50000 {
		checkPrint(t, randomIP(r, 4))
		checkPrint(t, randomIP(r, 16))
	}
}

// Nets.

func TestNets(t *testing.T) {
	isNet(t, "10.0.0.0/8", "\x0a\x00\x00\x00", 8)
	isNet(t, "0.0.0.0/0", noughts(4), 0)
	isNet(t, "0.0.0.0/32", noughts(4), 32)
	isNet(t, "0.0.0.0", noughts(4), 32)
	isNet(t, "128.0.0.0/1", "\x80\x00\x00\x00", 1)
	isNet(t, "254.0.0.0/7", "\xfe\x00\x00\x00", 7)
	isNet(t, "1.2.3.4", "\x01\x02\x03\x04", 32)
	isNet(t, "1.2.3.4/32", "\x01\x02\x03\x04", 32)
	isNet(t, "1.2.3.254/31", "\x01\x02\x03\xfe", 31)
	isNet(t, "1.2.3.128/25", "\x01\x02\x03\x80", 25)
	isNet(t, "::/0", noughts(16), 0)
	isNet(t, "::", noughts(16), 128)
	isNet(t, "::1", noughts(15)+"\x01", 128)
	isNet(t, "::2/127", noughts(15)+"\x02", 127)
	isNet(t, "8000::/1", "\x80"+noughts(15), 1)
	isNet(t, "FE00::/7", "\xfe"+noughts(15), 7)
	isNet(t, "2001:db8::/31", "\x20\x01\x0d\xb8"+noughts(12), 31)
	isNet(t, "2001:db8::/32", "\x20\x01\x0d\xb8"+noughts(12), 32)
	isNet(t, "2001:db8::/33", "\x20\x01\x0d\xb8"+noughts(12), 33)
	isNet(t, "::ffff:a00:0/8", "\x0a\x00\x00\x00", 8)
	isNet(t, "::ffff:a00:0", "\x0a\x00\x00\x00", 32)
	isNet(t, "::ffff:a00:0/32", "\x0a\x00\x00\x00", 32)
	isNet(t, "::ffff:0:0/0", noughts(4), 0)
	isNet(t, "::fffe:a00:0/120", noughts(10)+"\xff\xfe\x0a\x00\x00\x00", 120)
	for _, s := range []string{
		"", "/", "//", "/0", "/8", "/32", "/128", "10.0.0.0/", "10.0.0.0//", "10.0.0.0//8", "10.0.0.0/8/", "10.0.0.0/8/8", "/10.0.0.0/8", "8/10.0.0.0",
		"10.0.0.0/33", "10.0.0.0/64", "10.0.0.0/128", "10.0.0.0/-1", "10.0.0.0/-0", "10.0.0.0/+8", "10.0.0.0/08", "0.0.0.0/00", "10.0.0.0/008", "10.0.0.0/8 ", "10.0.0.0/ 8", "10.0.0.0 /8", " 10.0.0.0/8", "10.0.0.0/8\n",
		"10.0.0.0/0x8", "10.0.0.0/a", "10.0.0.0/8a", "10.0.0.0/a8", "10.0.0.0/8.0", "10.0.0.0/255.0.0.0", "10.0.0.0/8:", "10.0.0.0/1e1", "10.0.0.0/::", "10.0.0.0\\8",
		"10.0.0.1/8", "10.0.0.1/31", "10.0.0.1/0", "128.0.0.0/0", "64.0.0.0/1", "1.2.3.128/24", "10.128.0.0/8", "255.255.255.255/31", "1.0.0.0/7", "1.2.3.4/29",
		"::/129", "::/130", "::/1000", "::/-1", "::/00", "::/0128", "::/", "::/:", "::1/127", "::1/0", "8000::/0", "4000::/1", "2001:db8::/28", "2001:db8:8000::/32", "ffff::/15",
		"::ffff:a00:0/104", "::ffff:a00:0/33", "::ffff:a00:0/96", "::ffff:a00:0/128", "::ffff:a00:0/6", "::ffff:a00:0/0", "::ffff:a00:1/8", "::ffff:a00:1/31", "::ffff:0:0/96", "::ffff:0:0/33",
		"::ffff:10.0.0.0/8", "::ffff:10.0.0.0", "[::]/0", "[::/0]", "::%0/0", "x/8", "10.0.0/8", "10.0.0.0.0/8", "10/8", ":/0", "1:2/16", "host/8", "/::", "*",
		"0.0.0.0/4294967296", "0.0.0.0/4294967328", "0.0.0.0/18446744073709551616", "0.0.0.0/18446744073709551648", "::/18446744073709551617", "0.0.0.0/9223372036854775808", "0.0.0.0/-18446744073709551608",
	} {
		isNoNet(t, s)
	}
}

// Each number of bits, of an address with nothing behind these, of one with the
// last of them set, and of one with a bit more set: right behind, or at the end.
func TestNetBits(t *testing.T) {
	for _, kind := range []struct {
		before string
		size   int
	}{{"", 4}, {"", 16}, {ahead, 4}} {
		all := 8 * kind.size
		for bits := range all + 200 {
			tail := "/" + strconv.Itoa(bits)
			empty := wantPrint(kind.before + noughts(kind.size))
			if bits > all {
				isNoNet(t, empty+tail)
				continue
			}
			isNet(t, empty+tail, noughts(kind.size), bits)
			isNoNet(t, empty+"/0"+strconv.Itoa(bits))
			for last := range all {
				ip := withBit(kind.size, last)
				s := wantPrint(kind.before+ip) + tail
				if last < bits {
					isNet(t, s, ip, bits)
				} else {
					isNoNet(t, s)
				}
			}
			ones := full(kind.size, bits)
			isNet(t, wantPrint(kind.before+ones)+tail, ones, bits)
			if bits < all {
				isNoNet(t, wantPrint(kind.before+full(kind.size, bits+1))+tail)
				isNoNet(t, wantPrint(kind.before+full(kind.size, all))+tail)
			}
		}
	}
}

// withBit is so many bytes with one bit set, the highest of the first is 0.
func withBit(size, place int) string {
	b := make([]byte, size)
	b[place/8] = []byte{128, 64, 32, 16, 8, 4, 2, 1}[place%8]
	return string(b)
}

// full is so many bytes whose first bits are set.
func full(size, bits int) string {
	b := make([]byte, size)
	for i := range bits {
		b[i/8] |= withBit(size, i)[i/8]
	}
	return string(b)
}

func TestPrintNet(t *testing.T) {
	four, sixteen := "\x0a\x00\x00\x00", "\x20\x01\x0d\xb8"+noughts(12)
	for _, c := range []struct {
		n      Net
		wanted string
	}{
		{Net{four, 8}, "10.0.0.0/8"}, {Net{four, 0}, "10.0.0.0/0"}, {Net{four, 1}, "10.0.0.0/1"}, {Net{four, 31}, "10.0.0.0/31"}, {Net{four, 32}, "10.0.0.0/32"}, {Net{four, 33}, "10.0.0.0/33"},
		{Net{four, -1}, "10.0.0.0/-1"}, {Net{four, math.MinInt}, "10.0.0.0/-9223372036854775808"}, {Net{four, math.MaxInt}, "10.0.0.0/9223372036854775807"},
		{Net{"\x01\x02\x03\x04", 8}, "1.2.3.4/8"},
		{Net{sixteen, 33}, "2001:db8:0:0:0:0:0:0/33"}, {Net{sixteen, 0}, "2001:db8:0:0:0:0:0:0/0"}, {Net{sixteen, 127}, "2001:db8:0:0:0:0:0:0/127"}, {Net{sixteen, 128}, "2001:db8:0:0:0:0:0:0/128"}, {Net{sixteen, 129}, "2001:db8:0:0:0:0:0:0/129"}, {Net{sixteen, -128}, "2001:db8:0:0:0:0:0:0/-128"},
		{Net{ahead + four, 104}, "0:0:0:0:0:ffff:a00:0/104"},
		{Net{}, "/0"}, {Net{"abc", 3}, "/3"}, {Net{"", -5}, "/-5"}, {Net{strings.Repeat("x", 17), 128}, "/128"},
	} {
		if s := PrintNet(c.n); s != c.wanted {
			t.Errorf("P15.2: PrintNet(%x, %d): %s, not %s", c.n.IP, c.n.Bits, s, c.wanted)
		}
	}
}

// strange has counts that are out of bounds, or at them, and ordinary ones.
func strange() []int {
	return []int{
		math.MinInt, math.MinInt + 1, math.MinInt + 8, -1 << 32, -1<<32 + 8, -256, -128, -33, -32, -8, -1, 0, 1, 7, 8, 9, 15, 16, 17, 24, 31, 32, 33,
		34, 40, 63, 64, 65, 96, 104, 120, 127, 128, 129, 130, 136, 255, 256, 264, 1 << 32, 1<<32 + 8, math.MaxInt - 7, math.MaxInt - 1, math.MaxInt,
	}
}

// Nets and addresses of any length, with any number of bits.
func TestSizes(t *testing.T) {
	for of := range 21 {
		for _, bits := range strange() {
			n := Net{IP: strings.Repeat("\x5a", of), Bits: bits}
			if s, wanted := PrintNet(n), wantPrint(n.IP)+"/"+strconv.Itoa(bits); s != wanted {
				t.Errorf("P15.2: PrintNet of %d bytes, %d: %s, not %s", of, bits, s, wanted)
			}
			checkNet(t, PrintNet(n))
			for size := range 40 {
				for _, c := range []string{"\x00", "\x5a", "\xff"} {
					ip := strings.Repeat(c, size)
					if In(n, ip) != wantIn(n, ip) {
						t.Errorf("P15.2: In(%x/%d, %x): %v", n.IP, bits, ip, !wantIn(n, ip))
					}
				}
			}
		}
	}
}

func TestIn(t *testing.T) {
	ten := Net{IP: "\x0a\x80\x00\x00", Bits: 9}
	for ip, wanted := range map[string]bool{
		"\x0a\x80\x00\x00": true, "\x0a\xff\xff\xff": true, "\x0a\x81\x02\x03": true, "\x0a\x7f\xff\xff": false, "\x0a\x00\x00\x00": false, "\x0b\x80\x00\x00": false, "\x8a\x80\x00\x00": false,
		"": false, "\x0a": false, "\x0a\x80\x00": false, "\x0a\x80\x00\x00\x00": false, ahead + "\x0a\x80\x00\x00": false, "\x0a\x80\x00\x00" + noughts(12): false,
	} {
		if In(ten, ip) != wanted {
			t.Errorf("P15.2: In(10.128.0.0/9, %x): %v", ip, !wanted)
		}
	}
	for _, c := range []struct {
		n      Net
		ip     string
		wanted bool
	}{
		{Net{}, "", false}, {Net{"abc", 3}, "abc", false}, {Net{"abcde", 0}, "abcde", false}, {Net{"", 0}, "abcd", false}, {Net{"12345678", 64}, "12345678", false},
		{Net{"\x0b\x0c\x0d\x0e", 0}, "\x01\x02\x03\x04", true}, {Net{"\x0b\x0c\x0d\x0e", 0}, noughts(16), false}, {Net{noughts(16), 0}, noughts(4), false}, {Net{noughts(16), 0}, strings.Repeat("\xff", 16), true},
		{Net{"\x0a\xff\x00\x01", 9}, "\x0a\x80\x00\x00", true}, {Net{"\x0a\xff\x00\x01", 9}, "\x0a\x00\x00\x00", false},
		{Net{ahead + "\x0a\x00\x00\x00", 104}, "\x0a\x00\x00\x00", false}, {Net{ahead + "\x0a\x00\x00\x00", 104}, ahead + "\x0a\x01\x02\x03", true}, {Net{ahead + "\x0a\x00\x00\x00", 104}, ahead + "\x0b\x01\x02\x03", false},
		{Net{noughts(16), 128}, noughts(16), true}, {Net{noughts(16), 129}, noughts(16), false}, {Net{noughts(4), 33}, noughts(4), false}, {Net{noughts(4), -1}, noughts(4), false},
	} {
		if In(c.n, c.ip) != c.wanted {
			t.Errorf("P15.2: In(%x/%d, %x): %v", c.n.IP, c.n.Bits, c.ip, !c.wanted)
		}
	}
}

// An address that differs from the net's in one bit is in it, if that bit is
// behind those that count; one that differs in all of those behind too.
func TestInEachBit(t *testing.T) {
	r := rand.New(rand.NewSource(153))
	for _, size := range []int{4, 16} {
		for _, base := range []string{noughts(size), strings.Repeat("\xff", size), strings.Repeat("\xa5", size), randomIP(r, size)} {
			for bits := range 8*size + 1 {
				n := Net{IP: base, Bits: bits}
				if !In(n, base) || !In(n, differing(base, full(size, bits), "\xff")) {
					t.Errorf("P15.2: %x/%d has not its own", base, bits)
				}
				for place := range 8 * size {
					ip := differing(base, noughts(size), withBit(size, place))
					if In(n, ip) != (place >= bits) {
						t.Errorf("P15.2: In(%x/%d, %x): %v", base, bits, ip, place < bits)
					}
				}
			}
		}
	}
}

// differing is ip with those bits changed that are set in by (again and again)
// and not in kept.
func differing(ip, kept, by string) string {
	b := []byte(ip)
	for i := range b {
		b[i] ^= by[i%len(by)] &^ kept[i]
	}
	return string(b)
}

func TestInRandom(t *testing.T) {
	r := rand.New(rand.NewSource(154))
	sizes := []int{4, 4, 4, 16, 16, 16, 0, 3, 5, 15, 17}
	for range 200000 {
		size := sizes[r.Intn(len(sizes))]
		n := Net{IP: randomIP(r, size), Bits: r.Intn(8*size+3) - 1}
		ip := []byte(n.IP)
		for range r.Intn(4) {
			if size > 0 {
				ip[r.Intn(size)] ^= 1 << r.Intn(8)
			}
		}
		if r.Intn(20) == 0 {
			ip = []byte(randomIP(r, sizes[r.Intn(len(sizes))]))
		}
		if got := In(n, string(ip)); got != wantIn(n, string(ip)) {
			t.Fatalf("P15.2: In(%x/%d, %x): %v", n.IP, n.Bits, ip, got)
		}
		checkNet(t, PrintNet(n))
	}
}

// What follows.

// Any net that is one comes back.
func TestNetBack(t *testing.T) {
	r := rand.New(rand.NewSource(155))
	for range 50000 {
		size := 4 + 12*r.Intn(2)
		bits := r.Intn(8*size + 1)
		b := []byte(randomIP(r, size))
		for i, c := range []byte(full(size, bits)) {
			b[i] &= c
		}
		n := Net{IP: string(b), Bits: bits}
		if strings.HasPrefix(n.IP, ahead) {
			continue
		}
		if back, e := ParseNet(PrintNet(n)); back != n || e != 0 {
			t.Fatalf("P15.3: %x/%d: %s: %x/%d, %d", n.IP, bits, PrintNet(n), back.IP, back.Bits, e)
		}
		if !In(n, n.IP) {
			t.Fatalf("P15.2: %x/%d has not its own", n.IP, bits)
		}
	}
}

// An address alone is a net of itself alone.
func TestAlone(t *testing.T) {
	r := rand.New(rand.NewSource(156))
	for range 2000 {
		for _, size := range []int{4, 16} {
			s := wantPrint(randomIP(r, size))
			ip, e := Parse(s)
			n, also := ParseNet(s)
			if e != 0 || also != 0 || n.IP != ip || n.Bits != 8*len(ip) || !In(n, ip) {
				t.Fatalf("P15.2: ParseNet(%s): %x/%d, %d", s, n.IP, n.Bits, also)
			}
			place := r.Intn(8 * len(ip))
			if other := differing(ip, noughts(len(ip)), withBit(len(ip), place)); In(n, other) {
				t.Fatalf("P15.2: %s has %x", s, other)
			}
		}
	}
}
