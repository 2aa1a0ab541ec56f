package ident_test

import (
	"math/big"
	"strings"
	"testing"

	"giro/api"
	"giro/ident"
)

const alphabet = "0123456789ABCDEFGHIJKLMNOPQRSTUVWXYZ"

// expansion returns the decimal digits of the values of the characters.
func expansion(s string) string {
	var b strings.Builder
	for i := range len(s) {
		b.WriteString(big.NewInt(int64(strings.IndexByte(alphabet, s[i]))).String())
	}
	return b.String()
}

// luhn returns the check digit by the chapter's words.
func luhn(s string) byte {
	x := expansion(s)
	sum := 0
	for i := range len(x) {
		d := int(x[len(x)-1-i] - '0')
		if i%2 == 0 {
			d *= 2
		}
		sum += d/10 + d%10
	}
	return byte('0' + (1000-sum)%10)
}

// pair returns the check digits of an LEI by trying all.
func pair(s string) string {
	for d := 2; d <= 98; d++ {
		two := string([]byte{byte('0' + d/10), byte('0' + d%10)})
		n, _ := new(big.Int).SetString(expansion(s)+two, 10)
		if n.Mod(n, big.NewInt(97)).Int64() == 1 {
			return two
		}
	}
	return ""
}

// text returns the n-th of many strings of letters and digits.
func text(n, length int) string {
	x := uint64(n)*2862933555777941757 + 3037000493
	b := make([]byte, length)
	for i := range b {
		x = x*6364136223846793005 + 1442695040888963407
		b[i] = alphabet[(x>>33)%36]
	}
	return string(b)
}

func expect(t *testing.T, kind int, s string, at int, e api.Errno) {
	t.Helper()
	gotAt, gotE := ident.Check(kind, s)
	if gotAt != at || gotE != e {
		t.Errorf("Check(%d, %q) = %d, %d, want %d, %d", kind, s, gotAt, gotE, at, e)
	}
	if ident.Valid(kind, s) != (e == api.OK) {
		t.Errorf("Valid(%d, %q)", kind, s)
	}
}

// P5.1
func TestCheck(t *testing.T) {
	lei := strings.Repeat("0", 18)
	for _, x := range []struct {
		kind int
		s    string
		at   int
		e    api.Errno
	}{
		{ident.ISIN, "US0378331005", 0, api.OK},
		{ident.ISIN, "", 0, api.ErrShort},
		{ident.ISIN, "US", 2, api.ErrShort},
		{ident.ISIN, "US037833100", 11, api.ErrShort},
		{ident.ISIN, "1S0378331005", 0, api.ErrFormat},
		{ident.ISIN, "U10378331005", 1, api.ErrFormat},
		{ident.ISIN, "us0378331005", 0, api.ErrFormat},
		{ident.ISIN, "US0-78331005", 3, api.ErrFormat},
		{ident.ISIN, "US03a", 4, api.ErrFormat},
		{ident.ISIN, "US037833100A", 11, api.ErrFormat},
		{ident.ISIN, "US037833100AA", 11, api.ErrFormat},
		{ident.ISIN, "US0378331005-", 12, api.ErrLong},
		{ident.ISIN, "US0378331006", 11, api.ErrChecksum},
		{ident.ISIN, "US03783310066", 12, api.ErrLong},
		{ident.Member, "BANK", 0, api.OK},
		{ident.Member, "B0001234", 0, api.OK},
		{ident.Member, "BAN", 3, api.ErrShort},
		{ident.Member, "", 0, api.ErrShort},
		{ident.Member, "0ANK", 0, api.ErrFormat},
		{ident.Member, "BAN-", 3, api.ErrFormat},
		{ident.Member, "B-", 1, api.ErrFormat},
		{ident.Member, "BANKABCDE", 8, api.ErrLong},
		{ident.Member, "BANKABCD\xff", 8, api.ErrLong},
		{ident.Member, "BANKABC\xff", 7, api.ErrFormat},
		{ident.Ref, "-", 0, api.OK},
		{ident.Ref, "A-1", 0, api.OK},
		{ident.Ref, "0123456789ABCDEF", 0, api.OK},
		{ident.Ref, "", 0, api.ErrShort},
		{ident.Ref, "0123456789ABCDEFG", 16, api.ErrLong},
		{ident.Ref, "A_1", 1, api.ErrFormat},
		{ident.Ref, "a", 0, api.ErrFormat},
		{ident.LEI, lei + "98", 0, api.OK},
		{ident.LEI, lei + "01", 18, api.ErrChecksum},
		{ident.LEI, lei + "97", 18, api.ErrChecksum},
		{ident.LEI, lei + "9A", 19, api.ErrFormat},
		{ident.LEI, lei + "A8", 18, api.ErrFormat},
		{ident.LEI, lei + "9", 19, api.ErrShort},
		{ident.LEI, lei + "980", 20, api.ErrLong},
		{-1, "BANK", 0, api.ErrKind},
		{ident.NumKinds, "", 0, api.ErrKind},
	} {
		expect(t, x.kind, x.s, x.at, x.e)
	}
}

// P5.1
func TestEveryByte(t *testing.T) {
	for c := range 256 {
		s := string([]byte{byte(c)})
		letter := 'A' <= c && c <= 'Z'
		digit := '0' <= c && c <= '9'
		if ident.Valid(ident.Ref, s) != (letter || digit || c == '-') {
			t.Error("reference", c)
		}
		if ident.Valid(ident.Member, s+"AAA") != letter || ident.Valid(ident.Member, "AAA"+s) != (letter || digit) {
			t.Error("member", c)
		}
	}
}

// P5.2 P5.4
func TestCheckDigits(t *testing.T) {
	for n := range 300 {
		body := "XS" + text(n, 9)
		d, e := ident.ISINCheckDigit(body)
		if e != api.OK || d != luhn(body) {
			t.Errorf("ISINCheckDigit(%q) = %c, %d", body, d, e)
		}
		for c := byte('0'); c <= '9'; c++ {
			if ident.Valid(ident.ISIN, body+string([]byte{c})) != (c == d) {
				t.Error(body, c)
			}
		}
		long := text(n, 18)
		two, e := ident.LEICheckDigits(long)
		if e != api.OK || two != pair(long) {
			t.Errorf("LEICheckDigits(%q) = %q, %d", long, two, e)
		}
		for d := range 100 {
			other := string([]byte{byte('0' + d/10), byte('0' + d%10)})
			if ident.Valid(ident.LEI, long+other) != (other == two) {
				t.Error(long, other)
			}
		}
	}
}

// P5.2
func TestCheckDigitErrors(t *testing.T) {
	for _, x := range []struct {
		s string
		e api.Errno
	}{
		{"", api.ErrShort}, {"US03783310", api.ErrShort}, {"US0378331005", api.ErrLong}, {"US037833100-", api.ErrLong},
		{"US0378331-0", api.ErrFormat}, {"1S", api.ErrFormat}, {"US03783310-x", api.ErrFormat},
	} {
		if d, e := ident.ISINCheckDigit(x.s); d != 0 || e != x.e {
			t.Errorf("ISINCheckDigit(%q) = %d, %d", x.s, d, e)
		}
	}
	zeros := strings.Repeat("0", 17)
	for _, x := range []struct {
		s string
		e api.Errno
	}{
		{"", api.ErrShort}, {zeros, api.ErrShort}, {zeros + "00", api.ErrLong}, {zeros + "0-", api.ErrLong}, {zeros + "-", api.ErrFormat}, {"a", api.ErrFormat},
	} {
		if d, e := ident.LEICheckDigits(x.s); d != "" || e != x.e {
			t.Errorf("LEICheckDigits(%q) = %q, %d", x.s, d, e)
		}
	}
}

// P5.3
func TestMakeISIN(t *testing.T) {
	for _, x := range []struct {
		country, number, want string
		e                     api.Errno
	}{
		{"US", "037833100", "US0378331005", api.OK},
		{"US", "37833100", "US0378331005", api.OK},
		{"XS", "Z", "XS00000000Z" + string([]byte{luhn("XS00000000Z")}), api.OK},
		{"U", "1", "", api.ErrFormat}, {"USA", "1", "", api.ErrFormat}, {"U1", "1", "", api.ErrFormat}, {"", "", "", api.ErrFormat},
		{"us", "", "", api.ErrFormat}, {"US", "0123456789-", "", api.ErrFormat}, {"US", "a", "", api.ErrFormat},
		{"US", "", "", api.ErrShort}, {"US", "0123456789", "", api.ErrLong},
	} {
		if got, e := ident.MakeISIN(x.country, x.number); got != x.want || e != x.e {
			t.Errorf("MakeISIN(%q, %q) = %q, %d, want %q, %d", x.country, x.number, got, e, x.want, x.e)
		}
	}
}

// P5.4
func TestReplacement(t *testing.T) {
	for n := range 40 {
		isin, _ := ident.MakeISIN("XS", text(n, 9))
		long := text(n, 18)
		two, _ := ident.LEICheckDigits(long)
		for _, x := range []struct {
			kind int
			s    string
		}{{ident.ISIN, isin}, {ident.LEI, long + two}} {
			for i := range len(x.s) {
				for c := range len(alphabet) {
					same := (alphabet[c] <= '9') == (x.s[i] <= '9')
					if !same || alphabet[c] == x.s[i] || x.kind == ident.ISIN && c > 9 {
						continue
					}
					other := x.s[:i] + alphabet[c:c+1] + x.s[i+1:]
					if ident.Valid(x.kind, other) {
						t.Error("not detected:", x.s, other)
					}
				}
				if x.kind == ident.LEI && i > 0 && x.s[i] <= '9' && x.s[i-1] <= '9' && x.s[i] != x.s[i-1] {
					if ident.Valid(x.kind, x.s[:i-1]+x.s[i:i+1]+x.s[i-1:i]+x.s[i+1:]) {
						t.Error("exchange not detected:", x.s, i)
					}
				}
			}
		}
	}
}

// Example 1
func TestExample(t *testing.T) {
	d, _ := ident.ISINCheckDigit("US037833100")
	zeros, _ := ident.LEICheckDigits(strings.Repeat("0", 18))
	ten, _ := ident.LEICheckDigits(strings.Repeat("0", 17) + "A")
	if d != '5' || zeros != "98" || ten != "68" {
		t.Error(d, zeros, ten)
	}
}
