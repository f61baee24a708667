package origin_test

import (
	"math/rand"
	"strconv"
	"strings"
	"testing"

	"herald/api"
)

func one[T any](r *rand.Rand, l ...T) T { return l[r.Intn(len(l))] }

// anyLetters is the text with some letters large.
func anyLetters(r *rand.Rand, s string) string {
	b := []byte(s)
	for i := range b {
		if r.Intn(3) == 0 {
			b[i] = strings.ToUpper(s)[i]
		}
	}
	return string(b)
}

func randomPart(r *rand.Rand) string {
	switch r.Intn(40) {
	case 0:
		return ""
	case 1:
		return "-" + one(r, "", "a")
	case 2:
		return "a-"
	case 3:
		return strings.Repeat("q", 61+r.Intn(4))
	case 4:
		return one(r, "a_b", "\u00e9", "\xff", "a b", "@", "a:1", "\u212a")
	}
	var s strings.Builder
	for range 1 + r.Intn(5) {
		s.WriteByte(one(r, []byte("abcxyz019")...))
	}
	return s.String() + one(r, "", "", "", "-z", "--0")
}

func randomHost(r *rand.Rand) string {
	parts := []string{randomPart(r)}
	for range one(r, 0, 0, 1, 1, 2, 3, 4, 60) {
		parts = append(parts, randomPart(r))
	}
	return strings.Join(parts, ".")
}

func randomPort(r *rand.Rand) string {
	switch r.Intn(10) {
	case 0:
		return one(r, "", "0", "080", "65536", "65535", "99999", "100000", "+80", "-1", "8 0", "80:80", "x")
	case 1, 2:
		return strconv.Itoa(r.Intn(80000))
	}
	return one(r, "80", "443", "8080", "1", "65535")
}

func randomText(r *rand.Rand) string {
	s := one(r, "http", "https", "http", "https", "http", "https", "ftp", "", "httpss") + one(r, "://", "://", "://", "://", "://", "://", "://", ":/", "//", "") + randomHost(r)
	if r.Intn(2) == 0 {
		s += ":" + randomPort(r)
	}
	if r.Intn(10) == 0 {
		at := r.Intn(len(s) + 1)
		s = s[:at] + string([]byte{byte(r.Intn(256))}) + s[at:]
	}
	if r.Intn(3) == 0 {
		s = anyLetters(r, s)
	}
	return s
}

// TestRandomTexts: any texts, parsed, and printed again.
func TestRandomTexts(t *testing.T) {
	r := rand.New(rand.NewSource(151))
	taken := 0
	for range 50000 {
		if holdParse(t, randomText(r)) {
			taken++
		}
	}
	if taken < 10000 || taken > 40000 {
		t.Errorf("of the random texts %d were taken: too few or too many to tell", taken)
	}
}

// TestRandomPrints: any origins, printed, and parsed again.
func TestRandomPrints(t *testing.T) {
	r := rand.New(rand.NewSource(152))
	taken := 0
	for range 50000 {
		o := of(one(r, "http", "https", "http", "https", "HTTP", ""), randomHost(r), one(r, 80, 443, 1+r.Intn(65535), r.Intn(80000)-5000))
		if holdPrint(t, o) {
			taken++
		}
	}
	if taken < 10000 || taken > 40000 {
		t.Errorf("of the random origins %d were taken: too few or too many to tell", taken)
	}
}

// randomOrigin is out of few, so that many are the same; now and then a wrong one.
func randomOrigin(r *rand.Rand) api.Origin {
	if r.Intn(60) == 0 {
		return one(r, wrongOrigins()...)
	}
	return of(one(r, "http", "https"), one(r, "a", "b", "c.d", "a.b", "z-9"), one(r, 80, 443, 8080, 65535))
}

func randomOrigins(r *rand.Rand) []api.Origin {
	var l []api.Origin
	for range r.Intn(20) {
		o := randomOrigin(r)
		for r.Intn(10) > 0 && modelOf(append(l, o)) == twiceError {
			o = randomOrigin(r)
		}
		l = append(l, o)
	}
	return l
}

// TestRandomSets: any lists, any calls on the sets of them, several at a time.
func TestRandomSets(t *testing.T) {
	r := rand.New(rand.NewSource(155))
	told := make(map[api.Errno]int)
	had := make(map[bool]int)
	var sets []*both
	for range 20000 {
		l := randomOrigins(r)
		told[modelOf(l)]++
		if b := holdOf(t, l); b != nil {
			sets = append(sets, b)
		}
		if len(sets) > 5 {
			sets = sets[1:]
		}
		for _, b := range sets {
			authority := one(r, "a", "b", "c.d", "a.b", "z-9", "d.c", "") + one(r, "", ":80", ":443", ":8080", ":65535", ":", ":0", ":080")
			had[b.holdHas(t, one(r, "http", "https", "http", "https", "HTTP", ""), anyLetters(r, authority))]++
			b.look(t, "P15.4")
		}
	}
	for _, e := range []api.Errno{api.OK, originError, twiceError, fullError} {
		if told[e] < 500 {
			t.Errorf("of the random lists %d answer %d: too few to tell", told[e], e)
		}
	}
	if had[true] < 5000 || had[false] < 5000 {
		t.Errorf("of the random calls of Has %d were true, %d false: too few to tell", had[true], had[false])
	}
}

// FuzzParse: any text, and its two halves as they are in an origin.
func FuzzParse(f *testing.F) {
	for _, s := range []string{"https://example.com", "HTTP://Example.COM:8080", "https://a:443", "http://a..b", "http\u017f://a", "https://u@a:080", "http://-a.b-"} {
		f.Add(s, 443)
	}
	f.Fuzz(func(t *testing.T, s string, port int) {
		holdParse(t, s)
		scheme, host, _ := strings.Cut(s, "://")
		holdPrint(t, of(scheme, host, port))
	})
}

// FuzzSets: a set of three origins out of some texts, and Has of those texts.
func FuzzSets(f *testing.F) {
	f.Add("https", "example.com", 443, "EXAMPLE.com:443")
	f.Add("http", "a", 8080, "a:8080")
	f.Add("https", "a-b", 80, "u@a-b:80")
	f.Add("HTTP", "A", 0, ":")
	f.Fuzz(func(t *testing.T, scheme, host string, port int, authority string) {
		b := holdOf(t, []api.Origin{of(scheme, host, port), origin443(host), origin80("fixed")})
		if b == nil {
			b = holdOf(t, []api.Origin{of(scheme, host, port)})
		}
		if b == nil {
			b = wantSet(t, origin443("a"), origin80("b"))
		}
		b.holdHas(t, scheme, authority)
		b.holdHas(t, scheme, host)
		b.holdHas(t, "https", authority)
		b.holdHas(t, "https", host+":"+strconv.Itoa(port))
		b.look(t, "P15.4")
	})
}
