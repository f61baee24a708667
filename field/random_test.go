package field_test

import (
	"math/rand"
	"strings"
	"testing"

	"herald/api"
	"herald/field"
	"herald/lists"
)

// someTexts are right and wrong, for every place of a field, and of a head.
var someTexts = []string{
	"", "a", "x-1", "accept", "A", "GET", "HEAD", "OPTIONS", "options", "*", "/", "/a", "/a b", "https", "http", "9p", "a.test", "a.test:80",
	"200", "100", "599", "600", "99", "0200", "+20", "trailers", "gzip", " ", " a", "a ", "a\t", "a b", "a\nb", "\x00", "\r", "\x7f", "\x80", "\u00e9", "\u0161",
	"te", "connection", "keep-alive", "proxy-connection", "transfer-encoding", "upgrade", "~", "!#$%&'*+-.^_~|\x60", "(", "@",
	":", "::", ":method", ":scheme", ":authority", ":path", ":status", ":protocol", ":Path", "method",
	strings.Repeat("a", 64), strings.Repeat("a", 65), ":" + strings.Repeat("a", 64), ":" + strings.Repeat("a", 65), strings.Repeat("a", 4096), strings.Repeat("a", 4097), "/" + strings.Repeat("p", 4095),
}

func randomText(r *rand.Rand) string {
	if r.Intn(6) > 0 {
		return someTexts[r.Intn(len(someTexts))]
	}
	b := make([]byte, r.Intn(5))
	for i := range b {
		b[i] = byte(r.Intn(256))
	}
	return string(b)
}

func randomField(r *rand.Rand) api.Field {
	return api.Field{Name: randomText(r), Value: randomText(r), Never: r.Intn(3) == 0}
}

func randomPlain(r *rand.Rand) api.Field {
	names := []string{"a", "x-1", "accept", "te-", "cookie", "~"}
	values := []string{"", "a", "a b", "\xc8", "trailers", "1"}
	return api.Field{Name: names[r.Intn(len(names))], Value: values[r.Intn(len(values))], Never: r.Intn(3) == 0}
}

// rightList is a request's or a response's, of up to 64 fields, its pseudo fields in any order.
func rightList(r *rand.Rand) []api.Field {
	l := lists.Of(":status", []string{"100", "200", "404", "599"}[r.Intn(4)])
	if r.Intn(2) == 0 {
		l = lists.Of(":method", []string{"GET", "OPTIONS", "a!"}[r.Intn(3)], ":scheme", []string{"http", "a+b"}[r.Intn(2)], ":authority", "a:80", ":path", []string{"/", "/*"}[r.Intn(2)])
		if l[0].Value == "OPTIONS" && r.Intn(2) == 0 {
			l[3].Value = "*"
		}
	}
	r.Shuffle(len(l), func(i, j int) { l[i], l[j] = l[j], l[i] })
	n := r.Intn(6)
	if r.Intn(10) == 0 {
		n = 58 + r.Intn(3)
	}
	for range n {
		l = append(l, randomPlain(r))
	}
	return l
}

// randomList is a right one with up to three things done to it.
func randomList(r *rand.Rand) []api.Field {
	l := rightList(r)
	for range r.Intn(4) {
		i := r.Intn(len(l) + 1)
		j := min(i, len(l)-1)
		switch r.Intn(8) {
		case 0:
			l = lists.Put(l, i, randomField(r))
		case 1:
			l = lists.Put(l, i, randomPlain(r))
		case 2:
			l = lists.Put(l, i, l[r.Intn(len(l))])
		case 3:
			l = lists.Instead(l, j, p(l[j].Name, randomText(r)))
		case 4:
			l = lists.Instead(l, j, p(randomText(r), l[j].Value))
		case 5:
			k := r.Intn(len(l))
			l[j], l[k] = l[k], l[j]
		case 6:
			if len(l) > 1 {
				l = lists.Without(l, j)
			}
		case 7:
			l = lists.Filled(l, 62+r.Intn(5))
		}
	}
	return l
}

// TestRandomLists: P13.1 to P13.3: lists of all kinds against the model; each error comes, and both kinds are taken.
func TestRandomLists(t *testing.T) {
	r := rand.New(rand.NewSource(131))
	requests, responses := map[api.Errno]int{}, map[api.Errno]int{}
	for range 60000 {
		l := randomList(r)
		wantRead(t, l)
		_, qe := field.ReadRequest(l)
		_, re := field.ReadResponse(l)
		requests[qe]++
		responses[re]++
		if t.Failed() {
			return
		}
	}
	for _, e := range []api.Errno{0, longError, fieldError, headError} {
		if requests[e] < 1000 || responses[e] < 1000 {
			t.Errorf("%d of the random lists have the error %d as requests, %d as responses", requests[e], e, responses[e])
		}
	}
}

// TestRandomTexts: P13.1: lists of texts that are made of nothing but the pool.
func TestRandomTexts(t *testing.T) {
	r := rand.New(rand.NewSource(132))
	for range 30000 {
		var l []api.Field
		for range r.Intn(7) {
			l = append(l, randomField(r))
		}
		wantRead(t, l)
		s := randomText(r) + randomText(r)
		wantName(t, s, modelName(s))
		wantValue(t, s, modelValue(s))
		if t.Failed() {
			return
		}
	}
}

// TestRandomDamage: P13.3: of random lists that are taken, every one without, with one twice, with one behind.
func TestRandomDamage(t *testing.T) {
	r := rand.New(rand.NewSource(133))
	for range 3000 {
		l := rightList(r)
		refused := func(l []api.Field) {
			t.Helper()
			want := headError
			if len(l) > 64 {
				want = longError
			}
			if _, e := field.ReadRequest(l); e != want {
				t.Errorf("P13.3: ReadRequest(%s): %d, want %d", lists.Shown(l), e, want)
			}
			if _, e := field.ReadResponse(l); e != want {
				t.Errorf("P13.3: ReadResponse(%s): %d, want %d", lists.Shown(l), e, want)
			}
		}
		pseudo := len(l) - len(modelPlain(l))
		for i := range pseudo {
			less := lists.Without(l, i)
			refused(less)
			refused(lists.Put(l, r.Intn(len(l)+1), l[i]))
			for at := pseudo; at < len(l); at++ {
				refused(lists.Put(less, at, l[i]))
			}
		}
		if t.Failed() {
			return
		}
	}
}

// TestRandomWrites: P13.1, P13.2: messages of all kinds against the model.
func TestRandomWrites(t *testing.T) {
	r := rand.New(rand.NewSource(134))
	taken := 0
	for range 30000 {
		q := api.Request{Method: "OPTIONS", Scheme: "http", Authority: "a", Path: "*", Body: randomText(r)}
		for _, s := range []*string{&q.Method, &q.Scheme, &q.Authority, &q.Path} {
			if r.Intn(8) == 0 {
				*s = randomText(r)
			}
		}
		for range r.Intn(5) {
			q.Fields = append(q.Fields, randomPlain(r))
		}
		if r.Intn(4) == 0 {
			q.Fields = append(q.Fields, randomField(r))
		}
		if r.Intn(8) == 0 {
			q.Fields = lists.Filled(q.Fields, 58+r.Intn(7))
		}
		wantWriteRequest(t, q)
		wantWriteResponse(t, api.Response{Status: 90 + r.Intn(520), Fields: q.Fields, Body: q.Body})
		if _, e := field.WriteRequest(q); e == api.OK {
			taken++
		}
		if t.Failed() {
			return
		}
	}
	if taken < 3000 {
		t.Errorf("only %d of the random requests are taken", taken)
	}
}

// listOf reads any text as a list: two lengths, a name, a value, again and again.
func listOf(text string) []api.Field {
	var l []api.Field
	take := func(n byte) string {
		s := text[:min(int(n), len(text))]
		text = text[len(s):]
		return s
	}
	for len(text) > 1 {
		n, m := text[0], text[1]
		text = text[2:]
		l = append(l, api.Field{Name: take(n % 80), Value: take(m), Never: n >= 160})
	}
	return l
}

// textOf is a text that listOf reads as the list, where its texts are short.
func textOf(l []api.Field) string {
	var b strings.Builder
	for _, f := range l {
		n := byte(len(f.Name))
		if f.Never {
			n += 160
		}
		b.WriteByte(n)
		b.WriteByte(byte(len(f.Value)))
		b.WriteString(f.Name + f.Value)
	}
	return b.String()
}

// FuzzRead: any list.
func FuzzRead(f *testing.F) {
	for _, l := range [][]api.Field{nil, someRequest(), someResponse(), orders(someRequest()[:4])[23], lists.Filled(someRequest(), 65), lists.Put(someRequest(), 4, p("upgrade", "")), lists.Of(":method", "OPTIONS", ":path", "*", ":scheme", "a", ":authority", "b")} {
		f.Add(textOf(l))
	}
	f.Fuzz(func(t *testing.T, text string) {
		l := listOf(text)
		wantRead(t, l)
		wantName(t, text, modelName(text))
		wantValue(t, text, modelValue(text))
		x, unchanged := lists.Guarded(l)
		wantRead(t, x)
		if !unchanged() {
			t.Errorf("P13.1: %s or the room behind it was changed", lists.Shown(l))
		}
	})
}

// FuzzWrite: any request, and any response.
func FuzzWrite(f *testing.F) {
	f.Add("GET", "https", "a.test", "/", 200, textOf(someRequest()[4:]), "body")
	f.Add("OPTIONS", "a+b-c.9", "[::1]", "*", -200, textOf(lists.Of(":method", "PUT")), "")
	f.Add("", "9", " ", "a", 1<<62, textOf(lists.Filled(nil, 61)), "")
	f.Fuzz(func(t *testing.T, method, scheme, authority, path string, status int, text, body string) {
		l := listOf(text)
		wantWriteRequest(t, api.Request{Method: method, Scheme: scheme, Authority: authority, Path: path, Fields: l, Body: body})
		wantWriteResponse(t, api.Response{Status: status, Fields: l, Body: body})
	})
}
