package client_test

import (
	"fmt"
	"strings"
	"testing"

	"herald/api"
	"herald/lists"
)

// wantRefused wants an Ask to be refused with an error, and nothing to be changed.
func wantRefused(b *both, r api.Request, want api.Errno) {
	b.t.Helper()
	waiting := b.c.Waiting()
	if n, e := b.ask(r); n != 0 || e != want {
		b.t.Errorf("P23.1: %s: %d, %d, want %d", b.history(), n, e, want)
	}
	b.wantAnswers()
	if b.c.Waiting() != waiting {
		b.t.Errorf("P23.1: %s: it waits all the same", b.history())
	}
}

// fields are so many, each of a value of so many bytes.
func fields(n, size int) []api.Field {
	var all []api.Field
	for i := range n {
		all = append(all, api.Field{Name: fmt.Sprintf("x-%02d", i), Value: long(size)})
	}
	return all
}

// sized is a request whose list has just this size.
func sized(size int64) api.Request {
	r := get("/long", fields(16, 4000)...)
	left := size - sizeOf(listOf(r))
	for i := range r.Fields {
		more := min(left, 96)
		r.Fields[i].Value += long(int(more))
		left -= more
	}
	if left != 0 || sizeOf(listOf(r)) != size {
		panic("a test can't make a list of this size")
	}
	return r
}

// TestAskOfWrongRequests: what field refuses, with its error.
func TestAskOfWrongRequests(t *testing.T) {
	b := begun(t)
	change := func(to func(*api.Request)) api.Request {
		r := get("/a")
		to(&r)
		return r
	}
	for _, x := range []struct {
		r    api.Request
		want api.Errno
	}{
		{api.Request{}, headError},
		{change(func(r *api.Request) { r.Method = "" }), headError},
		{change(func(r *api.Request) { r.Method = "G T" }), headError},
		{change(func(r *api.Request) { r.Scheme = "HTTPS" }), headError},
		{change(func(r *api.Request) { r.Scheme = "" }), headError},
		{change(func(r *api.Request) { r.Authority = "" }), headError},
		{change(func(r *api.Request) { r.Authority = "a b" }), headError},
		{change(func(r *api.Request) { r.Path = "a" }), headError},
		{change(func(r *api.Request) { r.Path = "*" }), headError},
		{change(func(r *api.Request) { r.Path = "/" + long(4096) }), fieldError},
		{change(func(r *api.Request) { r.Path = "/a\n" }), fieldError},
		{get("/a", lists.Of("Accept", "x")...), fieldError},
		{get("/a", lists.Of("accept", " x")...), fieldError},
		{get("/a", lists.Of("", "x")...), fieldError},
		{get("/a", lists.Of("accept", long(4097))...), fieldError},
		{get("/a", lists.Of(":method", "GET")...), headError},
		{get("/a", lists.Of("connection", "close")...), headError},
		{get("/a", lists.Of("te", "gzip")...), headError},
		{get("/a", fields(61, 1)...), longError},
		{get("/a", append(fields(60, 1), api.Field{Name: "A"})...), longError},
		{get("/a", append(fields(59, 1), api.Field{Name: "A"})...), fieldError},
	} {
		wantRefused(b, x.r, x.want)
		x.r.Body = long(mostBody + 1) // what field says comes first
		wantRefused(b, x.r, x.want)
	}
	b.wantIdle()
	if n := b.asks(get("/a", fields(60, 1)...)); n != 1 {
		t.Errorf("P23.1: %s: a refused Ask has used up a number: %d", b.history(), n)
	}
	b.whole()
}

// TestAskOfLengths: one, two and none, right and wrong.
func TestAskOfLengths(t *testing.T) {
	b := begun(t)
	for _, body := range []string{"", "abc", long(10)} {
		right := fmt.Sprint(len(body))
		for _, s := range []string{right, "0" + right, strings.Repeat("0", 10-len(right)) + right} {
			b.wantWaits(post("/p", body, length(s)))
		}
		b.wantWaits(post("/p", body))
		b.wantWaits(post("/p", body, lists.Of("x-content-length", "7")...))
		for _, s := range []string{"1", "4", "11", "100", "65536", "2147483647", "", "-" + right, "+" + right, right + "a", "a", strings.Repeat("0", 11-len(right)) + right, "2147483648", "12345678901", "0x3"} {
			wantRefused(b, post("/p", body, length(s)), bodyError)
			wantRefused(b, by("GET", post("/p", body, length(s))), bodyError)
		}
		wantRefused(b, post("/p", body, length(right), length(right)), bodyError)
		wantRefused(b, post("/p", body, length(right), length("9")), bodyError)
	}
	wantRefused(b, post("/p", "3", length("3 ")), fieldError)
	b.whole()
}

// TestAskOfBodies: at api.MaxBody and one byte above.
func TestAskOfBodies(t *testing.T) {
	b := begun(t)
	for _, n := range []int{mostBody - 1, mostBody} {
		b.wantWaits(post("/p", long(n)))
		b.wantWaits(post("/p", long(n), length(fmt.Sprint(n))))
		b.wantWaits(by("GET", post("/p", long(n))))
	}
	for _, n := range []int{mostBody + 1, 2 * mostBody, 1 << 20} {
		wantRefused(b, post("/p", long(n)), bodyError)
		wantRefused(b, post("/p", long(n), length(fmt.Sprint(n))), bodyError)
		wantRefused(b, post("/p", long(n), fields(60, 4096)...), bodyError)
	}
	b.whole()
}

// TestAskOfLongLists: at api.MaxList and one byte above.
func TestAskOfLongLists(t *testing.T) {
	b := begun(t)
	b.wantWaits(sized(mostList - 1))
	b.wantWaits(sized(mostList))
	for _, size := range []int64{mostList + 1, mostList + 100} {
		wantRefused(b, sized(size), listError)
		r := by("POST", sized(size))
		r.Body = "body"
		wantRefused(b, r, listError)
		r.Body = long(mostBody + 1)
		wantRefused(b, r, bodyError)
	}
	wantRefused(b, get("/a", fields(60, 4096)...), listError)
	b.wantStep(0, opened(1, sized(mostList-1)))
	b.wantStep(0, opened(3, sized(mostList)))
	b.wantIdle()
	b.whole()
}

// TestManyThatWait: the 256th waits, the 257th does not, whatever the cache has.
func TestManyThatWait(t *testing.T) {
	b := flown(t, param(api.SetStreams, 1))
	b.push(1, "/b", "B")
	for i := range mostWait {
		if n := b.wantWaits(get(fmt.Sprint("/", i))); n != i+2 {
			t.Fatalf("P23.1: %s: %d", b.history(), n)
		}
	}
	for range 2 {
		wantRefused(b, get("/more"), fullError)
		wantRefused(b, get("/b"), fullError)
		wantRefused(b, sized(mostList+1), listError)
		wantRefused(b, post("/b", "body", length("1")), bodyError)
		wantRefused(b, api.Request{}, headError)
	}
	b.wantHeld(1, 1)
	b.cancel(100)
	b.wantAnswers(failed(100, cancel))
	if n := b.asks(get("/b")); n != mostWait+2 {
		t.Errorf("P23.1: %s: %d", b.history(), n)
	}
	b.wantAnswers(cached(mostWait+2, 2, "B"))
	b.wantWaits(get("/more"))
	wantRefused(b, get("/more"), fullError)
	b.reply(1, "")
	b.wantAnswers(direct(1, 1, ""))
	b.wantStep(0, opened(3, get("/0")))
	b.wantWaits(get("/more"))
	wantRefused(b, get("/more"), fullError)
	b.recv(bytes(goAwayFrame(0, 0)))
	b.wantCounts(0, 0, 0)
	b.asks(get("/more"))
	b.whole()
}

// TestAskOfMethods: any that field takes.
func TestAskOfMethods(t *testing.T) {
	b := begun(t)
	id := int64(1)
	for _, method := range []string{"GET", "HEAD", "POST", "PUT", "DELETE", "OPTIONS", "get", "a-b", "CONNECT"} {
		for _, body := range []string{"", "body"} {
			r := by(method, post("/m", body))
			if got := b.fly(r); got != id {
				t.Fatalf("P23.1: %s: stream %d, want %d", b.history(), got, id)
			}
			if body != "" {
				b.wantStep(0, dataEvent(id, body, true))
			}
			b.wantIdle()
			id += 2
		}
	}
	r := by("OPTIONS", get("*"))
	b.fly(r)
	never := get("/n", api.Field{Name: "secret", Value: "s", Never: true})
	if id := b.fly(never); !b.ear.streams[id].head[4].Never {
		t.Errorf("P23.1: %s: Never is lost", b.history())
	}
	b.whole()
}
