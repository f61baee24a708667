package field_test

import (
	"testing"

	"herald/api"
	"herald/field"
	"herald/lists"
)

// refusers are ReadRequest and ReadResponse, each with a list that it takes.
func refusers() map[string]refuser {
	return map[string]refuser{
		"ReadRequest":  {4, someRequest(), wantNoRequest},
		"ReadResponse": {1, someResponse(), wantNoResponse},
	}
}

type refuser struct {
	pseudo int // how many pseudo fields stand ahead
	right  []api.Field
	want   func(*testing.T, []api.Field, api.Errno)
}

// TestGroundsByThemselves: P13.1: one wrong field at every place of a list that is right besides.
func TestGroundsByThemselves(t *testing.T) {
	for _, c := range refusers() {
		for at := c.pseudo; at <= len(c.right); at++ {
			for _, f := range lists.Of("", "x", "A", "x", "a b", "x", "a:", "x", ":", "x", "::a", "x", ":A", "x", ":a b", "x", "a", " ", "a", "x\t", "a", "\n", "a", "x\x00x", ":method", "\r", ":unknown", " x", "connection", " close") {
				c.want(t, lists.Put(c.right, at, f), fieldError)
			}
			for _, f := range lists.Of(":method", "GET", ":scheme", "https", ":authority", "a", ":path", "/", ":status", "200", ":unknown", "x", ":protocol", "websocket", ":a", "", ":methods", "GET", ":metho", "GET", ":te", "trailers", ":connection", "close") {
				c.want(t, lists.Put(c.right, at, f), headError)
			}
			for _, name := range []string{"connection", "keep-alive", "proxy-connection", "transfer-encoding", "upgrade"} {
				for _, value := range []string{"", "x", "close", "trailers", "chunked", "h2c"} {
					c.want(t, lists.Put(c.right, at, p(name, value)), headError)
					c.want(t, lists.Put(c.right, at, never(name, value)), headError)
				}
			}
			for _, value := range []string{"", "gzip", "Trailers", "trailer", "trailerss", "trailers, gzip", "trailers,trailers", "x"} {
				c.want(t, lists.Put(c.right, at, p("te", value)), headError)
			}
		}
	}
}

// TestNotBarred: P13.1: names that are like the barred ones, and te with trailers, stand as others do.
func TestNotBarred(t *testing.T) {
	for _, f := range lists.Of("te", "trailers", "connections", "x", "connectio", "x", "keepalive", "x", "keep-alives", "x", "proxy-connections", "x", "proxy", "x", "transfer-encodings", "x", "transfer", "x", "upgrades", "x", "upgrade-insecure-requests", "1", "te-x", "gzip", "t", "gzip", "tes", "gzip", "ate", "gzip", "trailers", "te", "host", "a", "content-length", "x", "method", "GET", "path", "", "status", "0") {
		l := lists.Joined(someRequest()[:4], f, f)
		wantRequest(t, l, api.Request{Method: "GET", Scheme: "https", Authority: "a.test", Path: "/p", Fields: []api.Field{f, f}})
		wantResponse(t, lists.Joined(lists.Of(":status", "599"), f), api.Response{Status: 599, Fields: []api.Field{f}})
	}
}

// TestOrderOfErrors: P13.1: each ground is looked for over the whole list ahead of the next one.
func TestOrderOfErrors(t *testing.T) {
	inField := lists.Of("A", "x", "", "", "a", " ", ":", "x", ":path", "/\n")
	inHead := lists.Of(":unknown", "x", "connection", "close", "te", "x", ":path", "a", ":status", "20", ":method", "GET")
	for _, c := range refusers() {
		for at := range len(c.right) + 1 {
			for _, wrong := range inField {
				for _, head := range inHead {
					for behind := range len(c.right) + 2 {
						both := lists.Put(lists.Put(c.right, at, wrong), behind, head)
						c.want(t, both, fieldError)
						if at == 0 || behind == 0 || behind == len(c.right)+1 {
							c.want(t, lists.Filled(both, 64), fieldError)
							c.want(t, lists.Filled(both, 65), longError)
							c.want(t, lists.Joined(lists.Filled(nil, 64-len(both)), both...), fieldError)
							c.want(t, lists.Joined(lists.Filled(nil, 65-len(both)), both...), longError)
						}
					}
				}
			}
			for _, head := range inHead {
				c.want(t, lists.Filled(lists.Put(c.right, at, head), 65), longError)
			}
			if t.Failed() {
				return
			}
		}
		for i := range c.pseudo {
			c.want(t, lists.Put(lists.Without(c.right, i), 0, inField[0]), fieldError)
			c.want(t, lists.Joined(lists.Without(c.right, i), inField[2]), fieldError)
			c.want(t, lists.Filled(lists.Without(c.right, i), 65), longError)
		}
	}
	wantNoRequest(t, make([]api.Field, 64), fieldError)
	wantNoRequest(t, make([]api.Field, 65), longError)
	wantNoResponse(t, make([]api.Field, 64), fieldError)
	wantNoResponse(t, make([]api.Field, 65), longError)
}

// TestNumbersOfFields: P13.1: every number of fields around the greatest, right ones and plain ones alone.
func TestNumbersOfFields(t *testing.T) {
	for _, n := range []int{1, 2, 3, 4, 5, 6, 32, 62, 63, 64} {
		wantNoRequest(t, lists.Filled(nil, n), headError)
		wantNoResponse(t, lists.Filled(nil, n), headError)
		if n >= 4 {
			l := lists.Filled(someRequest()[:4], n)
			wantRequest(t, l, api.Request{Method: "GET", Scheme: "https", Authority: "a.test", Path: "/p", Fields: l[4:]})
		}
		l := lists.Filled(someResponse()[:1], n)
		wantResponse(t, l, api.Response{Status: 204, Fields: l[1:]})
	}
	for _, n := range []int{65, 66, 128, 256, 256 + 64, 1 << 16, 1<<16 + 5} {
		wantNoRequest(t, lists.Filled(someRequest(), n), longError)
		wantNoResponse(t, lists.Filled(someResponse(), n), longError)
		wantNoRequest(t, lists.Filled(nil, n), longError)
	}
	// Even where every field is the same, it is many.
	same := lists.Filled(nil, 1)
	for len(same) < 65 {
		same = append(same, same[0])
	}
	wantNoRequest(t, same, longError)
	wantNoRequest(t, same[1:], headError)
}

// TestOrdersOfPseudoFields: P13.1: all orders, with none left out, some left out, and with plain fields behind.
func TestOrdersOfPseudoFields(t *testing.T) {
	head := someRequest()[:4]
	request := api.Request{Method: "GET", Scheme: "https", Authority: "a.test", Path: "/p"}
	for some := range 16 {
		var left []api.Field
		for i, f := range head {
			if some&(1<<i) != 0 {
				left = append(left, f)
			}
		}
		for _, l := range orders(left) {
			for _, plain := range [][]api.Field{nil, lists.Of("a", "b"), someRequest()[4:]} {
				whole := lists.Joined(l, plain...)
				if some == 15 {
					request.Fields = plain
					wantRequest(t, whole, request)
				} else {
					wantNoRequest(t, whole, headError)
				}
				wantNoResponse(t, whole, headError)
			}
		}
	}
}

// TestWithoutTwiceBehind: P13.3: of lists that are taken, with each pseudo field left out, twice at every two places, and behind each plain field.
func TestWithoutTwiceBehind(t *testing.T) {
	for _, c := range refusers() {
		for _, right := range [][]api.Field{c.right, c.right[:c.pseudo], c.right[:c.pseudo+1], lists.Filled(c.right, 63), lists.Filled(c.right, 64)} {
			for i := range c.pseudo {
				less := lists.Without(right, i)
				c.want(t, less, headError)
				twiceError := headError
				if len(right) == 64 {
					twiceError = longError
				}
				for at := range len(right) + 1 {
					c.want(t, lists.Put(right, at, right[i]), twiceError)
					c.want(t, lists.Put(right, at, p(right[i].Name, "201")), twiceError)
				}
				for at := c.pseudo; at < len(right); at++ {
					c.want(t, lists.Put(less, at, right[i]), headError)
				}
			}
		}
	}
}

// TestOtherKindsPseudoFields: P13.3: a list with the pseudo fields of both kinds is neither's; no list is both's.
func TestOtherKindsPseudoFields(t *testing.T) {
	all := lists.Joined(someRequest()[:4], p(":status", "200"))
	for some := range 32 {
		var l []api.Field
		for i, f := range all {
			if some&(1<<i) != 0 {
				l = append(l, f)
			}
		}
		for _, whole := range [][]api.Field{l, lists.Joined(l, p("a", "b"))} {
			wantRead(t, whole)
			_, qe := field.ReadRequest(whole)
			_, re := field.ReadResponse(whole)
			if (qe == api.OK) != (some == 15) || (re == api.OK) != (some == 16) {
				t.Errorf("P13.3: of %s a request's list: %d, a response's: %d", lists.Shown(whole), qe, re)
			}
		}
	}
}

// TestUnknownPseudoFields: P13.1: one that no list has, ahead, between, behind, and instead of one that must be.
func TestUnknownPseudoFields(t *testing.T) {
	for _, c := range refusers() {
		for _, name := range []string{":a", ":protocol", ":method-", ":pat", ":paths", ":schemes", ":sstatus", ":-", ":~", ":connection", ":te", ":host"} {
			for at := range len(c.right) + 1 {
				c.want(t, lists.Put(c.right, at, p(name, "x")), headError)
			}
			for i := range c.pseudo {
				c.want(t, lists.Instead(c.right, i, p(name, c.right[i].Value)), headError)
				c.want(t, lists.Instead(c.right, i, p(c.right[i].Name[1:], c.right[i].Value)), headError)
			}
		}
	}
}

// TestNever: P13.1: a plain field's Never stays; a pseudo field's is nothing to a request, and is not written.
func TestNever(t *testing.T) {
	for some := range 64 {
		l := lists.Joined(someRequest()[:4], p("a", "1"), p("b", "2"))
		for i := range l {
			l[i].Never = some&(1<<i) != 0
		}
		q := api.Request{Method: "GET", Scheme: "https", Authority: "a.test", Path: "/p", Fields: l[4:]}
		wantRequest(t, l, q)
		back, e := field.WriteRequest(q)
		if e != api.OK || !lists.Same(back, lists.Joined(someRequest()[:4], l[4:]...)) {
			t.Errorf("P13.1: WriteRequest(%s) = %s, %d", lists.ShownRequest(q), lists.Shown(back), e)
		}
		l = lists.Joined(lists.Of(":status", "200"), l[4:]...)
		l[0].Never = some&1 != 0
		r := api.Response{Status: 200, Fields: l[1:]}
		wantResponse(t, l, r)
		back, e = field.WriteResponse(r)
		if e != api.OK || !lists.Same(back, lists.Joined(lists.Of(":status", "200"), l[1:]...)) {
			t.Errorf("P13.1: WriteResponse(%s) = %s, %d", lists.ShownResponse(r), lists.Shown(back), e)
		}
	}
}
