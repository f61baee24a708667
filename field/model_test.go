package field_test

import (
	"fmt"
	"strconv"
	"strings"

	"herald/api"
	"herald/lists"
)

// The model has the bytes of each word written out, and looks for each ground over
// the whole list anew, in the chapter's words; a list's pseudo fields it counts.

const (
	letters  = "abcdefghijklmnopqrstuvwxyz"
	capitals = "ABCDEFGHIJKLMNOPQRSTUVWXYZ"
	digits   = "0123456789"
	marks    = "!#$%&'*+-.^_~|\x60"
	visible  = "!\"#$%&'()*+,-./" + digits + ":;<=>?@" + capitals + "[\\]^_\x60" + letters + "{|}~"

	longError  = api.Errno(3)
	fieldError = api.Errno(130)
	headError  = api.Errno(131)
	least      = -1 << 63
	greatest   = 1<<63 - 1
)

// word tells whether a text has so many bytes, each one of a set.
func word(s string, low, up int, set string) bool {
	of := 0
	for i := 0; i < len(s); i++ {
		if strings.IndexByte(set, s[i]) >= 0 {
			of++
		}
	}
	return low <= len(s) && len(s) <= up && of == len(s)
}

func modelName(s string) bool { return word(s, 1, 64, letters+digits+marks) }

func modelPseudo(s string) bool { return s != "" && s[0] == 58 && modelName(s[1:]) }

func modelValue(s string) bool {
	for i, b := range []byte(s) {
		switch b {
		case 0, 10, 13:
			return false
		case 32, 9:
			if i == 0 || i == len(s)-1 {
				return false
			}
		}
	}
	return len(s) <= 4096
}

func modelMethod(s string) bool { return word(s, 1, 64, letters+capitals+digits+marks) }

func modelScheme(s string) bool {
	return word(s, 1, 64, letters+digits+"+-.") && word(s[:1], 1, 1, letters)
}

func modelAuthority(s string) bool { return word(s, 1, 4096, visible) }

func modelPath(s string) bool { return word(s, 1, 4096, visible) && s[0] == 47 }

func modelStatus(s string) bool {
	for n := 100; n <= 599; n++ {
		if s == strconv.Itoa(n) {
			return true
		}
	}
	return false
}

func modelBarred(f api.Field) bool {
	for _, name := range []string{"connection", "keep-alive", "proxy-connection", "transfer-encoding", "upgrade"} {
		if f.Name == name {
			return true
		}
	}
	return f.Name == "te" && f.Value != "trailers"
}

// kinds are the pseudo fields that a list must have.
type kinds map[string]func(string) bool

func requestKinds(l []api.Field) kinds {
	k := kinds{":method": modelMethod, ":scheme": modelScheme, ":authority": modelAuthority, ":path": modelPath}
	for _, f := range l {
		if f.Name == ":method" && f.Value == "OPTIONS" {
			k[":path"] = func(s string) bool { return s == "*" || modelPath(s) }
		}
	}
	return k
}

func responseKinds() kinds { return kinds{":status": modelStatus} }

func modelError(l []api.Field, must kinds) api.Errno {
	if len(l) >= 65 {
		return longError
	}
	for _, f := range l {
		if !modelName(f.Name) && !modelPseudo(f.Name) || !modelValue(f.Value) {
			return fieldError
		}
	}
	for name, right := range must {
		count := 0
		for _, f := range l {
			if f.Name == name {
				count++
			}
			if f.Name == name && !right(f.Value) {
				return headError
			}
		}
		if count != 1 {
			return headError
		}
	}
	behind := false
	for _, f := range l {
		plain := modelName(f.Name)
		if plain && modelBarred(f) || !plain && (must[f.Name] == nil || behind) {
			return headError
		}
		behind = behind || plain
	}
	return 0
}

func modelPlain(l []api.Field) []api.Field {
	var plain []api.Field
	for _, f := range l {
		if modelName(f.Name) {
			plain = append(plain, f)
		}
	}
	return plain
}

func modelRequest(l []api.Field) (api.Request, api.Errno) {
	if e := modelError(l, requestKinds(l)); e != 0 {
		return api.Request{}, e
	}
	r := api.Request{Fields: modelPlain(l)}
	for _, f := range l {
		switch f.Name {
		case ":method":
			r.Method = f.Value
		case ":scheme":
			r.Scheme = f.Value
		case ":authority":
			r.Authority = f.Value
		case ":path":
			r.Path = f.Value
		}
	}
	return r, 0
}

func modelResponse(l []api.Field) (api.Response, api.Errno) {
	if e := modelError(l, responseKinds()); e != 0 {
		return api.Response{}, e
	}
	r := api.Response{Fields: modelPlain(l)}
	for n := 100; n <= 599; n++ {
		for _, f := range l {
			if f.Name == ":status" && f.Value == strconv.Itoa(n) {
				r.Status = n
			}
		}
	}
	return r, 0
}

func modelRequestList(r api.Request) []api.Field {
	return lists.Joined(lists.Of(":method", r.Method, ":scheme", r.Scheme, ":authority", r.Authority, ":path", r.Path), r.Fields...)
}

func modelResponseList(r api.Response) []api.Field {
	return lists.Joined(lists.Of(":status", fmt.Sprintf("%d", r.Status)), r.Fields...)
}

// What the tests make their lists of.

func p(name, value string) api.Field { return api.Field{Name: name, Value: value} }

func never(name, value string) api.Field { return api.Field{Name: name, Value: value, Never: true} }

// orders are all orders of a list.
func orders(l []api.Field) [][]api.Field {
	if len(l) == 0 {
		return [][]api.Field{nil}
	}
	var all [][]api.Field
	for i := range l {
		for _, rest := range orders(lists.Without(l, i)) {
			all = append(all, lists.Put(rest, 0, l[i]))
		}
	}
	return all
}
